/-
  The law RunTables holds at every list of pieces: a table of any pieces, or the first that may not be, are the document's: its pairs, by rising codes.
  Conditions: none beyond the row's own.
-/
import Derived.Test.YtealeedbkjiabaaDoorTb23
import Derived.ChangeMaps
namespace Go.Proofs.YtealeedbkjiabaaDoor.runTables
open Go Go.Proofs.YtealeedbkjiabaaDoor Go.ChangeShapes Go.WideShapes Go.ChangeAt Go.RowKit
open Go.ChangeMaps (open_string shut_string)
set_option linter.unusedSimpArgs false
set_option linter.unusedVariables false

theorem mid_of {vs : List Pv} (hl : lightP vs = true) (hw : WideP vs) : Mid vs := by
  unfold lightP at hl
  simp only [Bool.and_eq_true, List.all_eq_true, decide_eq_true_eq] at hl
  refine ⟨by omega, fun p hp => ?_⟩
  have := (lightOne_iff p).1 (hl.2 p hp)
  exact ⟨hw p hp, by omega, by omega⟩
theorem walk_no (a0 : Option Addr) (len0 cap0 : Nat) (vs : List Pv) (W : World) (hT : Tabs W) (h : IsPieces W a0 len0 cap0 vs) (hl : lightP vs = false) :
    Calls Tryd.prog 3 #[.slice a0 len0 cap0] W fun e w' => e = .returned (.bool true) ∧ Ext W w' := by
  have HL := light_row h
  rw [hl] at HL
  have HLL := Lib.hid HL
  have HT := Lib.hid hT
  clear HL hT
  go_enter Tryd.func3, Tryd.ntmps3
  go_wp2_with (first
    | (go_at_call 12; refine HLL.out.mono ?_; rintro e w1 ⟨rfl, hb1⟩)
    | (go_at_call 13; refine (awake4 _ (HT.out.ext hb1)).mono ?_; rintro e w2 ⟨rfl, hb2⟩))
  go_ret
  exact ⟨rfl, hb1.trans hb2⟩
set_option maxRecDepth 100000 in
set_option maxHeartbeats 4000000 in
theorem walk_bad (a0 : Option Addr) (cap0 : Nat) (vs : List Pv) (p : Int) (W : World) (hT : Tabs W) (h : IsPieces W a0 vs.length cap0 vs) (hl : lightP vs = true) (hw : WideP vs) (hp : (madeP vs).2 = p) (hp0 : ¬ p < 0) :
    Calls Tryd.prog 3 #[.slice a0 vs.length cap0] W fun e w' => e = .returned (.bool true) ∧ Ext W w' := by
  have HL := light_row h
  rw [hl] at HL
  have HLL := Lib.hid HL
  have hC := KeepT.start hT
  have hnil : tabL vs = [] := madeGo_neg vs [] 0 (by show ¬ (madeP vs).2 < 0; rw [hp]; exact hp0)
  have HN : Hid (∀ w, Tabs w → Ext W w → Calls Tryd.prog 14 #[.slice a0 vs.length cap0] w fun e w' => ∃ v, e = .returned (.tuple #[v, .agg #[.int .i64 5, .int .i64 p]]) ∧ IsTab w' v [] ∧ Ext w w') := fun w hT x => by
    refine (new_tab a0 cap0 vs w hT (h.ext x) (mid_of hl hw)).mono ?_
    rintro e w' ⟨v, er, pl, rfl, h1, h2 | h2, h3⟩
    · rw [hp] at h2
      exact absurd h2.1 hp0
    · obtain ⟨_, rfl, rfl⟩ := h2
      rw [hnil] at h1
      rw [hp]
      exact ⟨v, rfl, h1, h3⟩
  have HM : Hid (∀ w, Ext W w → Calls Tryd.prog 15 #[.slice a0 vs.length cap0] w fun e w' => e = .returned (.tuple #[.slice none 0 0, .int .i64 p]) ∧ Ext w w') := fun w x => by
    refine (made_any a0 cap0 vs w (h.ext x) hl).mono ?_
    rintro e w' ⟨h1, h2 | h2⟩
    · rw [hp] at h2
      exact absurd h2.1 hp0
    · rw [hp] at h2
      exact ⟨h2.2, h1⟩
  have hp1 : 0 ≤ p := by omega
  clear HL hT hnil hp h
  go_enter Tryd.func3, Tryd.ntmps3
  go_wp2_with (first
    | (go_at_call 12; refine HLL.out.mono ?_; rintro e w1 ⟨rfl, hb1⟩; have hC' := hC.ext hb1; clear hC hb1; have hC := hC'; clear hC')
    | (go_at_call 14; refine (HN.out _ hC.tb hC.ex).mono ?_; rintro e w2 ⟨v, rfl, ht, hb2⟩; obtain ⟨ta, n1, tc, tb, n2, td, rfl⟩ := ht.open; have hC' := ((hC.ext hb2).tab ht).four (.slice ta n1 tc) (.slice tb n2 td) 27 (.int .i64 5) (.int .i64 p) 30; clear hC hb2 ht; have hC := hC'; clear hC'; obtain ⟨c1, c2, c3, c4, _⟩ := hC.c)
    | (go_at_call 15; refine (HM.out _ hC.ex).mono ?_; rintro e w3 ⟨rfl, hb3⟩; have hC' := hC.ext hb3; clear hC hb3 c1 c2 c3 c4; have hC := hC'; clear hC'; obtain ⟨c1, c2, c3, c4, _⟩ := hC.c)
    | (go_at_call 13; refine (awake4 _ hC.tb).mono ?_; rintro e w4 ⟨rfl, hb4⟩; have hC' := hC.ext hb4; clear hC hb4 c1 c2 c3 c4; have hC := hC'; clear hC'; obtain ⟨c1, c2, c3, c4, _⟩ := hC.c)
    | (go_at_call 16; refine (table_size _ _ _ hC.t.1).mono ?_; rintro e w5 ⟨rfl, hb5⟩; have hC' := hC.ext hb5; clear hC hb5 c1 c2 c3 c4; have hC := hC'; clear hC'; obtain ⟨c1, c2, c3, c4, _⟩ := hC.c))
  go_ret
  exact ⟨by simp, hC.ex⟩
set_option maxRecDepth 100000 in
set_option maxHeartbeats 4000000 in
theorem walk_ok (a0 : Option Addr) (cap0 : Nat) (vs : List Pv) (W : World) (hT : Tabs W) (h : IsPieces W a0 vs.length cap0 vs) (hl : lightP vs = true) (hw : WideP vs) (hp : (madeP vs).2 < 0) :
    Calls Tryd.prog 3 #[.slice a0 vs.length cap0] W fun e w' => e = .returned (.bool true) ∧ Ext W w' := by
  have HL := light_row h
  rw [hl] at HL
  have HLL := Lib.hid HL
  have hC := KeepT.start hT
  have HN : Hid (∀ w, Tabs w → Ext W w → Calls Tryd.prog 14 #[.slice a0 vs.length cap0] w fun e w' => ∃ v, e = .returned (.tuple #[v, .agg #[.int .i64 0, .int .i64 0]]) ∧ IsTab w' v (tabL vs) ∧ Ext w w') := fun w hT x => by
    refine (new_tab a0 cap0 vs w hT (h.ext x) (mid_of hl hw)).mono ?_
    rintro e w' ⟨v, er, pl, rfl, h1, h2 | h2, h3⟩
    · obtain ⟨_, rfl, rfl⟩ := h2
      exact ⟨v, rfl, h1, h3⟩
    · exact absurd hp h2.1
  have HM : Hid (∀ w, Ext W w → Calls Tryd.prog 15 #[.slice a0 vs.length cap0] w fun e w' => ∃ a cap, e = .returned (.tuple #[.slice a (tabL vs).length cap, .int .i64 (-1)]) ∧ IsPairs w' a (tabL vs).length cap (tabL vs) ∧ Ext w w') := fun w x => by
    refine (made_any a0 cap0 vs w (h.ext x) hl).mono ?_
    rintro e w' ⟨h1, h2 | h2⟩
    · obtain ⟨_, a, c, rfl, h3⟩ := h2
      exact ⟨a, c, rfl, h3, h1⟩
    · exact absurd hp h2.1
  clear HL hT hp h
  generalize tabL vs = l at HN HM
  go_enter Tryd.func3, Tryd.ntmps3
  go_wp2_with (first
    | (go_at_call 12; refine HLL.out.mono ?_; rintro e w1 ⟨rfl, hb1⟩; have hC' := hC.ext hb1; clear hC hb1; have hC := hC'; clear hC')
    | (go_at_call 14; refine (HN.out _ hC.tb hC.ex).mono ?_; rintro e w2 ⟨v, rfl, ht, hb2⟩; obtain ⟨ta, n1, tc, tb, n2, td, rfl⟩ := ht.open; have hC' := ((hC.ext hb2).tab ht).four (.slice ta n1 tc) (.slice tb n2 td) 27 (.int .i64 0) (.int .i64 0) 30; clear hC hb2 ht; have hC := hC'; clear hC'; obtain ⟨c1, c2, c3, c4, _⟩ := hC.c)
    | (go_at_call 15; refine (HM.out _ hC.ex).mono ?_; rintro e w3 ⟨pa, pc, rfl, hpr, hb3⟩; have HPR := Lib.hid hpr; have hC' := hC.ext hb3; clear hC hb3 hpr c1 c2 c3 c4; have hC := hC'; clear hC'; have hX := Ext.refl w3; obtain ⟨c1, c2, c3, c4, _⟩ := hC.c)
    | (go_at_call 13; refine (awake4 _ hC.tb).mono ?_; rintro e w4 ⟨rfl, hb4⟩; have hC' := hC.ext hb4; have hX' := hX.trans hb4; clear hC hb4 hX c1 c2 c3 c4; have hC := hC'; have hX := hX'; clear hC' hX'; obtain ⟨c1, c2, c3, c4, _⟩ := hC.c)
    | (go_at_call 17; refine (bad_no _ _ _ (by decide)).mono ?_; rintro e w5 ⟨rfl, hb5⟩; have hC' := hC.ext hb5; have hX' := hX.trans hb5; clear hC hb5 hX c1 c2 c3 c4; have hC := hC'; have hX := hX'; clear hC' hX'; obtain ⟨c1, c2, c3, c4, _⟩ := hC.c)
    | (go_at_call 18; refine (is_yes _ _ _ _ _ hC.t.1 (HPR.out.ext hX)).mono ?_; rintro e w6 ⟨rfl, hb6⟩; have hC' := hC.ext hb6; clear hC hb6 c1 c2 c3 c4; have hC := hC'; clear hC'; obtain ⟨c1, c2, c3, c4, _⟩ := hC.c))
  go_ret
  exact ⟨rfl, hC.ex⟩
theorem walk (a0 : Option Addr) (len0 cap0 : Nat) (vs : List Pv) {W0 : World} (hh : IsPieces W0 a0 len0 cap0 vs ∧ WideP vs) (W : World) (e : W0 = W) (hT : Tabs W) :
    Calls Tryd.prog 3 #[.slice a0 len0 cap0] W fun e w' => e = .returned (.bool true) ∧ Ext W w' := by
  subst e
  obtain ⟨h, hw⟩ := hh
  cases hl : lightP vs with
  | false => exact walk_no a0 len0 cap0 vs _ hT h hl
  | true =>
    obtain rfl : vs.length = len0 := h.1
    by_cases hp : (madeP vs).2 < 0
    · exact walk_ok a0 cap0 vs _ hT h hl hw hp
    · exact walk_bad a0 cap0 vs _ _ hT h hl hw rfl hp
set_option maxRecDepth 100000 in
theorem lifted (os : Os) (started : os.Started) (H : Type) (enc : TypeId × Value → H) :
    ReturnsInHanded {} Tryd.checked os 3 .any (fun w args => (Rows.runTablesSpec.pre enc Tryd.prog Tryd.f3 Rows.runTablesRow.domain false w args ∧ laidMetH Tryd.prog Rows.runTablesRow.laid w) ∧ sizedMet enc Tryd.prog Tryd.f3 (OpenSpec.ofChange Rows.runTablesSpec) false w args)
      (Rows.runTablesSpec.post enc Tryd.prog Tryd.f3 false true false false) := by
  refine returnsInHanded_of_change_and (C := Tryd.checked) (X := fun w _ => laidMetH Tryd.prog Rows.runTablesRow.laid w) (fun _ _ _ hh h => h.of_heap hh) own started (by kernel_rfl) Tryd.func3
    (ChangeSpec.witness_shaped (enc := enc) (C := Tryd.checked) (os := os) (X := fun w _ => laidMetH Tryd.prog Rows.runTablesRow.laid w) false (World.laidAll Tryd.prog os Rows.runTablesRow.laid) #[.slice none 0 0] 8 (World.laidAll_os _ _ _)
      (World.shaped_of_ZipB (by kernel_rfl) (by kernel_rfl)) (by kernel_rfl) (by kernel_rfl) (by kernel_rfl)
      (by rw [MakeChecks.laidMetH_plain _ _ _ (by kernel_rfl)]; exact laidMet_laidAll _ (by kernel_rfl) (by kernel_rfl))) ?_
  intro W base args ds gs before hval0 hW hcnd _ hL _
  have hT : Tabs W := tabs_of hL
  have hval : ∀ (j : Nat) t v, Tryd.f3.params[j]? = some t → args[j]? = some v → Value.okWide Tryd.prog W .any base t v := hval0
  have hW' := hW
  obtain ⟨p, q, hA0, hV, rfl, hfz, hnd⟩ := hW
  have hA : DataW.TrodAll enc Tryd.prog W 0 (fun _ => true) true Tryd.f3.params.toList args.toList ds p := hA0
  rw [Tryd.params3] at hA hval
  obtain ⟨v0, vs0, d0, ds0, p0, q0, hargs, rfl, rfl, h0, r0⟩ := trodAll_cons hA
  obtain ⟨rfl, rfl, rfl⟩ := trodAll_nil r0
  obtain rfl : args = #[v0] := by cases args; simp_all
  obtain ⟨rfl, rfl⟩ := trodVars_none hV
  obtain ⟨a0, len0, cap0, rfl⟩ := okWide_slice Tryd.underlying22 (hval 0 22 v0 rfl rfl)
  have k0 := h0
  have lt0 : ∀ x ∈ p0, x.block < W.heap.size := by obtain ⟨m, hm⟩ := k0; exact DataW.trod_lt m _ _ _ hm
  obtain ⟨z0, w0⟩ : ∃ vs, IsPieces W a0 len0 cap0 vs ∧ WideP vs := by
    obtain ⟨fuel, hf⟩ := h0
    rcases Go.Deep.open_slice Tryd.underlying22 hf with ⟨hcs, _⟩ | ⟨x, len', cap', m, nn, D, Pl, hcs, _, hl, hm, hmm, hx, hi⟩
    · simp [Value.cells] at hcs
      obtain ⟨rfl, rfl, rfl⟩ := hcs
      exact ⟨[], ⟨rfl, .inl rfl⟩, fun p hp => by simp at hp⟩
    · simp [Value.cells] at hcs
      obtain ⟨rfl, rfl, rfl⟩ := hcs
      exact pieces_of hl (fun i hil => by
        have c45 : Tryd.prog.cellsOf 74 = 4 := by kernel_rfl
        have him : i < m := by rw [hmm]; split <;> omega
        obtain ⟨cs', hc, ht'⟩ := hi i him
        rw [c45] at hc
        obtain ⟨_, hcl, hat⟩ := World.cells?_some hc
        obtain ⟨k0, k1, k2, k3, rfl, k5⟩ := piece_read hcl ht'
        have e0 := hat 0 (by omega)
        have e1 := hat 1 (by omega)
        have e2 := hat 2 (by omega)
        have e3 := hat 3 (by omega)
        rw [Go.Deep.add_add] at e0 e1 e2 e3
        exact ⟨k0, k1, k2, k3, k5, e0, e1, e2, e3⟩)
  clear hA0 hval0
  refine (walk a0 len0 cap0 z0 w0 W rfl hT).mono fun e W' ⟨he, bel⟩ => ?_
  subst he
  exact ⟨_, rfl, _, _, _, [], _, [], hW', trodAll_mk1 (shut_bool Tryd.underlying4 _), (trodAll_cons_mk (Below.trod laidOut (by kernel_rfl) (of_decide_eq_true (by kernel_rfl)) k0 bel lt0) trodAll_mk0), rfl, bel.frame _, fun h => by cases h⟩

theorem over : Rows.runTablesRow.holds Tryd.pinned (OpenSpec.ofChange Rows.runTablesSpec) :=
  OpenClaim.holds_of_wide 3 Tryd.f3 rfl rfl rfl rfl rfl rfl rfl ⟨rfl, rfl, rfl, rfl, rfl⟩ rfl rfl rfl rfl rfl (by kernel_rfl) Tryd.func3 (by kernel_rfl)
    (of_decide_eq_true (by kernel_rfl)) (by unfold Func.isWrapper; first | (rw [if_pos (by decide +kernel)]; kernel_rfl) | (rw [if_neg (by decide +kernel)]; exact ⟨rfl, rfl⟩))
    (fun os started H enc _ => lifted os started H enc)

theorem said : Rows.RunTablesSaid := over
theorem plain (f : FuncId) (fn : Func) (hf : Tryd.pinned.checked.prog.funcNamed "diacritic/diacriticlaw04.RunTables" = some f) (hfn : Tryd.pinned.checked.prog.funcs[f]? = some fn) :
    false = Tryd.pinned.checked.prog.looks [] ∧ ∀ (j : Nat) t, fn.params[j]? = some t → Tryd.pinned.checked.prog.wantsStandIn t = false := by
  obtain rfl : f = 3 := Option.some.inj ((show Tryd.prog.funcNamed "diacritic/diacriticlaw04.RunTables" = some 3 by kernel_rfl).symm.trans hf) |>.symm
  obtain rfl : fn = Tryd.f3 := (Option.some.inj (Tryd.func3.symm.trans hfn)).symm
  refine ⟨by kernel_rfl, fun j t ht => ?_⟩
  rw [Tryd.params3] at ht
  have hm : t ∈ [22] := by simpa using Array.mem_of_getElem? ht
  have hall : ([22].all fun u => !Tryd.prog.wantsStandIn u) = true := by kernel_rfl
  exact (show Tryd.prog.wantsStandIn t = false by simpa using List.all_eq_true.1 hall t hm)
/-- THE CARD. -/
theorem proved : Rows.RunTablesCardSaid :=
  Claim7.holds_tied_plain_at .later [] _ _ _ _ said (fun _ h => by cases h) (by kernel_rfl) (fun _ h => by cases h) runTables_row_tie rfl ⟨rfl, rfl⟩ (by kernel_rfl) rfl plain (by kernel_rfl)
#print axioms proved

end Go.Proofs.YtealeedbkjiabaaDoor.runTables
