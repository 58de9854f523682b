/-
  The law RunBack holds at every list of pieces: each code's sign leads back to a code of that sign, not above it; the pairs rise.
  Conditions: none beyond the row's own.
-/
import Derived.Test.YtealeedbkjiabaaDoorTb23
import Derived.ChangeMaps
namespace Go.Proofs.YtealeedbkjiabaaDoor.runBack
open Go Go.Proofs.YtealeedbkjiabaaDoor Go.ChangeShapes Go.WideShapes Go.ChangeAt Go.RowKit
open Go.ChangeMaps (open_string shut_string)
set_option linter.unusedSimpArgs false
set_option linter.unusedVariables false

theorem mid_of {vs : List Pv} (hl : lightP vs = true) (hw : WideP vs) : Mid vs := by
  unfold lightP at hl
  simp only [Bool.and_eq_true, List.all_eq_true, decide_eq_true_eq] at hl
  refine ⟨by omega, fun p hp => ?_⟩
  have := (lightOne_iff p).1 (hl.2 p hp)
  exact ⟨hw p hp, by omega, by omega⟩
theorem KeepT.tail2 {W w : World} {a b : Addr × Value} {cs : List (Addr × Value)} {ts : List (Value × List Pr)} (h : KeepT W (a :: b :: cs) ts w) : KeepT W cs ts w := ⟨h.ex, h.tb, h.c.2.2, h.t⟩
theorem next_rise {l : List Pr} (h : Rising l) {i k : Nat} {p q : Pr} (hp : l[i]? = some p) (hq : l[k]? = some q) (hik : i < k) : p.1 < q.1 := by
  obtain ⟨hi, rfl⟩ := List.getElem?_eq_some_iff.1 hp
  obtain ⟨hk, rfl⟩ := List.getElem?_eq_some_iff.1 hq
  exact List.pairwise_iff_getElem.1 h i k hi hk hik
theorem walk_no (a0 : Option Addr) (len0 cap0 : Nat) (vs : List Pv) (W : World) (hT : Tabs W) (h : IsPieces W a0 len0 cap0 vs) (hl : lightP vs = false) :
    Calls Tryd.prog 6 #[.slice a0 len0 cap0] W fun e w' => e = .returned (.bool true) ∧ Ext W w' := by
  have HL := light_row h
  rw [hl] at HL
  have HLL := Lib.hid HL
  have HT := Lib.hid hT
  clear HL hT
  go_enter Tryd.func6, Tryd.ntmps6
  go_wp2_with (first
    | (go_at_call 12; refine HLL.out.mono ?_; rintro e w1 ⟨rfl, hb1⟩)
    | (go_at_call 13; refine (awake4 _ (HT.out.ext hb1)).mono ?_; rintro e w2 ⟨rfl, hb2⟩))
  go_ret
  exact ⟨rfl, hb1.trans hb2⟩
set_option maxRecDepth 100000 in
set_option maxHeartbeats 4000000 in
theorem walk_yes (a0 : Option Addr) (cap0 : Nat) (vs : List Pv) (l : List Pr) (W : World) (hT : Tabs W)
    (HTB : Hid (∀ w, Tabs w → Ext W w → Calls Tryd.prog 23 #[.slice a0 vs.length cap0] w fun e w' => ∃ v, e = .returned v ∧ IsTab w' v l ∧ Ext w w'))
    (HLL : Hid (Calls Tryd.prog 12 #[.slice a0 vs.length cap0] W fun e w' => e = .returned (.bool true) ∧ Ext W w'))
    (hlen : l.length ≤ 3600) (HR : Hid (Rising l)) (HF0 : Hid (From0 l)) :
    Calls Tryd.prog 6 #[.slice a0 vs.length cap0] W fun e w' => e = .returned (.bool true) ∧ Ext W w' := by
  have hC := KeepT.start hT
  clear hT
  go_enter Tryd.func6, Tryd.ntmps6
  go_wp2_with (first
    | (go_at_call 12; refine HLL.out.mono ?_; rintro e w1 ⟨rfl, hb1⟩; have hC' := hC.ext hb1; clear hC hb1; have hC := hC'; clear hC')
    | (go_at_call 23; refine (HTB.out _ hC.tb hC.ex).mono ?_; rintro e w2 ⟨v, rfl, ht, hb2⟩; obtain ⟨ta, n1, tc, tb, n2, td, rfl⟩ := ht.open; have hC' := ((hC.ext hb2).tab ht).two (.slice ta n1 tc) (.slice tb n2 td) 27; clear hC hb2 ht; have hC := hC'; clear hC'; obtain ⟨c1, c2, _⟩ := hC.c)
    | (go_at_call 26; refine (table_pairs _ l _ hC.t.1).mono ?_; rintro e w3 ⟨pa, pc, rfl, hpr, hb3⟩; have HPR := Lib.hid hpr; have hC' := hC.ext hb3; clear hC hb3 hpr c1 c2; have hC := hC'; clear hC'; obtain ⟨c1, c2, _⟩ := hC.c))
  go_loopw [4, 22] (fun lv i wr => ∃ (j : Nat) (z : Int), j ≤ l.length ∧ lv = .int .i64 z ∧ i = .int .i64 j ∧ KeepT W [(⟨w2.heap.size, 0, none⟩, .slice ta n1 tc), (⟨w2.heap.size, 1, none⟩, .slice tb n2 td)] [(.agg #[.slice ta n1 tc, .slice tb n2 td], l)] wr ∧ Ext w3 wr ∧ Hid (∀ (k : Nat) (q : Pr), j ≤ k → l[k]? = some q → z < q.1)) (fun _ i _ => l.length - (intOf i).toNat)
  case atStart => exact ⟨0, -1, by omega, rfl, rfl, hC, Ext.refl _, fun k q _ hq => by have := HF0.out q (List.mem_of_getElem? hq); omega⟩
  case round =>
    obtain ⟨j, z, hj, rfl, rfl, hK, hX, HZ⟩ := hrel
    clear hC c1 c2
    by_cases hlt : j < l.length
    · obtain ⟨x, off, ⟨qc, qp⟩, rfl, hxl, hq, hc⟩ := pairs_cell HPR.out hlt
      obtain ⟨a0', a1'⟩ := hc wr hX
      simp only at a0' a1'
      have hmem : (qc, qp) ∈ l := List.mem_of_getElem? hq
      obtain ⟨c, hcr, hc0, hcm, hcq⟩ : ∃ c, revP l qp = c ∧ ¬ c < 0 ∧ (c, qp) ∈ l ∧ c ≤ qc := by
        rcases revP_iff HR.out HF0.out qp with ⟨_, h2⟩ | ⟨h1, h2, h3⟩
        · exact absurd rfl (h2 _ hmem)
        · exact ⟨_, rfl, by omega, h2, h3 _ hmem rfl⟩
      have hz := HZ.out j _ (Nat.le_refl _) hq
      have HNX : Hid (∀ (k : Nat) (q : Pr), j + 1 ≤ k → l[k]? = some q → qc < q.1) := fun k q hk hkq => next_rise HR.out hq hkq (by omega)
      have H1 := Lib.hid (fun w' (h : IsTab w' (.agg #[.slice ta n1 tc, .slice tb n2 td]) l) => fwd_yes _ l (qc, qp) w' h hmem)
      have H2 := Lib.hid (fun w' (h : IsTab w' (.agg #[.slice ta n1 tc, .slice tb n2 td]) l) => fwd_yes _ l (c, qp) w' h hcm)
      have H3 := Lib.hid (fun w' (h : IsTab w' (.agg #[.slice ta n1 tc, .slice tb n2 td]) l) => rev_yes_any _ l qp c w' h HF0.out hcr hc0)
      have hC := hK.two (.int .i64 qc) (.int .i32 qp) 53
      have hx2 := hX.alloc (.cells #[.int .i64 qc, .int .i32 qp] 53)
      obtain ⟨d0, d1, c1, c2, _⟩ := hC.c
      simp only at hz
      clear hc hq hmem hcr hcm HZ hK hX hxl
      go_wp2_with (first
        | (go_at_call 19; refine (H1.out _ hC.t.1).mono ?_; rintro e w5 ⟨rfl, hb5⟩; have hC' := hC.ext hb5; have hx2' := hx2.trans hb5; clear hC hb5 hx2 H1 d0 d1 c1 c2; have hC := hC'; have hx2 := hx2'; clear hC' hx2'; obtain ⟨d0, d1, c1, c2, _⟩ := hC.c)
        | (go_at_call 21; refine (H3.out _ hC.t.1).mono ?_; rintro e w6 ⟨rfl, hb6⟩; have hC' := hC.ext hb6; have hx2' := hx2.trans hb6; clear hC hb6 hx2 H3 d0 d1 c1 c2; have hC := hC'; have hx2 := hx2'; clear hC' hx2'; obtain ⟨d0, d1, c1, c2, _⟩ := hC.c)
        | (go_at_call 19; refine (H2.out _ hC.t.1).mono ?_; rintro e w7 ⟨rfl, hb7⟩; have hC' := hC.ext hb7; have hx2' := hx2.trans hb7; clear hC hb7 hx2 H2 d0 d1 c1 c2; have hC := hC'; have hx2 := hx2'; clear hC' hx2'; obtain ⟨d0, d1, c1, c2, _⟩ := hC.c))
      go_roundw
      case rel =>
        refine ⟨j + 1, qc, by omega, rfl, by go_num, ?_, hx2, HNX.out⟩
        exact KeepT.tail2 hC
      case measure => simp [intOf]; omega
    · have hjl : j = l.length := by omega
      subst hjl
      have HK := Lib.hid hK
      clear hK HZ
      go_wp2_with (go_at_call 13; refine (awake4 _ HK.out.tb).mono ?_; rintro e w4 ⟨rfl, hb4⟩)
      go_ret
      exact ⟨rfl, HK.out.ex.trans hb4⟩
theorem walk (a0 : Option Addr) (len0 cap0 : Nat) (vs : List Pv) {W0 : World} (hh : IsPieces W0 a0 len0 cap0 vs ∧ WideP vs) (W : World) (e : W0 = W) (hT : Tabs W) :
    Calls Tryd.prog 6 #[.slice a0 len0 cap0] W fun e w' => e = .returned (.bool true) ∧ Ext W w' := by
  subst e
  obtain ⟨h, hw⟩ := hh
  cases hl : lightP vs with
  | false => exact walk_no a0 len0 cap0 vs _ hT h hl
  | true =>
    obtain rfl : vs.length = len0 := h.1
    have HL := light_row h
    rw [hl] at HL
    exact walk_yes a0 cap0 vs (tabL vs) _ hT (Lib.hid fun w hT' x => lawtable_any a0 cap0 vs w hT' (h.ext x) (mid_of hl hw)) (Lib.hid HL) (madeP_len hl) (Lib.hid (madeP_good vs).1) (Lib.hid (madeP_good vs).2)
set_option maxRecDepth 100000 in
theorem lifted (os : Os) (started : os.Started) (H : Type) (enc : TypeId × Value → H) :
    ReturnsInHanded {} Tryd.checked os 6 .any (fun w args => (Rows.runBackSpec.pre enc Tryd.prog Tryd.f6 Rows.runBackRow.domain false w args ∧ laidMetH Tryd.prog Rows.runBackRow.laid w) ∧ sizedMet enc Tryd.prog Tryd.f6 (OpenSpec.ofChange Rows.runBackSpec) false w args)
      (Rows.runBackSpec.post enc Tryd.prog Tryd.f6 false true false false) := by
  refine returnsInHanded_of_change_and (C := Tryd.checked) (X := fun w _ => laidMetH Tryd.prog Rows.runBackRow.laid w) (fun _ _ _ hh h => h.of_heap hh) own started (by kernel_rfl) Tryd.func6
    (ChangeSpec.witness_shaped (enc := enc) (C := Tryd.checked) (os := os) (X := fun w _ => laidMetH Tryd.prog Rows.runBackRow.laid w) false (World.laidAll Tryd.prog os Rows.runBackRow.laid) #[.slice none 0 0] 8 (World.laidAll_os _ _ _)
      (World.shaped_of_ZipB (by kernel_rfl) (by kernel_rfl)) (by kernel_rfl) (by kernel_rfl) (by kernel_rfl)
      (by rw [MakeChecks.laidMetH_plain _ _ _ (by kernel_rfl)]; exact laidMet_laidAll _ (by kernel_rfl) (by kernel_rfl))) ?_
  intro W base args ds gs before hval0 hW hcnd _ hL _
  have hT : Tabs W := tabs_of hL
  have hval : ∀ (j : Nat) t v, Tryd.f6.params[j]? = some t → args[j]? = some v → Value.okWide Tryd.prog W .any base t v := hval0
  have hW' := hW
  obtain ⟨p, q, hA0, hV, rfl, hfz, hnd⟩ := hW
  have hA : DataW.TrodAll enc Tryd.prog W 0 (fun _ => true) true Tryd.f6.params.toList args.toList ds p := hA0
  rw [Tryd.params6] at hA hval
  obtain ⟨v0, vs0, d0, ds0, p0, q0, hargs, rfl, rfl, h0, r0⟩ := trodAll_cons hA
  obtain ⟨rfl, rfl, rfl⟩ := trodAll_nil r0
  obtain rfl : args = #[v0] := by cases args; simp_all
  obtain ⟨rfl, rfl⟩ := trodVars_none hV
  obtain ⟨a0, len0, cap0, rfl⟩ := okWide_slice Tryd.underlying22 (hval 0 22 v0 rfl rfl)
  have k0 := h0
  have lt0 : ∀ x ∈ p0, x.block < W.heap.size := by obtain ⟨m, hm⟩ := k0; exact DataW.trod_lt m _ _ _ hm
  obtain ⟨z0, w0⟩ : ∃ vs, IsPieces W a0 len0 cap0 vs ∧ WideP vs := by
    obtain ⟨fuel, hf⟩ := h0
    rcases Go.Deep.open_slice Tryd.underlying22 hf with ⟨hcs, _⟩ | ⟨x, len', cap', m, nn, D, Pl, hcs, _, hl, hm, hmm, hx, hi⟩
    · simp [Value.cells] at hcs
      obtain ⟨rfl, rfl, rfl⟩ := hcs
      exact ⟨[], ⟨rfl, .inl rfl⟩, fun p hp => by simp at hp⟩
    · simp [Value.cells] at hcs
      obtain ⟨rfl, rfl, rfl⟩ := hcs
      exact pieces_of hl (fun i hil => by
        have c45 : Tryd.prog.cellsOf 74 = 4 := by kernel_rfl
        have him : i < m := by rw [hmm]; split <;> omega
        obtain ⟨cs', hc, ht'⟩ := hi i him
        rw [c45] at hc
        obtain ⟨_, hcl, hat⟩ := World.cells?_some hc
        obtain ⟨k0, k1, k2, k3, rfl, k5⟩ := piece_read hcl ht'
        have e0 := hat 0 (by omega)
        have e1 := hat 1 (by omega)
        have e2 := hat 2 (by omega)
        have e3 := hat 3 (by omega)
        rw [Go.Deep.add_add] at e0 e1 e2 e3
        exact ⟨k0, k1, k2, k3, k5, e0, e1, e2, e3⟩)
  clear hA0 hval0
  refine (walk a0 len0 cap0 z0 w0 W rfl hT).mono fun e W' ⟨he, bel⟩ => ?_
  subst he
  exact ⟨_, rfl, _, _, _, [], _, [], hW', trodAll_mk1 (shut_bool Tryd.underlying4 _), (trodAll_cons_mk (Below.trod laidOut (by kernel_rfl) (of_decide_eq_true (by kernel_rfl)) k0 bel lt0) trodAll_mk0), rfl, bel.frame _, fun h => by cases h⟩

theorem over : Rows.runBackRow.holds Tryd.pinned (OpenSpec.ofChange Rows.runBackSpec) :=
  OpenClaim.holds_of_wide 6 Tryd.f6 rfl rfl rfl rfl rfl rfl rfl ⟨rfl, rfl, rfl, rfl, rfl⟩ rfl rfl rfl rfl rfl (by kernel_rfl) Tryd.func6 (by kernel_rfl)
    (of_decide_eq_true (by kernel_rfl)) (by unfold Func.isWrapper; first | (rw [if_pos (by decide +kernel)]; kernel_rfl) | (rw [if_neg (by decide +kernel)]; exact ⟨rfl, rfl⟩))
    (fun os started H enc _ => lifted os started H enc)

theorem said : Rows.RunBackSaid := over
theorem plain (f : FuncId) (fn : Func) (hf : Tryd.pinned.checked.prog.funcNamed "diacritic/diacriticlaw04.RunBack" = some f) (hfn : Tryd.pinned.checked.prog.funcs[f]? = some fn) :
    false = Tryd.pinned.checked.prog.looks [] ∧ ∀ (j : Nat) t, fn.params[j]? = some t → Tryd.pinned.checked.prog.wantsStandIn t = false := by
  obtain rfl : f = 6 := Option.some.inj ((show Tryd.prog.funcNamed "diacritic/diacriticlaw04.RunBack" = some 6 by kernel_rfl).symm.trans hf) |>.symm
  obtain rfl : fn = Tryd.f6 := (Option.some.inj (Tryd.func6.symm.trans hfn)).symm
  refine ⟨by kernel_rfl, fun j t ht => ?_⟩
  rw [Tryd.params6] at ht
  have hm : t ∈ [22] := by simpa using Array.mem_of_getElem? ht
  have hall : ([22].all fun u => !Tryd.prog.wantsStandIn u) = true := by kernel_rfl
  exact (show Tryd.prog.wantsStandIn t = false by simpa using List.all_eq_true.1 hall t hm)
/-- THE CARD. -/
theorem proved : Rows.RunBackCardSaid :=
  Claim7.holds_tied_plain_at .later [] _ _ _ _ said (fun _ h => by cases h) (by kernel_rfl) (fun _ h => by cases h) runBack_row_tie rfl ⟨rfl, rfl⟩ (by kernel_rfl) rfl plain (by kernel_rfl)
#print axioms proved

end Go.Proofs.YtealeedbkjiabaaDoor.runBack
