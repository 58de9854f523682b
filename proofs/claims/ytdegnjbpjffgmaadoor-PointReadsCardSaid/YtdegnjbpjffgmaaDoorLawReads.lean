/-
  The law PointReads holds at every text: any bytes' signs, or the first place at which there is none, are the document's; what is made of signs is the text of its signs.
  Conditions: none beyond the row's own.
-/
import Derived.Test.YtdegnjbpjffgmaaDoorPtPts
import Derived.ChangeMaps
import Derived.Deep.RegionHeld3
namespace Go.Proofs.YtdegnjbpjffgmaaDoor.pointReads
open Go Go.Proofs.YtdegnjbpjffgmaaDoor Go.ChangeShapes Go.WideShapes Go.ChangeAt Go.RowKit
open Go.ChangeMaps (open_string shut_string)
set_option linter.unusedSimpArgs false
set_option linter.unusedVariables false

theorem walk_long (s : ByteArray) (w : World) (hT : Tabs w) (h : 2000 < (s.size : Int)) :
    Calls Tryd.prog 5 #[.string s] w fun e w' => e = .returned (.bool true) ∧ Ext w w' := by
  go_enter Tryd.func5, Tryd.ntmps5
  go_wp2_with (go_at_call 11; refine (awake_yes _ hT).mono ?_; rintro e w2 ⟨rfl, hb2⟩)
  go_ret
  exact ⟨rfl, hb2⟩
/-- What stands in memory behind the calls of both Points. -/
structure Rx (w0 w : World) (a : Option Addr) (c : Nat) (a2 : Option Addr) (c2 f : Nat) (zs : List Int) (x0 x1 : Int) : Prop where
  ex : Ext w0 w
  tb : Tabs w
  r1 : IsRow w a zs.length c zs
  r2 : IsRow w a2 zs.length c2 zs
  cf : w.heap[f]? = some (.cells #[.int .i64 x0, .int .i64 x1] 30 (0, 0))
theorem Rx.ext {w0 w w' : World} {a : Option Addr} {c : Nat} {a2 : Option Addr} {c2 f : Nat} {zs : List Int} {x0 x1 : Int} (h : Rx w0 w a c a2 c2 f zs x0 x1) (k : Ext w w') : Rx w0 w' a c a2 c2 f zs x0 x1 :=
  ⟨h.ex.trans k, h.tb.ext k, h.r1.ext k, h.r2.ext k, (k.block f (lt_of_block h.cf)).trans h.cf⟩
theorem Rx.made {w0 w5 w6 : World} {a : Option Addr} {c : Nat} {a2 : Option Addr} {c2 : Nat} {zs : List Int} {x0 x1 : Int} (hT : Tabs w0) (hx : Ext w0 w5) (h1 : IsRow w5 a zs.length c zs)
    (hx2 : Ext (w5.alloc (.cells #[.int .i64 x0, .int .i64 x1] 30)) w6) (h2 : IsRow w6 a2 zs.length c2 zs) :
    Rx w0 w6 a c a2 c2 w5.heap.size zs x0 x1 :=
  have k : Ext w5 (w5.alloc (.cells #[.int .i64 x0, .int .i64 x1] 30)) := (Ext.refl w5).alloc _
  have k2 := k.trans hx2
  ⟨hx.trans k2, hT.ext (hx.trans k2), h1.ext k2, h2, (hx2.block w5.heap.size (by simp)).trans (heap_alloc_new w5 _)⟩
theorem Rx.cells {w0 w : World} {a : Option Addr} {c : Nat} {a2 : Option Addr} {c2 f : Nat} {zs : List Int} {x0 x1 : Int} (h : Rx w0 w a c a2 c2 f zs x0 x1) : w.cell? ⟨f, 0, none⟩ = some (.int .i64 x0) ∧ w.cell? ⟨f, 1, none⟩ = some (.int .i64 x1) := by
  simp [World.cell?, h.cf]
theorem row_nil (w : World) : IsRow w none ([] : List Int).length 0 [] := ⟨rfl, .inl rfl⟩
set_option maxRecDepth 100000 in
set_option maxHeartbeats 4000000 in
theorem walk_ok (s : ByteArray) (zs : List Int) (w : World) (hT : Tabs w) (hl : (s.size : Int) ≤ 2000)
    (P : ∀ w1, Tabs w1 → Calls Tryd.prog 13 #[.string s] w1 fun e w' => ∃ a c, e = .returned (.tuple #[.slice a zs.length c, .agg #[.int .i64 0, .int .i64 0]]) ∧ IsRow w' a zs.length c zs ∧ Ext w1 w')
    (R : ∀ w1, Calls Tryd.prog 19 #[.string s] w1 fun e w' => ∃ a c, e = .returned (.tuple #[.slice a zs.length c, .int .i64 (-1)]) ∧ IsRow w' a zs.length c zs ∧ Ext w1 w')
    (C : ∀ w1, Tabs w1 → Calls Tryd.prog 21 #[.string s] w1 fun e w' => e = .returned (.agg #[.int .i64 0, .int .i64 (0)]) ∧ Ext w1 w')
    (V : ∀ w1, Tabs w1 → Calls Tryd.prog 18 #[.string s] w1 fun e w' => e = .returned (.bool true) ∧ Ext w1 w')
    (N : ∀ w1, Tabs w1 → Calls Tryd.prog 17 #[.string s] w1 fun e w' => e = .returned (.int .i64 zs.length) ∧ Ext w1 w')
    (F : ∀ w1, Calls Tryd.prog 20 #[.int .i64 (-1)] w1 fun e w' => e = .returned (.agg #[.int .i64 0, .int .i64 (0)]) ∧ Ext w1 w')
    (X : ∀ (a : Option Addr) (c : Nat) (w1 : World), IsRow w1 a zs.length c zs → Calls Tryd.prog 8 #[.slice a zs.length c] w1 fun e w' => e = .returned (.tuple #[.string s, .bool true]) ∧ Ext w1 w') (hzl : zs.length ≤ 2000) :
    Calls Tryd.prog 5 #[.string s] w fun e w' => e = .returned (.bool true) ∧ Ext w w' := by
  have HP := Lib.hid P
  have HR := Lib.hid R
  have HCK := Lib.hid C
  have HV := Lib.hid V
  have HN := Lib.hid N
  have HF := Lib.hid F
  have HT := Lib.hid hT
  clear P R C V N F hT
  have HX := Lib.hid X
  clear X
  go_enter Tryd.func5, Tryd.ntmps5
  go_wp2_with (first | (go_at_call 13; refine (HP.out _ HT.out).mono ?_; rintro e w5 ⟨a, c, rfl, hr1, hb5⟩) | (go_at_call 19; refine (HR.out _).mono ?_; rintro e w6 ⟨a2, c2, rfl, hr2, hb6⟩))
  have hC := Rx.made HT.out hb5 hr1 hb6 hr2
  obtain ⟨f, hf⟩ : ∃ f, f = w5.heap.size := ⟨_, rfl⟩
  rw [← hf] at hC ⊢
  clear hf hb5 hb6 hr1 hr2
  obtain ⟨q0, q1⟩ := hC.cells
  have hC2 := hC.ext (Ext.drew (Ext.refl _))
  clear hC
  have hC := hC2
  clear hC2
  go_region_held3 (fun W' => W'.cell? ⟨f, 0, none⟩ = some (.int .i64 0) ∧ W'.cell? ⟨f, 1, none⟩ = some (.int .i64 (0))) (go_keep)
    (first | (go_at_call 15; refine (same_row hC.r1 hC.r2 (by omega)).mono ?_; rintro e wx ⟨rfl, hbx⟩; have hC' := hC.ext hbx; clear hC hbx; have hC := hC'; clear hC'; obtain ⟨q0, q1⟩ := hC.cells) | (go_at_call 20; refine (HF.out _).mono ?_; rintro e wx ⟨rfl, hbx⟩; have hC' := hC.ext hbx; clear hC hbx; have hC := hC'; clear hC'; obtain ⟨q0, q1⟩ := hC.cells) | (go_at_call 21; refine (HCK.out _ hC.tb).mono ?_; rintro e wx ⟨rfl, hbx⟩; have hC' := hC.ext hbx; clear hC hbx; have hC := hC'; clear hC'; obtain ⟨q0, q1⟩ := hC.cells) | (go_at_call 18; refine (HV.out _ hC.tb).mono ?_; rintro e wx ⟨rfl, hbx⟩; have hC' := hC.ext hbx; clear hC hbx; have hC := hC'; clear hC'; obtain ⟨q0, q1⟩ := hC.cells) | (go_at_call 17; refine (HN.out _ hC.tb).mono ?_; rintro e wx ⟨rfl, hbx⟩; have hC' := hC.ext hbx; clear hC hbx; have hC := hC'; clear hC'; obtain ⟨q0, q1⟩ := hC.cells))
  go_wp2_with (first | (go_at_call 8; refine (HX.out _ _ _ hC.r1).mono ?_; rintro e wx ⟨rfl, hbx⟩; have hC' := hC.ext hbx; clear hC hbx; have hC := hC'; clear hC'; obtain ⟨q0, q1⟩ := hC.cells) | (go_at_call 11; refine (awake_yes _ hC.tb).mono ?_; rintro e wx ⟨rfl, hbx⟩; have hC' := hC.ext hbx; clear hC hbx; have hC := hC'; clear hC'; obtain ⟨q0, q1⟩ := hC.cells))
  go_ret
  exact ⟨by simp, hC.ex⟩
set_option maxRecDepth 100000 in
set_option maxHeartbeats 4000000 in
theorem walk_bad (s : ByteArray) (b : Int) (w : World) (hT : Tabs w) (hl : (s.size : Int) ≤ 2000)
    (P : ∀ w1, Tabs w1 → Calls Tryd.prog 13 #[.string s] w1 fun e w' => e = .returned (.tuple #[.slice none 0 0, .agg #[.int .i64 2, .int .i64 b]]) ∧ Ext w1 w')
    (R : ∀ w1, Calls Tryd.prog 19 #[.string s] w1 fun e w' => e = .returned (.tuple #[.slice none 0 0, .int .i64 b]) ∧ Ext w1 w')
    (C : ∀ w1, Tabs w1 → Calls Tryd.prog 21 #[.string s] w1 fun e w' => e = .returned (.agg #[.int .i64 2, .int .i64 (b)]) ∧ Ext w1 w')
    (V : ∀ w1, Tabs w1 → Calls Tryd.prog 18 #[.string s] w1 fun e w' => e = .returned (.bool false) ∧ Ext w1 w')
    (N : ∀ w1, Tabs w1 → Calls Tryd.prog 17 #[.string s] w1 fun e w' => e = .returned (.int .i64 0) ∧ Ext w1 w')
    (F : ∀ w1, Calls Tryd.prog 20 #[.int .i64 (b)] w1 fun e w' => e = .returned (.agg #[.int .i64 2, .int .i64 (b)]) ∧ Ext w1 w') (hb0 : 0 ≤ b) :
    Calls Tryd.prog 5 #[.string s] w fun e w' => e = .returned (.bool true) ∧ Ext w w' := by
  have HP := Lib.hid P
  have HR := Lib.hid R
  have HCK := Lib.hid C
  have HV := Lib.hid V
  have HN := Lib.hid N
  have HF := Lib.hid F
  have HT := Lib.hid hT
  clear P R C V N F hT
  have hd : decide (b < 0) = false := decide_eq_false (by omega)
  have hnb : ¬ b < 0 := by omega
  go_enter Tryd.func5, Tryd.ntmps5
  go_wp2_with (first | (go_at_call 13; refine (HP.out _ HT.out).mono ?_; rintro e w5 ⟨rfl, hb5⟩) | (go_at_call 19; refine (HR.out _).mono ?_; rintro e w6 ⟨rfl, hb6⟩))
  have hC := Rx.made HT.out hb5 (row_nil _) hb6 (row_nil _)
  obtain ⟨f, hf⟩ : ∃ f, f = w5.heap.size := ⟨_, rfl⟩
  rw [← hf] at hC ⊢
  clear hf hb5 hb6
  obtain ⟨q0, q1⟩ := hC.cells
  have hC2 := hC.ext (Ext.drew (Ext.refl _))
  clear hC
  have hC := hC2
  clear hC2
  go_region_held3 (fun W' => W'.cell? ⟨f, 0, none⟩ = some (.int .i64 2) ∧ W'.cell? ⟨f, 1, none⟩ = some (.int .i64 (b))) (go_keep)
    (first | (go_at_call 15; refine (same_row hC.r1 hC.r2 (by decide)).mono ?_; rintro e wx ⟨rfl, hbx⟩; have hC' := hC.ext hbx; clear hC hbx; have hC := hC'; clear hC'; obtain ⟨q0, q1⟩ := hC.cells) | (go_at_call 20; refine (HF.out _).mono ?_; rintro e wx ⟨rfl, hbx⟩; have hC' := hC.ext hbx; clear hC hbx; have hC := hC'; clear hC'; obtain ⟨q0, q1⟩ := hC.cells) | (go_at_call 21; refine (HCK.out _ hC.tb).mono ?_; rintro e wx ⟨rfl, hbx⟩; have hC' := hC.ext hbx; clear hC hbx; have hC := hC'; clear hC'; obtain ⟨q0, q1⟩ := hC.cells) | (go_at_call 18; refine (HV.out _ hC.tb).mono ?_; rintro e wx ⟨rfl, hbx⟩; have hC' := hC.ext hbx; clear hC hbx; have hC := hC'; clear hC'; obtain ⟨q0, q1⟩ := hC.cells) | (go_at_call 17; refine (HN.out _ hC.tb).mono ?_; rintro e wx ⟨rfl, hbx⟩; have hC' := hC.ext hbx; clear hC hbx; have hC := hC'; clear hC'; obtain ⟨q0, q1⟩ := hC.cells))
  go_wp2_with (first | (go_at_call 11; refine (awake_yes _ hC.tb).mono ?_; rintro e wx ⟨rfl, hbx⟩; have hC' := hC.ext hbx; clear hC hbx; have hC := hC'; clear hC'; obtain ⟨q0, q1⟩ := hC.cells))
  go_ret
  exact ⟨by simp, hC.ex⟩
theorem walk (s : ByteArray) (W : World) (hT : Tabs W) :
    Calls Tryd.prog 5 #[.string s] W fun e w' => e = .returned (.bool true) ∧ Ext W w' := by
  by_cases h : 2000 < (s.size : Int)
  · exact walk_long s W hT h
  have hs : s.size ≤ 1099511627776 := by omega
  by_cases hb : badS s < 0
  · have hv : validS s = true := by rw [validS_eq]; exact decide_eq_true hb
    have hzl : (runesL s.data.toList).length ≤ s.size := by
      have := Lib.runeCount_le s
      rwa [runeCount_eq] at this
    have hsg := runesL_signs _ s.data.toList (Nat.le_refl _)
    have hbk : textOut (runesL s.data.toList) = s := by
      rw [textOut_yes hsg, runesL_back _ 0 s.data.toList (Nat.le_refl _) hb]
    refine walk_ok s (runesL s.data.toList) W hT (by omega) (fun w1 h => points_ok s w1 h hs hb) (fun w1 => rpoints_ok s w1 hs hb) (fun w1 h => check_no s w1 h hs hb) (fun w1 h => ?_) (fun w1 h => ?_) (fun w1 => lawfault_no (-1) (by decide) w1) (fun a c w1 hr => ?_) (by omega)
    · have := valid_any s w1 h hs
      rwa [hv] at this
    · have := count_yes s w1 h hs hv
      rwa [runeCount_eq] at this
    · have := text_row hr (Ext.refl w1) (by omega)
      rwa [hbk, hsg] at this
  · have hv : validS s = false := by rw [validS_eq]; exact decide_eq_false hb
    refine walk_bad s (badS s) W hT (by omega) (fun w1 h => points_bad s (badS s) w1 h hs rfl hb) (fun w1 => rpoints_bad s w1 hs hb) (fun w1 h => check_yes s w1 h hs _ rfl hb) (fun w1 h => ?_) (fun w1 h => count_no s w1 h hs hv) (fun w1 => lawfault_yes _ hb w1) (by omega)
    have := valid_any s w1 h hs
    rwa [hv] at this
set_option maxRecDepth 100000 in
theorem lifted (os : Os) (started : os.Started) (H : Type) (enc : TypeId × Value → H) :
    ReturnsInHanded {} Tryd.checked os 5 .any (fun w args => (Rows.pointReadsSpec.pre enc Tryd.prog Tryd.f5 Rows.pointReadsRow.domain false w args ∧ laidMetH Tryd.prog Rows.pointReadsRow.laid w) ∧ sizedMet enc Tryd.prog Tryd.f5 (OpenSpec.ofChange Rows.pointReadsSpec) false w args)
      (Rows.pointReadsSpec.post enc Tryd.prog Tryd.f5 false true false false) := by
  refine returnsInHanded_of_change_and (C := Tryd.checked) (X := fun w _ => laidMetH Tryd.prog Rows.pointReadsRow.laid w) (fun _ _ _ hh h => h.of_heap hh) own started (by kernel_rfl) Tryd.func5
    (ChangeSpec.witness_shaped (enc := enc) (C := Tryd.checked) (os := os) (X := fun w _ => laidMetH Tryd.prog Rows.pointReadsRow.laid w) false (World.laidAll Tryd.prog os Rows.pointReadsRow.laid) #[.string ByteArray.empty] 8 (World.laidAll_os _ _ _)
      (World.shaped_of_ZipB (by kernel_rfl) (by kernel_rfl)) (by kernel_rfl) (by kernel_rfl) (by kernel_rfl)
      (by rw [MakeChecks.laidMetH_plain _ _ _ (by kernel_rfl)]; exact laidMet_laidAll _ (by kernel_rfl) (by kernel_rfl))) ?_
  intro W base args ds gs before hval0 hW hcnd _ hL _
  have hT : Tabs W := tabs_of hL
  have hval : ∀ (j : Nat) t v, Tryd.f5.params[j]? = some t → args[j]? = some v → Value.okWide Tryd.prog W .any base t v := hval0
  have hW' := hW
  obtain ⟨p, q, hA0, hV, rfl, hfz, hnd⟩ := hW
  have hA : DataW.TrodAll enc Tryd.prog W 0 (fun _ => true) true Tryd.f5.params.toList args.toList ds p := hA0
  rw [Tryd.params5] at hA hval
  obtain ⟨v0, vs0, d0, ds0, p0, q0, hargs, rfl, rfl, h0, r0⟩ := trodAll_cons hA
  obtain ⟨rfl, rfl, rfl⟩ := trodAll_nil r0
  obtain rfl : args = #[v0] := by cases args; simp_all
  obtain ⟨rfl, rfl⟩ := trodVars_none hV
  obtain ⟨a0, rfl, rfl, rfl, w0⟩ := open_string Tryd.underlying9 (hval 0 9 v0 rfl rfl) h0
  clear hA0 hval0
  simp only [List.append_nil] at hW'
  refine (walk a0 W hT).mono fun e W' ⟨he, bel⟩ => ?_
  subst he
  exact ⟨_, rfl, _, _, _, [], [], [], hW', trodAll_mk1 (shut_bool Tryd.underlying4 _), (trodAll_cons_mk (shut_string Tryd.underlying9 w0) trodAll_mk0), rfl, bel.frame _, fun h => by cases h⟩

theorem over : Rows.pointReadsRow.holds Tryd.pinned (OpenSpec.ofChange Rows.pointReadsSpec) :=
  OpenClaim.holds_of_wide 5 Tryd.f5 rfl rfl rfl rfl rfl rfl rfl ⟨rfl, rfl, rfl, rfl, rfl⟩ rfl rfl rfl rfl rfl (by kernel_rfl) Tryd.func5 (by kernel_rfl)
    (of_decide_eq_true (by kernel_rfl)) (by unfold Func.isWrapper; first | (rw [if_pos (by decide +kernel)]; kernel_rfl) | (rw [if_neg (by decide +kernel)]; exact ⟨rfl, rfl⟩))
    (fun os started H enc _ => lifted os started H enc)

theorem said : Rows.PointReadsSaid := over
theorem plain (f : FuncId) (fn : Func) (hf : Tryd.pinned.checked.prog.funcNamed "diacritic/diacriticlaw02.PointReads" = some f) (hfn : Tryd.pinned.checked.prog.funcs[f]? = some fn) :
    false = Tryd.pinned.checked.prog.looks [] ∧ ∀ (j : Nat) t, fn.params[j]? = some t → Tryd.pinned.checked.prog.wantsStandIn t = false := by
  obtain rfl : f = 5 := Option.some.inj ((show Tryd.prog.funcNamed "diacritic/diacriticlaw02.PointReads" = some 5 by kernel_rfl).symm.trans hf) |>.symm
  obtain rfl : fn = Tryd.f5 := (Option.some.inj (Tryd.func5.symm.trans hfn)).symm
  refine ⟨by kernel_rfl, fun j t ht => ?_⟩
  rw [Tryd.params5] at ht
  have hm : t ∈ [9] := by simpa using Array.mem_of_getElem? ht
  have hall : ([9].all fun u => !Tryd.prog.wantsStandIn u) = true := by kernel_rfl
  exact (show Tryd.prog.wantsStandIn t = false by simpa using List.all_eq_true.1 hall t hm)
/-- THE CARD. -/
theorem proved : Rows.PointReadsCardSaid :=
  Claim7.holds_tied_plain_at .later [] _ _ _ _ said (fun _ h => by cases h) (by kernel_rfl) (fun _ h => by cases h) pointReads_row_tie rfl ⟨rfl, rfl⟩ (by kernel_rfl) rfl plain (by kernel_rfl)
#print axioms proved

end Go.Proofs.YtdegnjbpjffgmaaDoor.pointReads
