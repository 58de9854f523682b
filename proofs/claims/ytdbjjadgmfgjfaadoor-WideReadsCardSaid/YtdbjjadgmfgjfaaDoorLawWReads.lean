/-
  The law WideReads holds at every text, in either order of bytes: the text of any bytes, or the first place at which there is no sign, are the document's; what is decoded is encoded as it was.
  Conditions: none beyond the row's own.
-/
import Derived.Test.YtdbjjadgmfgjfaaDoorWdAwake
import Derived.ChangeMaps
namespace Go.Proofs.YtdbjjadgmfgjfaaDoor.wideReads
open Go Go.Proofs.YtdbjjadgmfgjfaaDoor Go.ChangeShapes Go.WideShapes Go.ChangeAt Go.RowKit
open Go.ChangeMaps (open_string shut_string)
set_option linter.unusedSimpArgs false
set_option linter.unusedVariables false

theorem walk_long (s : ByteArray) (big : Bool) (w : World) (hT : Tabs w) (h : 2000 < (s.size : Int)) :
    Calls Tryd.prog 3 #[.string s, .bool big] w fun e w' => e = .returned (.bool true) ∧ Ext w w' := by
  go_enter Tryd.func3, Tryd.ntmps3
  go_wp2_with (go_at_call 7; refine (awake3 _ hT).mono ?_; rintro e w2 ⟨rfl, hb2⟩)
  go_ret
  exact ⟨rfl, hb2⟩
set_option maxRecDepth 100000 in
set_option maxHeartbeats 2000000 in
theorem walk_bad (s : ByteArray) (big : Bool) (b : Int) (w : World) (hT : Tabs w) (hl : (s.size : Int) ≤ 2000) (hb0 : 0 ≤ b)
    (D : ∀ w, Calls Tryd.prog 8 #[.string s, .bool big] w fun e w' => e = .returned (.tuple #[.string ⟨#[]⟩, .agg #[.int .i64 2, .int .i64 b]]) ∧ Ext w w')
    (R : ∀ w, Calls Tryd.prog 9 #[.string s, .bool big] w fun e w' => e = .returned (.tuple #[.string ⟨#[]⟩, .int .i64 b]) ∧ Ext w w')
    (F : ∀ w, Calls Tryd.prog 10 #[.int .i64 b] w fun e w' => e = .returned (.agg #[.int .i64 2, .int .i64 b]) ∧ Ext w w') :
    Calls Tryd.prog 3 #[.string s, .bool big] w fun e w' => e = .returned (.bool true) ∧ Ext w w' := by
  have HD := Lib.hid D
  have HR := Lib.hid R
  have HF := Lib.hid F
  have HT := Lib.hid hT
  clear D R F hT
  go_enter Tryd.func3, Tryd.ntmps3
  go_wp2_with (first
    | (go_at_call 8; refine (HD.out _).mono ?_; rintro e w1 ⟨rfl, hb1⟩; have hC := Fx.made HT.out hb1 2 b)
    | (go_at_call 9; refine (HR.out _).mono ?_; rintro e w2 ⟨rfl, hb2⟩; have hC2 := hC.ext hb2; clear hC hb2; have hC := hC2; clear hC2))
  obtain ⟨f, hf⟩ : ∃ f, f = w1.heap.size := ⟨_, rfl⟩
  rw [← hf] at hC ⊢
  clear hf hb1
  have hC2 := hC.ext (Ext.drew (Ext.refl _))
  clear hC
  have hC := hC2
  clear hC2
  obtain ⟨q0, q1⟩ := hC.cells
  go_region_held3 (fun W' => W'.cell? ⟨f, 0, none⟩ = some (.int .i64 2) ∧ W'.cell? ⟨f, 1, none⟩ = some (.int .i64 b)) (go_keep)
    (first | (go_at_call 10; refine (HF.out _).mono ?_; rintro e wx ⟨rfl, hbx⟩; have hC' := hC.ext hbx; clear hC hbx; have hC := hC'; clear hC'; obtain ⟨q0, q1⟩ := hC.cells))
  go_wp2_with (first | (go_at_call 7; refine (awake3 _ hC.tb).mono ?_; rintro e wx ⟨rfl, hbx⟩; have hC' := hC.ext hbx; clear hC hbx; have hC := hC'; clear hC'; obtain ⟨q0, q1⟩ := hC.cells))
  go_ret
  exact ⟨by simp, hC.ex⟩
set_option maxRecDepth 100000 in
set_option maxHeartbeats 2000000 in
theorem walk_ok (s : ByteArray) (big : Bool) (u : ByteArray) (w : World) (hT : Tabs w) (hl : (s.size : Int) ≤ 2000)
    (D : ∀ w, Calls Tryd.prog 8 #[.string s, .bool big] w fun e w' => e = .returned (.tuple #[.string u, .agg #[.int .i64 0, .int .i64 0]]) ∧ Ext w w')
    (R : ∀ w, Calls Tryd.prog 9 #[.string s, .bool big] w fun e w' => e = .returned (.tuple #[.string u, .int .i64 (-1)]) ∧ Ext w w')
    (F : ∀ w, Calls Tryd.prog 10 #[.int .i64 (-1)] w fun e w' => e = .returned (.agg #[.int .i64 0, .int .i64 0]) ∧ Ext w w')
    (E : ∀ w, Tabs w → Calls Tryd.prog 11 #[.string u, .bool big] w fun e w' => e = .returned (.tuple #[.string s, .agg #[.int .i64 0, .int .i64 0]]) ∧ Ext w w') :
    Calls Tryd.prog 3 #[.string s, .bool big] w fun e w' => e = .returned (.bool true) ∧ Ext w w' := by
  have HD := Lib.hid D
  have HR := Lib.hid R
  have HF := Lib.hid F
  have HE := Lib.hid E
  have HT := Lib.hid hT
  clear D R F E hT
  go_enter Tryd.func3, Tryd.ntmps3
  go_wp2_with (first
    | (go_at_call 8; refine (HD.out _).mono ?_; rintro e w1 ⟨rfl, hb1⟩; have hC := Fx.made HT.out hb1 0 0)
    | (go_at_call 9; refine (HR.out _).mono ?_; rintro e w2 ⟨rfl, hb2⟩; have hC2 := hC.ext hb2; clear hC hb2; have hC := hC2; clear hC2))
  obtain ⟨f, hf⟩ : ∃ f, f = w1.heap.size := ⟨_, rfl⟩
  rw [← hf] at hC ⊢
  clear hf hb1
  have hC2 := hC.ext (Ext.drew (Ext.refl _))
  clear hC
  have hC := hC2
  clear hC2
  obtain ⟨q0, q1⟩ := hC.cells
  go_region_held3 (fun W' => W'.cell? ⟨f, 0, none⟩ = some (.int .i64 0) ∧ W'.cell? ⟨f, 1, none⟩ = some (.int .i64 0)) (go_keep)
    (first | (go_at_call 10; refine (HF.out _).mono ?_; rintro e wx ⟨rfl, hbx⟩; have hC' := hC.ext hbx; clear hC hbx; have hC := hC'; clear hC'; obtain ⟨q0, q1⟩ := hC.cells))
  go_wp2_with (first
    | (go_at_call 11; refine (HE.out _ hC.tb).mono ?_; rintro e w3 ⟨rfl, hb3⟩; have hG := Fx.made HT.out (hC.ex.trans hb3) 0 0; clear hC hb3)
    | (go_at_call 7; refine (awake3 _ hG.tb).mono ?_; rintro e wx ⟨rfl, hbx⟩; have hG' := hG.ext hbx; clear hG hbx; have hG := hG'; clear hG'; obtain ⟨g0, g1⟩ := hG.cells)
    | (go_at_call 12; refine (bad_no _ _ _ (by decide)).mono ?_; rintro e wx ⟨rfl, hbx⟩; have hG' := hG.ext hbx; clear hG hbx; have hG := hG'; clear hG'))
  go_ret
  exact ⟨by simp, hG.ex⟩
theorem walk (s : ByteArray) (big : Bool) (W : World) (hT : Tabs W) :
    Calls Tryd.prog 3 #[.string s, .bool big] W fun e w' => e = .returned (.bool true) ∧ Ext W w' := by
  by_cases h : 2000 < (s.size : Int)
  · exact walk_long s big W hT h
  have hs : s.size ≤ 1099511627776 := by omega
  have hpl := wd_place big _ 0 s.data.toList (Nat.le_refl _)
  obtain ⟨a0, ha⟩ : ∃ a0, (wdS big s).2 = a0 := ⟨_, rfl⟩
  have D := fun w => decode_any s big w hs
  have R := fun w => rdecode s big _ _ w (by omega) rfl ha
  have hpl : a0 = -1 ∨ 0 ≤ a0 := by
    have e : (wd big 0 s.data.toList).2 = a0 := ha
    rw [e] at hpl
    omega
  rw [ha] at D
  by_cases hb : a0 < 0
  · obtain rfl : a0 = -1 := by omega
    have hsg : allSigns (wdS big s).1 = true := wd_signs big _ 0 s.data.toList (Nat.le_refl _)
    have hwt : wtxt (wdS big s).1 (-1) = txt (wdS big s).1 := if_pos (by decide)
    have hbk := we_wd big _ 0 s.data.toList (Nat.le_refl _) (by rw [show (wd big 0 s.data.toList).2 = -1 from ha]; decide)
    have hen : weTxt big (signsOf (txt (wdS big s).1)) = s := by
      rw [signs_txt hsg]
      apply bytes_inj
      exact hbk
    have hln := wd_len big _ 0 s.data.toList (Nat.le_refl _)
    have htz : (txt (wdS big s).1).size ≤ 1099511627776 := by
      have := txt_size (wdS big s).1
      have e1 : (wd big 0 s.data.toList).1 = (wdS big s).1 := rfl
      have e2 : s.data.toList.length = s.size := rfl
      rw [e1, e2] at hln
      omega
    rw [hwt] at D R
    refine walk_ok s big (txt (wdS big s).1) W hT (by omega) D R (fun w => lawfault_no (-1) (by decide) w) (fun w hT => ?_)
    have := encode_good (txt (wdS big s).1) big w hT htz (bad_txt hsg)
    rwa [hen] at this
  · have hwt : wtxt (wdS big s).1 a0 = ⟨#[]⟩ := if_neg hb
    rw [hwt] at D R
    rw [fNum_yes hb, fPlace_yes hb] at D
    exact walk_bad s big a0 W hT (by omega) (by omega) D R (fun w => lawfault_yes a0 hb w)
set_option maxRecDepth 100000 in
theorem lifted (os : Os) (started : os.Started) (H : Type) (enc : TypeId × Value → H) :
    ReturnsInHanded {} Tryd.checked os 3 .any (fun w args => (Rows.wideReadsSpec.pre enc Tryd.prog Tryd.f3 Rows.wideReadsRow.domain false w args ∧ laidMetH Tryd.prog Rows.wideReadsRow.laid w) ∧ sizedMet enc Tryd.prog Tryd.f3 (OpenSpec.ofChange Rows.wideReadsSpec) false w args)
      (Rows.wideReadsSpec.post enc Tryd.prog Tryd.f3 false true false false) := by
  refine returnsInHanded_of_change_and (C := Tryd.checked) (X := fun w _ => laidMetH Tryd.prog Rows.wideReadsRow.laid w) (fun _ _ _ hh h => h.of_heap hh) own started (by kernel_rfl) Tryd.func3
    (ChangeSpec.witness_shaped (enc := enc) (C := Tryd.checked) (os := os) (X := fun w _ => laidMetH Tryd.prog Rows.wideReadsRow.laid w) false (World.laidAll Tryd.prog os Rows.wideReadsRow.laid) #[.string ByteArray.empty, .bool false] 8 (World.laidAll_os _ _ _)
      (World.shaped_of_ZipB (by kernel_rfl) (by kernel_rfl)) (by kernel_rfl) (by kernel_rfl) (by kernel_rfl)
      (by rw [MakeChecks.laidMetH_plain _ _ _ (by kernel_rfl)]; exact laidMet_laidAll _ (by kernel_rfl) (by kernel_rfl))) ?_
  intro W base args ds gs before hval0 hW hcnd _ hL _
  have hT : Tabs W := tabs_of hL
  have hval : ∀ (j : Nat) t v, Tryd.f3.params[j]? = some t → args[j]? = some v → Value.okWide Tryd.prog W .any base t v := hval0
  have hW' := hW
  obtain ⟨p, q, hA0, hV, rfl, hfz, hnd⟩ := hW
  have hA : DataW.TrodAll enc Tryd.prog W 0 (fun _ => true) true Tryd.f3.params.toList args.toList ds p := hA0
  rw [Tryd.params3] at hA hval
  obtain ⟨v0, vs0, d0, ds0, p0, q0, hargs, rfl, rfl, h0, r0⟩ := trodAll_cons hA
  obtain ⟨v1, vs1, d1, ds1, p1, q1, rfl, rfl, rfl, h1, r1⟩ := trodAll_cons r0
  obtain ⟨rfl, rfl, rfl⟩ := trodAll_nil r1
  obtain rfl : args = #[v0, v1] := by cases args; simp_all
  obtain ⟨rfl, rfl⟩ := trodVars_none hV
  obtain ⟨a0, rfl, rfl, rfl, w0⟩ := open_string Tryd.underlying9 (hval 0 9 v0 rfl rfl) h0
  obtain ⟨a1, rfl, rfl, rfl⟩ := open_bool Tryd.underlying4 (hval 1 4 v1 rfl rfl) h1
  clear hA0 hval0
  simp only [List.append_nil] at hW'
  refine (walk a0 a1 W hT).mono fun e W' ⟨he, bel⟩ => ?_
  subst he
  exact ⟨_, rfl, _, _, _, [], [], [], hW', trodAll_mk1 (shut_bool Tryd.underlying4 _), (trodAll_cons_mk (shut_string Tryd.underlying9 w0) (trodAll_cons_mk (shut_bool Tryd.underlying4 _) trodAll_mk0)), rfl, bel.frame _, fun h => by cases h⟩

theorem over : Rows.wideReadsRow.holds Tryd.pinned (OpenSpec.ofChange Rows.wideReadsSpec) :=
  OpenClaim.holds_of_wide 3 Tryd.f3 rfl rfl rfl rfl rfl rfl rfl ⟨rfl, rfl, rfl, rfl, rfl⟩ rfl rfl rfl rfl rfl (by kernel_rfl) Tryd.func3 (by kernel_rfl)
    (of_decide_eq_true (by kernel_rfl)) (by unfold Func.isWrapper; first | (rw [if_pos (by decide +kernel)]; kernel_rfl) | (rw [if_neg (by decide +kernel)]; exact ⟨rfl, rfl⟩))
    (fun os started H enc _ => lifted os started H enc)

theorem said : Rows.WideReadsSaid := over
theorem plain (f : FuncId) (fn : Func) (hf : Tryd.pinned.checked.prog.funcNamed "diacritic/diacriticlaw03.WideReads" = some f) (hfn : Tryd.pinned.checked.prog.funcs[f]? = some fn) :
    false = Tryd.pinned.checked.prog.looks [] ∧ ∀ (j : Nat) t, fn.params[j]? = some t → Tryd.pinned.checked.prog.wantsStandIn t = false := by
  obtain rfl : f = 3 := Option.some.inj ((show Tryd.prog.funcNamed "diacritic/diacriticlaw03.WideReads" = some 3 by kernel_rfl).symm.trans hf) |>.symm
  obtain rfl : fn = Tryd.f3 := (Option.some.inj (Tryd.func3.symm.trans hfn)).symm
  refine ⟨by kernel_rfl, fun j t ht => ?_⟩
  rw [Tryd.params3] at ht
  have hm : t ∈ [9, 4] := by simpa using Array.mem_of_getElem? ht
  have hall : ([9, 4].all fun u => !Tryd.prog.wantsStandIn u) = true := by kernel_rfl
  exact (show Tryd.prog.wantsStandIn t = false by simpa using List.all_eq_true.1 hall t hm)
/-- THE CARD. -/
theorem proved : Rows.WideReadsCardSaid :=
  Claim7.holds_tied_plain_at .later [] _ _ _ _ said (fun _ h => by cases h) (by kernel_rfl) (fun _ h => by cases h) wideReads_row_tie rfl ⟨rfl, rfl⟩ (by kernel_rfl) rfl plain (by kernel_rfl)
#print axioms proved

end Go.Proofs.YtdbjjadgmfgjfaaDoor.wideReads
