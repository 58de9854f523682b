/-
  The law WideWrites holds at every text, in either order of bytes: any text as units, or where it isn't made of signs, are the document's; what is encoded is decoded as it was.
  Conditions: none beyond the row's own.
-/
import Derived.Test.YtdbjjadgmfgjfaaDoorWdR3
import Derived.ChangeMaps
namespace Go.Proofs.YtdbjjadgmfgjfaaDoor.wideWrites
open Go Go.Proofs.YtdbjjadgmfgjfaaDoor Go.ChangeShapes Go.WideShapes Go.ChangeAt Go.RowKit
open Go.ChangeMaps (open_string shut_string)
set_option linter.unusedSimpArgs false
set_option linter.unusedVariables false

theorem walk_long (s : ByteArray) (big : Bool) (w : World) (hT : Tabs w) (h : 2000 < (s.size : Int)) :
    Calls Tryd.prog 4 #[.string s, .bool big] w fun e w' => e = .returned (.bool true) ∧ Ext w w' := by
  go_enter Tryd.func4, Tryd.ntmps4
  go_wp2_with (go_at_call 7; refine (awake3 _ hT).mono ?_; rintro e w2 ⟨rfl, hb2⟩)
  go_ret
  exact ⟨rfl, hb2⟩
set_option maxRecDepth 100000 in
set_option maxHeartbeats 2000000 in
theorem walk_bad (s : ByteArray) (big : Bool) (b : Int) (w : World) (hT : Tabs w) (hl : (s.size : Int) ≤ 2000) (hb0 : 0 ≤ b)
    (D : ∀ w, Tabs w → Calls Tryd.prog 11 #[.string s, .bool big] w fun e w' => e = .returned (.tuple #[.string ⟨#[]⟩, .agg #[.int .i64 2, .int .i64 b]]) ∧ Ext w w')
    (R : ∀ w, Calls Tryd.prog 13 #[.string s] w fun e w' => e = .returned (.tuple #[.slice none 0 0, .int .i64 b]) ∧ Ext w w')
    (F : ∀ w, Calls Tryd.prog 10 #[.int .i64 b] w fun e w' => e = .returned (.agg #[.int .i64 2, .int .i64 b]) ∧ Ext w w') :
    Calls Tryd.prog 4 #[.string s, .bool big] w fun e w' => e = .returned (.bool true) ∧ Ext w w' := by
  have HD := Lib.hid D
  have HR := Lib.hid R
  have HF := Lib.hid F
  have HT := Lib.hid hT
  clear D R F hT
  go_enter Tryd.func4, Tryd.ntmps4
  go_wp2_with (first
    | (go_at_call 11; refine (HD.out _ HT.out).mono ?_; rintro e w1 ⟨rfl, hb1⟩; have hC := Fx.made HT.out hb1 2 b)
    | (go_at_call 13; refine (HR.out _).mono ?_; rintro e w2 ⟨rfl, hb2⟩; have hC2 := hC.ext hb2; clear hC hb2; have hC := hC2; clear hC2))
  obtain ⟨f, hf⟩ : ∃ f, f = w1.heap.size := ⟨_, rfl⟩
  rw [← hf] at hC ⊢
  clear hf hb1
  have hC2 := hC.ext (Ext.drew (Ext.refl _))
  clear hC
  have hC := hC2
  clear hC2
  obtain ⟨q0, q1⟩ := hC.cells
  go_region_held3 (fun W' => W'.cell? ⟨f, 0, none⟩ = some (.int .i64 2) ∧ W'.cell? ⟨f, 1, none⟩ = some (.int .i64 b)) (go_keep)
    (first | (go_at_call 10; refine (HF.out _).mono ?_; rintro e wx ⟨rfl, hbx⟩; have hC' := hC.ext hbx; clear hC hbx; have hC := hC'; clear hC'; obtain ⟨q0, q1⟩ := hC.cells))
  go_wp2_with (first | (go_at_call 7; refine (awake3 _ hC.tb).mono ?_; rintro e wx ⟨rfl, hbx⟩; have hC' := hC.ext hbx; clear hC hbx; have hC := hC'; clear hC'; obtain ⟨q0, q1⟩ := hC.cells))
  go_ret
  exact ⟨by simp, hC.ex⟩
/-- A fault, and a row of signs. -/
structure Fr (w0 w : World) (f : Nat) (a : Option Addr) (c : Nat) (zs : List Int) : Prop where
  x : Fx w0 w f 0 0
  r : IsRow w a zs.length c zs
theorem Fr.ext {w0 w w' : World} {f : Nat} {a : Option Addr} {c : Nat} {zs : List Int} (h : Fr w0 w f a c zs) (k : Ext w w') : Fr w0 w' f a c zs := ⟨h.x.ext k, h.r.ext k⟩
set_option maxRecDepth 100000 in
set_option maxHeartbeats 2000000 in
theorem walk_ok (s : ByteArray) (big : Bool) (u : ByteArray) (zs : List Int) (w : World) (hT : Tabs w) (hl : (s.size : Int) ≤ 2000)
    (D : ∀ w, Tabs w → Calls Tryd.prog 11 #[.string s, .bool big] w fun e w' => e = .returned (.tuple #[.string u, .agg #[.int .i64 0, .int .i64 0]]) ∧ Ext w w')
    (R : ∀ w, Calls Tryd.prog 13 #[.string s] w fun e w' => ∃ a c, e = .returned (.tuple #[.slice a zs.length c, .int .i64 (-1)]) ∧ IsRow w' a zs.length c zs ∧ Ext w w')
    (F : ∀ w, Calls Tryd.prog 10 #[.int .i64 (-1)] w fun e w' => e = .returned (.agg #[.int .i64 0, .int .i64 0]) ∧ Ext w w')
    (E : ∀ w, Calls Tryd.prog 8 #[.string u, .bool big] w fun e w' => e = .returned (.tuple #[.string s, .agg #[.int .i64 0, .int .i64 0]]) ∧ Ext w w')
    (G : ∀ w a c, IsRow w a zs.length c zs → Calls Tryd.prog 14 #[.slice a zs.length c, .bool big] w fun e w' => e = .returned (.string u) ∧ Ext w w') :
    Calls Tryd.prog 4 #[.string s, .bool big] w fun e w' => e = .returned (.bool true) ∧ Ext w w' := by
  have HD := Lib.hid D
  have HR := Lib.hid R
  have HF := Lib.hid F
  have HE := Lib.hid E
  have HG := Lib.hid G
  have HT := Lib.hid hT
  clear D R F E G hT
  go_enter Tryd.func4, Tryd.ntmps4
  go_wp2_with (first
    | (go_at_call 11; refine (HD.out _ HT.out).mono ?_; rintro e w1 ⟨rfl, hb1⟩; have hC := Fx.made HT.out hb1 0 0)
    | (go_at_call 13; refine (HR.out _).mono ?_; rintro e w2 ⟨a, c, rfl, hr2, hb2⟩; have hC2 : Fr w w2 w1.heap.size a c zs := ⟨hC.ext hb2, hr2⟩; clear hC hb2 hr2; have hC := hC2; clear hC2))
  obtain ⟨f, hf⟩ : ∃ f, f = w1.heap.size := ⟨_, rfl⟩
  rw [← hf] at hC ⊢
  clear hf hb1
  have hC2 := hC.ext (Ext.drew (Ext.refl _))
  clear hC
  have hC := hC2
  clear hC2
  obtain ⟨q0, q1⟩ := hC.x.cells
  go_region_held3 (fun W' => W'.cell? ⟨f, 0, none⟩ = some (.int .i64 0) ∧ W'.cell? ⟨f, 1, none⟩ = some (.int .i64 0)) (go_keep)
    (first | (go_at_call 10; refine (HF.out _).mono ?_; rintro e wx ⟨rfl, hbx⟩; have hC' := hC.ext hbx; clear hC hbx; have hC := hC'; clear hC'; obtain ⟨q0, q1⟩ := hC.x.cells))
  go_wp2_with (first
    | (go_at_call 8; refine (HE.out _).mono ?_; rintro e w3 ⟨rfl, hb3⟩; have hG : Fr w _ w3.heap.size a c zs := ⟨Fx.made HT.out (hC.x.ex.trans hb3) 0 0, (hC.r.ext hb3).ext ((Ext.refl w3).alloc (.cells #[.int .i64 0, .int .i64 0] 25))⟩; clear hC hb3)
    | (go_at_call 7; refine (awake3 _ hG.x.tb).mono ?_; rintro e wx ⟨rfl, hbx⟩; have hG' := hG.ext hbx; clear hG hbx; have hG := hG'; clear hG'; obtain ⟨g0, g1⟩ := hG.x.cells)
    | (go_at_call 14; refine (HG.out _ _ _ hG.r).mono ?_; rintro e wx ⟨rfl, hbx⟩; have hG' := hG.ext hbx; clear hG hbx; have hG := hG'; clear hG'; obtain ⟨g0, g1⟩ := hG.x.cells)
    | (go_at_call 12; refine (bad_no _ _ _ (by decide)).mono ?_; rintro e wx ⟨rfl, hbx⟩; have hG' := hG.ext hbx; clear hG hbx; have hG := hG'; clear hG'))
  go_ret
  exact ⟨by simp, hG.x.ex⟩
theorem walk (s : ByteArray) (big : Bool) (W : World) (hT : Tabs W) :
    Calls Tryd.prog 4 #[.string s, .bool big] W fun e w' => e = .returned (.bool true) ∧ Ext W w' := by
  by_cases h : 2000 < (s.size : Int)
  · exact walk_long s big W hT h
  have hs : s.size ≤ 1099511627776 := by omega
  by_cases hb : badS s < 0
  · have hln := signs_len s
    have hsg := signs_all s
    have hde : wdS big (weTxt big (signsOf s)) = (signsOf s, -1) := wd_enc big _ hsg
    have hws := weTxt_size big (signsOf s)
    refine walk_ok s big (weTxt big (signsOf s)) (signsOf s) W hT (by omega) (fun w hT => encode_good s big w hT hs hb) (fun w => rpoints_ok s w hs hb) (fun w => lawfault_no (-1) (by decide) w) (fun w => ?_) (fun w a c hr => rencode big a c (signsOf s) w hr (by omega) hsg)
    have hd := decode_any (weTxt big (signsOf s)) big w (by omega)
    have hwt : wtxt (signsOf s) (-1) = s := (if_pos (by decide)).trans (signs_back hb)
    rw [hde] at hd
    simp only at hd
    rw [hwt] at hd
    exact hd
  · exact walk_bad s big (badS s) W hT (by omega) (by omega) (fun w hT => encode_bad s big _ w hT hs rfl hb) (fun w => rpoints_bad s w hs hb) (fun w => lawfault_yes _ hb w)
set_option maxRecDepth 100000 in
theorem lifted (os : Os) (started : os.Started) (H : Type) (enc : TypeId × Value → H) :
    ReturnsInHanded {} Tryd.checked os 4 .any (fun w args => (Rows.wideWritesSpec.pre enc Tryd.prog Tryd.f4 Rows.wideWritesRow.domain false w args ∧ laidMetH Tryd.prog Rows.wideWritesRow.laid w) ∧ sizedMet enc Tryd.prog Tryd.f4 (OpenSpec.ofChange Rows.wideWritesSpec) false w args)
      (Rows.wideWritesSpec.post enc Tryd.prog Tryd.f4 false true false false) := by
  refine returnsInHanded_of_change_and (C := Tryd.checked) (X := fun w _ => laidMetH Tryd.prog Rows.wideWritesRow.laid w) (fun _ _ _ hh h => h.of_heap hh) own started (by kernel_rfl) Tryd.func4
    (ChangeSpec.witness_shaped (enc := enc) (C := Tryd.checked) (os := os) (X := fun w _ => laidMetH Tryd.prog Rows.wideWritesRow.laid w) false (World.laidAll Tryd.prog os Rows.wideWritesRow.laid) #[.string ByteArray.empty, .bool false] 8 (World.laidAll_os _ _ _)
      (World.shaped_of_ZipB (by kernel_rfl) (by kernel_rfl)) (by kernel_rfl) (by kernel_rfl) (by kernel_rfl)
      (by rw [MakeChecks.laidMetH_plain _ _ _ (by kernel_rfl)]; exact laidMet_laidAll _ (by kernel_rfl) (by kernel_rfl))) ?_
  intro W base args ds gs before hval0 hW hcnd _ hL _
  have hT : Tabs W := tabs_of hL
  have hval : ∀ (j : Nat) t v, Tryd.f4.params[j]? = some t → args[j]? = some v → Value.okWide Tryd.prog W .any base t v := hval0
  have hW' := hW
  obtain ⟨p, q, hA0, hV, rfl, hfz, hnd⟩ := hW
  have hA : DataW.TrodAll enc Tryd.prog W 0 (fun _ => true) true Tryd.f4.params.toList args.toList ds p := hA0
  rw [Tryd.params4] at hA hval
  obtain ⟨v0, vs0, d0, ds0, p0, q0, hargs, rfl, rfl, h0, r0⟩ := trodAll_cons hA
  obtain ⟨v1, vs1, d1, ds1, p1, q1, rfl, rfl, rfl, h1, r1⟩ := trodAll_cons r0
  obtain ⟨rfl, rfl, rfl⟩ := trodAll_nil r1
  obtain rfl : args = #[v0, v1] := by cases args; simp_all
  obtain ⟨rfl, rfl⟩ := trodVars_none hV
  obtain ⟨a0, rfl, rfl, rfl, w0⟩ := open_string Tryd.underlying9 (hval 0 9 v0 rfl rfl) h0
  obtain ⟨a1, rfl, rfl, rfl⟩ := open_bool Tryd.underlying4 (hval 1 4 v1 rfl rfl) h1
  clear hA0 hval0
  simp only [List.append_nil] at hW'
  refine (walk a0 a1 W hT).mono fun e W' ⟨he, bel⟩ => ?_
  subst he
  exact ⟨_, rfl, _, _, _, [], [], [], hW', trodAll_mk1 (shut_bool Tryd.underlying4 _), (trodAll_cons_mk (shut_string Tryd.underlying9 w0) (trodAll_cons_mk (shut_bool Tryd.underlying4 _) trodAll_mk0)), rfl, bel.frame _, fun h => by cases h⟩

theorem over : Rows.wideWritesRow.holds Tryd.pinned (OpenSpec.ofChange Rows.wideWritesSpec) :=
  OpenClaim.holds_of_wide 4 Tryd.f4 rfl rfl rfl rfl rfl rfl rfl ⟨rfl, rfl, rfl, rfl, rfl⟩ rfl rfl rfl rfl rfl (by kernel_rfl) Tryd.func4 (by kernel_rfl)
    (of_decide_eq_true (by kernel_rfl)) (by unfold Func.isWrapper; first | (rw [if_pos (by decide +kernel)]; kernel_rfl) | (rw [if_neg (by decide +kernel)]; exact ⟨rfl, rfl⟩))
    (fun os started H enc _ => lifted os started H enc)

theorem said : Rows.WideWritesSaid := over
theorem plain (f : FuncId) (fn : Func) (hf : Tryd.pinned.checked.prog.funcNamed "diacritic/diacriticlaw03.WideWrites" = some f) (hfn : Tryd.pinned.checked.prog.funcs[f]? = some fn) :
    false = Tryd.pinned.checked.prog.looks [] ∧ ∀ (j : Nat) t, fn.params[j]? = some t → Tryd.pinned.checked.prog.wantsStandIn t = false := by
  obtain rfl : f = 4 := Option.some.inj ((show Tryd.prog.funcNamed "diacritic/diacriticlaw03.WideWrites" = some 4 by kernel_rfl).symm.trans hf) |>.symm
  obtain rfl : fn = Tryd.f4 := (Option.some.inj (Tryd.func4.symm.trans hfn)).symm
  refine ⟨by kernel_rfl, fun j t ht => ?_⟩
  rw [Tryd.params4] at ht
  have hm : t ∈ [9, 4] := by simpa using Array.mem_of_getElem? ht
  have hall : ([9, 4].all fun u => !Tryd.prog.wantsStandIn u) = true := by kernel_rfl
  exact (show Tryd.prog.wantsStandIn t = false by simpa using List.all_eq_true.1 hall t hm)
/-- THE CARD. -/
theorem proved : Rows.WideWritesCardSaid :=
  Claim7.holds_tied_plain_at .later [] _ _ _ _ said (fun _ h => by cases h) (by kernel_rfl) (fun _ h => by cases h) wideWrites_row_tie rfl ⟨rfl, rfl⟩ (by kernel_rfl) rfl plain (by kernel_rfl)
#print axioms proved

end Go.Proofs.YtdbjjadgmfgjfaaDoor.wideWrites
