/-
  The law WideBack holds at every text: a text that is marked is read as it was; its bytes are two, and two for each sign below 10000 (base sixteen), four for each other.
  Conditions: none beyond the row's own.
-/
import Derived.Test.YtdbjjadgmfgjfaaDoorWdR3
import Derived.ChangeMaps
namespace Go.Proofs.YtdbjjadgmfgjfaaDoor.wideBack
open Go Go.Proofs.YtdbjjadgmfgjfaaDoor Go.ChangeShapes Go.WideShapes Go.ChangeAt Go.RowKit
open Go.ChangeMaps (open_string shut_string)
set_option linter.unusedSimpArgs false
set_option linter.unusedVariables false

theorem walk_long (s : ByteArray) (w : World) (hT : Tabs w) (h : 2000 < (s.size : Int)) :
    Calls Tryd.prog 6 #[.string s] w fun e w' => e = .returned (.bool true) ∧ Ext w w' := by
  go_enter Tryd.func6, Tryd.ntmps6
  go_wp2_with (go_at_call 7; refine (awake3 _ hT).mono ?_; rintro e w2 ⟨rfl, hb2⟩)
  go_ret
  exact ⟨rfl, hb2⟩
set_option maxRecDepth 100000 in
set_option maxHeartbeats 2000000 in
theorem walk_bad (s : ByteArray) (b : Int) (w : World) (hT : Tabs w) (hl : (s.size : Int) ≤ 2000) (hb0 : 0 ≤ b)
    (D : ∀ w, Tabs w → Calls Tryd.prog 17 #[.string s] w fun e w' => e = .returned (.tuple #[.string ⟨#[]⟩, .agg #[.int .i64 2, .int .i64 b]]) ∧ Ext w w')
    (R : ∀ w, Calls Tryd.prog 13 #[.string s] w fun e w' => e = .returned (.tuple #[.slice none 0 0, .int .i64 b]) ∧ Ext w w')
    (F : ∀ w, Calls Tryd.prog 10 #[.int .i64 b] w fun e w' => e = .returned (.agg #[.int .i64 2, .int .i64 b]) ∧ Ext w w') :
    Calls Tryd.prog 6 #[.string s] w fun e w' => e = .returned (.bool true) ∧ Ext w w' := by
  have HD := Lib.hid D
  have HR := Lib.hid R
  have HF := Lib.hid F
  have HT := Lib.hid hT
  clear D R F hT
  go_enter Tryd.func6, Tryd.ntmps6
  go_wp2_with (first
    | (go_at_call 13; refine (HR.out _).mono ?_; rintro e w1 ⟨rfl, hb1⟩)
    | (go_at_call 17; refine (HD.out _ (HT.out.ext hb1)).mono ?_; rintro e w2 ⟨rfl, hb2⟩; have hC := Fx.made HT.out (hb1.trans hb2) 2 b))
  obtain ⟨f, hf⟩ : ∃ f, f = w2.heap.size := ⟨_, rfl⟩
  rw [← hf] at hC ⊢
  clear hf hb1 hb2
  have hC2 := hC.ext (Ext.drew (Ext.refl _))
  clear hC
  have hC := hC2
  clear hC2
  obtain ⟨q0, q1⟩ := hC.cells
  go_region_held3 (fun W' => W'.cell? ⟨f, 0, none⟩ = some (.int .i64 2) ∧ W'.cell? ⟨f, 1, none⟩ = some (.int .i64 b)) (go_keep)
    (first | (go_at_call 7; refine (awake3 _ hC.tb).mono ?_; rintro e wx ⟨rfl, hbx⟩; have hC' := hC.ext hbx; clear hC hbx; have hC := hC'; clear hC'; obtain ⟨q0, q1⟩ := hC.cells) | (go_at_call 10; refine (HF.out _).mono ?_; rintro e wx ⟨rfl, hbx⟩; have hC' := hC.ext hbx; clear hC hbx; have hC := hC'; clear hC'; obtain ⟨q0, q1⟩ := hC.cells))
  go_wp2
  go_ret
  exact ⟨by simp, hC.ex⟩
/-- How many bytes signs have as units, behind a mark. -/
def bytesOf (zs : List Int) : Nat := 2 + (we false zs).length
theorem bytesOf_lo (a : List Int) (p : Int) (h : p < 65536) : bytesOf (a ++ [p]) = bytesOf a + 2 := by
  unfold bytesOf
  rw [we_app, we_cons, we_nil, unitsOf_lo h, List.append_nil, List.length_append, ubs_len]
  simp
  omega
theorem bytesOf_hi (a : List Int) (p : Int) (h : ¬ p < 65536) : bytesOf (a ++ [p]) = bytesOf a + 4 := by
  unfold bytesOf
  rw [we_app, we_cons, we_nil, unitsOf_hi h, List.append_nil, List.length_append, ubs_len]
  simp
  omega
/-- Two faults. -/
structure Ff (w0 w : World) (f g : Nat) : Prop where
  a : Fx w0 w f 0 0
  b : Fx w0 w g 0 0
theorem Ff.ext {w0 w w' : World} {f g : Nat} (h : Ff w0 w f g) (x : Ext w w') : Ff w0 w' f g := ⟨h.a.ext x, h.b.ext x⟩
set_option maxRecDepth 100000 in
set_option maxHeartbeats 4000000 in
theorem walk_ok (s u : ByteArray) (zs : List Int) (w : World) (hT : Tabs w) (hl : (s.size : Int) ≤ 2000) (hzl : zs.length ≤ 2000) (hus : u.size = bytesOf zs)
    (D : ∀ w, Tabs w → Calls Tryd.prog 17 #[.string s] w fun e w' => e = .returned (.tuple #[.string u, .agg #[.int .i64 0, .int .i64 0]]) ∧ Ext w w')
    (R : ∀ w, Calls Tryd.prog 13 #[.string s] w fun e w' => ∃ a c, e = .returned (.tuple #[.slice a zs.length c, .int .i64 (-1)]) ∧ IsRow w' a zs.length c zs ∧ Ext w w')
    (E : ∀ w, Calls Tryd.prog 16 #[.string u] w fun e w' => e = .returned (.tuple #[.string s, .agg #[.int .i64 0, .int .i64 0]]) ∧ Ext w w') :
    Calls Tryd.prog 6 #[.string s] w fun e w' => e = .returned (.bool true) ∧ Ext w w' := by
  have HD := Lib.hid D
  have HR := Lib.hid R
  have HE := Lib.hid E
  have HT := Lib.hid hT
  have HUS := Lib.hid hus
  clear D R E hT hus
  go_enter Tryd.func6, Tryd.ntmps6
  go_wp2_with (first
    | (go_at_call 13; refine (HR.out _).mono ?_; rintro e w1 ⟨a, c, rfl, hr1, hb1⟩)
    | (go_at_call 17; refine (HD.out _ (HT.out.ext hb1)).mono ?_; rintro e w2 ⟨rfl, hb2⟩; have hC := Fx.made HT.out (hb1.trans hb2) 0 0; have hr2 := (hr1.ext hb2).ext ((Ext.refl w2).alloc (.cells #[.int .i64 0, .int .i64 0] 25)); clear hr1 hb1 hb2))
  obtain ⟨f, hf⟩ : ∃ f, f = w2.heap.size := ⟨_, rfl⟩
  rw [← hf] at hC ⊢
  clear hf
  generalize w2.alloc (.cells #[.int .i64 0, .int .i64 0] 25) = W2 at hC hr2 ⊢
  go_loopw [7, 41] (fun m i wr => ∃ (k n : Nat), k ≤ zs.length ∧ i = .int .i64 k ∧ m = .int .i64 n ∧ Ext W2 wr ∧ n ≤ 2 + 4 * k ∧ Hid (n = bytesOf (zs.take k))) (fun _ i _ => zs.length - (intOf i).toNat)
  case atStart => exact ⟨0, 2, by omega, rfl, rfl, Ext.refl _, by omega, rfl⟩
  case round =>
    obtain ⟨k, n, hk, rfl, rfl, hx, hn, HN⟩ := hrel
    by_cases hlt : k < zs.length
    · obtain ⟨x, off, rfl, hxl, p, hp, hc⟩ := row_cell hr2 hlt
      have hc0 := (World.cell?_of_block (w := W2) (hx.block x hxl)).trans hc
      have htk : zs.take (k + 1) = zs.take k ++ [p] := by rw [List.take_add_one, hp]; rfl
      have HTK := Lib.hid htk
      clear htk hc hp
      by_cases hlo : p < 65536
      · have hnp : ¬ 65536 ≤ p := by omega
        go_wp2
        go_roundw
        case rel => exact ⟨k + 1, n + 2, by omega, by go_num, by go_num, hx, by omega, by show _ = _; rw [HTK.out, bytesOf_lo _ _ hlo, ← HN.out]⟩
        case measure => simp [intOf]; omega
      · have hnp : 65536 ≤ p := by omega
        go_wp2
        go_roundw
        case rel => exact ⟨k + 1, n + 4, by omega, by go_num, by first | go_num | (congr 1; omega), hx, by omega, by show _ = _; rw [HTK.out, bytesOf_hi _ _ (by omega), ← HN.out]⟩
        case measure => simp [intOf]; omega
    · have hkl : k = zs.length := by omega
      have hnu : n = u.size := by have := HN.out; rw [hkl, List.take_length] at this; rw [this, HUS.out]
      subst hnu
      clear HN HUS hr2
      have hC1 := hC.ext hx
      clear hC hx
      go_wp2_with (first
        | (go_at_call 16; refine (HE.out _).mono ?_; rintro e w3 ⟨rfl, hb3⟩; have hG : Ff w _ f w3.heap.size := ⟨(hC1.ext hb3).ext ((Ext.refl w3).alloc (.cells #[.int .i64 0, .int .i64 0] 25)), Fx.made HT.out (hC1.ex.trans hb3) 0 0⟩; clear hC1 hb3)
        | (go_at_call 7; refine (awake3 _ hG.a.tb).mono ?_; rintro e wx ⟨rfl, hbx⟩; have hG' := hG.ext hbx; clear hG hbx; have hG := hG'; clear hG'; obtain ⟨g0, g1⟩ := hG.a.cells; obtain ⟨k0, k1⟩ := hG.b.cells)
        | (go_at_call 12; refine (bad_no _ _ _ (by decide)).mono ?_; rintro e wx ⟨rfl, hbx⟩; have hG' := hG.ext hbx; clear hG hbx; have hG := hG'; clear hG'; obtain ⟨g0, g1⟩ := hG.a.cells; obtain ⟨k0, k1⟩ := hG.b.cells))
      go_ret
      exact ⟨by simp, hG.a.ex⟩
theorem walk (s : ByteArray) (W : World) (hT : Tabs W) :
    Calls Tryd.prog 6 #[.string s] W fun e w' => e = .returned (.bool true) ∧ Ext W w' := by
  by_cases h : 2000 < (s.size : Int)
  · exact walk_long s W hT h
  have hs : s.size ≤ 1099511627776 := by omega
  by_cases hb : badS s < 0
  · have hln := signs_len s
    have hsg := signs_all s
    have hwl := we_len_le false (signsOf s)
    have hms : (markTxt (signsOf s)).size = bytesOf (signsOf s) := by
      show (we false (signsOf s)).length + 1 + 1 = 2 + (we false (signsOf s)).length
      omega
    have hms2 : bytesOf (signsOf s) ≤ 10000 := by unfold bytesOf; omega
    refine walk_ok s (markTxt (signsOf s)) (signsOf s) W hT (by omega) (by omega) hms (fun w hT => withmark_good s w hT hs hb) (fun w => rpoints_ok s w hs hb) (fun w => ?_)
    have hd := marked_yes (markTxt (signsOf s)) false w (by omega) (by rw [hms]; unfold bytesOf; omega) (fun w => mark_small _ w (by omega) rfl)
    have hwe : wdAt false (markTxt (signsOf s)) 2 = (signsOf s, -1) := by
      have h1 := wd_we false (signsOf s) 2 [] hsg
      rw [List.append_nil, wd_nil, List.append_nil] at h1
      exact h1
    have hwt : wtxt (signsOf s) (-1) = s := (if_pos (by decide)).trans (signs_back hb)
    rw [hwe] at hd
    simp only at hd
    rw [hwt] at hd
    exact hd
  · exact walk_bad s (badS s) W hT (by omega) (by omega) (fun w hT => withmark_bad s _ w hT hs rfl hb) (fun w => rpoints_bad s w hs hb) (fun w => lawfault_yes _ hb w)
set_option maxRecDepth 100000 in
theorem lifted (os : Os) (started : os.Started) (H : Type) (enc : TypeId × Value → H) :
    ReturnsInHanded {} Tryd.checked os 6 .any (fun w args => (Rows.wideBackSpec.pre enc Tryd.prog Tryd.f6 Rows.wideBackRow.domain false w args ∧ laidMetH Tryd.prog Rows.wideBackRow.laid w) ∧ sizedMet enc Tryd.prog Tryd.f6 (OpenSpec.ofChange Rows.wideBackSpec) false w args)
      (Rows.wideBackSpec.post enc Tryd.prog Tryd.f6 false true false false) := by
  refine returnsInHanded_of_change_and (C := Tryd.checked) (X := fun w _ => laidMetH Tryd.prog Rows.wideBackRow.laid w) (fun _ _ _ hh h => h.of_heap hh) own started (by kernel_rfl) Tryd.func6
    (ChangeSpec.witness_shaped (enc := enc) (C := Tryd.checked) (os := os) (X := fun w _ => laidMetH Tryd.prog Rows.wideBackRow.laid w) false (World.laidAll Tryd.prog os Rows.wideBackRow.laid) #[.string ByteArray.empty] 8 (World.laidAll_os _ _ _)
      (World.shaped_of_ZipB (by kernel_rfl) (by kernel_rfl)) (by kernel_rfl) (by kernel_rfl) (by kernel_rfl)
      (by rw [MakeChecks.laidMetH_plain _ _ _ (by kernel_rfl)]; exact laidMet_laidAll _ (by kernel_rfl) (by kernel_rfl))) ?_
  intro W base args ds gs before hval0 hW hcnd _ hL _
  have hT : Tabs W := tabs_of hL
  have hval : ∀ (j : Nat) t v, Tryd.f6.params[j]? = some t → args[j]? = some v → Value.okWide Tryd.prog W .any base t v := hval0
  have hW' := hW
  obtain ⟨p, q, hA0, hV, rfl, hfz, hnd⟩ := hW
  have hA : DataW.TrodAll enc Tryd.prog W 0 (fun _ => true) true Tryd.f6.params.toList args.toList ds p := hA0
  rw [Tryd.params6] at hA hval
  obtain ⟨v0, vs0, d0, ds0, p0, q0, hargs, rfl, rfl, h0, r0⟩ := trodAll_cons hA
  obtain ⟨rfl, rfl, rfl⟩ := trodAll_nil r0
  obtain rfl : args = #[v0] := by cases args; simp_all
  obtain ⟨rfl, rfl⟩ := trodVars_none hV
  obtain ⟨a0, rfl, rfl, rfl, w0⟩ := open_string Tryd.underlying9 (hval 0 9 v0 rfl rfl) h0
  clear hA0 hval0
  simp only [List.append_nil] at hW'
  refine (walk a0 W hT).mono fun e W' ⟨he, bel⟩ => ?_
  subst he
  exact ⟨_, rfl, _, _, _, [], [], [], hW', trodAll_mk1 (shut_bool Tryd.underlying4 _), (trodAll_cons_mk (shut_string Tryd.underlying9 w0) trodAll_mk0), rfl, bel.frame _, fun h => by cases h⟩

theorem over : Rows.wideBackRow.holds Tryd.pinned (OpenSpec.ofChange Rows.wideBackSpec) :=
  OpenClaim.holds_of_wide 6 Tryd.f6 rfl rfl rfl rfl rfl rfl rfl ⟨rfl, rfl, rfl, rfl, rfl⟩ rfl rfl rfl rfl rfl (by kernel_rfl) Tryd.func6 (by kernel_rfl)
    (of_decide_eq_true (by kernel_rfl)) (by unfold Func.isWrapper; first | (rw [if_pos (by decide +kernel)]; kernel_rfl) | (rw [if_neg (by decide +kernel)]; exact ⟨rfl, rfl⟩))
    (fun os started H enc _ => lifted os started H enc)

theorem said : Rows.WideBackSaid := over
theorem plain (f : FuncId) (fn : Func) (hf : Tryd.pinned.checked.prog.funcNamed "diacritic/diacriticlaw03.WideBack" = some f) (hfn : Tryd.pinned.checked.prog.funcs[f]? = some fn) :
    false = Tryd.pinned.checked.prog.looks [] ∧ ∀ (j : Nat) t, fn.params[j]? = some t → Tryd.pinned.checked.prog.wantsStandIn t = false := by
  obtain rfl : f = 6 := Option.some.inj ((show Tryd.prog.funcNamed "diacritic/diacriticlaw03.WideBack" = some 6 by kernel_rfl).symm.trans hf) |>.symm
  obtain rfl : fn = Tryd.f6 := (Option.some.inj (Tryd.func6.symm.trans hfn)).symm
  refine ⟨by kernel_rfl, fun j t ht => ?_⟩
  rw [Tryd.params6] at ht
  have hm : t ∈ [9] := by simpa using Array.mem_of_getElem? ht
  have hall : ([9].all fun u => !Tryd.prog.wantsStandIn u) = true := by kernel_rfl
  exact (show Tryd.prog.wantsStandIn t = false by simpa using List.all_eq_true.1 hall t hm)
/-- THE CARD. -/
theorem proved : Rows.WideBackCardSaid :=
  Claim7.holds_tied_plain_at .later [] _ _ _ _ said (fun _ h => by cases h) (by kernel_rfl) (fun _ h => by cases h) wideBack_row_tie rfl ⟨rfl, rfl⟩ (by kernel_rfl) rfl plain (by kernel_rfl)
#print axioms proved

end Go.Proofs.YtdbjjadgmfgjfaaDoor.wideBack
