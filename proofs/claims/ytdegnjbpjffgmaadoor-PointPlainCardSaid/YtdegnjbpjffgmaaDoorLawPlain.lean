/-
  The law PointPlain holds at every text: whether its bytes are all below 128; such a text is made of signs, one a byte.
  Conditions: none beyond the row's own.
-/
import Derived.Test.YtdegnjbpjffgmaaDoorPtTabs
import Derived.Test.YtdegnjbpjffgmaaDoorPt6
import Derived.ChangeMaps
namespace Go.Proofs.YtdegnjbpjffgmaaDoor.pointPlain
open Go Go.Proofs.YtdegnjbpjffgmaaDoor Go.ChangeShapes Go.WideShapes Go.ChangeAt Go.RowKit
open Go.ChangeMaps (open_string shut_string)
set_option linter.unusedSimpArgs false
set_option linter.unusedVariables false

theorem walk_long (s : ByteArray) (w : World) (hT : Tabs w) (h : 2000 < (s.size : Int)) :
    Calls Tryd.prog 6 #[.string s] w fun e w' => e = .returned (.bool true) ∧ Ext w w' := by
  go_enter Tryd.func6, Tryd.ntmps6
  go_wp2_with (go_at_call 11; refine (awake_yes _ hT).mono ?_; rintro e w2 ⟨rfl, hb2⟩)
  go_ret
  exact ⟨rfl, hb2⟩
theorem plain_at (s : ByteArray) (w : World) (hs : s.size ≤ 1099511627776) (p : Bool) (h : lowAll s = p) : Calls Tryd.prog 22 #[.string s] w fun e w' => e = .returned (.bool p) ∧ w = w' := by
  have := plain_any s w hs
  rwa [h] at this
theorem valid_at (s : ByteArray) (w : World) (hT : Tabs w) (hs : s.size ≤ 1099511627776) (h : validS s = true) : Calls Tryd.prog 18 #[.string s] w fun e w' => e = .returned (.bool true) ∧ Ext w w' := by
  have := valid_any s w hT hs
  rwa [h] at this
theorem count_at (s : ByteArray) (w : World) (hT : Tabs w) (hs : s.size ≤ 1099511627776) (h : validS s = true) (h2 : Lib.runeCount s = s.size) : Calls Tryd.prog 17 #[.string s] w fun e w' => e = .returned (.int .i64 s.size) ∧ Ext w w' := by
  have := count_yes s w hT hs h
  rwa [h2] at this
set_option maxRecDepth 100000 in
set_option maxHeartbeats 1000000 in
theorem walk_in (s : ByteArray) (w : World) (hT : Tabs w) (h : (s.size : Int) ≤ 2000) :
    Calls Tryd.prog 6 #[.string s] w fun e w' => e = .returned (.bool true) ∧ Ext w w' := by
  have HT := Lib.hid hT
  clear hT
  have hs : s.size ≤ 1099511627776 := by omega
  go_enter Tryd.func6, Tryd.ntmps6
  go_wp2
  go_loop [3, 11] (fun q i => ∃ (k : Nat) (b : Bool), k ≤ s.size ∧ i = .int .i64 k ∧ q = .bool b ∧ Hid (low s k = b)) (fun _ i => s.size - (intOf i).toNat)
  case atStart => exact ⟨0, true, by omega, rfl, rfl, low_zero s⟩
  case round =>
    obtain ⟨k, b, hk, rfl, rfl, HL⟩ := hrel
    by_cases hlt : k < s.size
    · cases b
      · go_wp2
        go_round
        case rel =>
          refine ⟨k + 1, false, by omega, by go_num, rfl, ?_⟩
          show low s (k + 1) = false
          rw [low_succ s k hlt, HL.out]
          rfl
        case measure => simp [intOf]; omega
      · obtain ⟨c, hc⟩ : ∃ c, decide (s[k].toNat < 128) = c := ⟨_, rfl⟩
        have hcz : decide ((s[k].toNat : Int) < 128) = c := by
          rw [← hc]
          congr 1
          exact propext ⟨fun h => by omega, fun h => by omega⟩
        have HC := Lib.hid hc
        clear hc
        go_wp2
        go_round
        case rel =>
          refine ⟨k + 1, c, by omega, by go_num, by first | rfl | simp [hcz] | simp_all, ?_⟩
          show low s (k + 1) = c
          rw [low_succ s k hlt, HL.out, HC.out]
          rfl
        case measure => simp [intOf]; omega
    · have hkl : k = s.size := by omega
      subst hkl
      have hla : lowAll s = b := HL.out
      cases b
      · have HP : Hid (∀ w, Calls Tryd.prog 22 #[.string s] w fun e w' => e = .returned (.bool false) ∧ w = w') := fun w => plain_at s w hs _ hla
        clear hla
        go_wp2_with (first | (go_at_call 11; refine (awake_yes _ HT.out).mono ?_; rintro e w1 ⟨rfl, hb1⟩) | (go_at_call 22; refine (HP.out _).mono ?_; rintro e w2 ⟨rfl, rfl⟩))
        go_ret
        exact ⟨rfl, hb1⟩
      · have HP : Hid (∀ w, Calls Tryd.prog 22 #[.string s] w fun e w' => e = .returned (.bool true) ∧ w = w') := fun w => plain_at s w hs _ hla
        have HV : Hid (∀ w, Tabs w → Calls Tryd.prog 18 #[.string s] w fun e w' => e = .returned (.bool true) ∧ Ext w w') := fun w hT => valid_at s w hT hs (lowAll_valid hla)
        have HN : Hid (∀ w, Tabs w → Calls Tryd.prog 17 #[.string s] w fun e w' => e = .returned (.int .i64 s.size) ∧ Ext w w') := fun w hT => count_at s w hT hs (lowAll_valid hla) (lowAll_count hla)
        clear hla
        go_wp2_with (first | (go_at_call 11; refine (awake_yes _ HT.out).mono ?_; rintro e w1 ⟨rfl, hb1⟩; have T1 := HT.out.ext hb1) | (go_at_call 22; refine (HP.out _).mono ?_; rintro e w2 ⟨rfl, rfl⟩) | (go_at_call 18; refine (HV.out _ T1).mono ?_; rintro e w3 ⟨rfl, hb3⟩; have T3 := T1.ext hb3) | (go_at_call 17; refine (HN.out _ T3).mono ?_; rintro e w4 ⟨rfl, hb4⟩))
        go_ret
        exact ⟨by simp, (hb1.trans hb3).trans hb4⟩
theorem walk (s : ByteArray) (W : World) (hT : Tabs W) :
    Calls Tryd.prog 6 #[.string s] W fun e w' => e = .returned (.bool true) ∧ Ext W w' := by
  by_cases h : 2000 < (s.size : Int)
  · exact walk_long s W hT h
  · exact walk_in s W hT (by omega)
set_option maxRecDepth 100000 in
theorem lifted (os : Os) (started : os.Started) (H : Type) (enc : TypeId × Value → H) :
    ReturnsInHanded {} Tryd.checked os 6 .any (fun w args => (Rows.pointPlainSpec.pre enc Tryd.prog Tryd.f6 Rows.pointPlainRow.domain false w args ∧ laidMetH Tryd.prog Rows.pointPlainRow.laid w) ∧ sizedMet enc Tryd.prog Tryd.f6 (OpenSpec.ofChange Rows.pointPlainSpec) false w args)
      (Rows.pointPlainSpec.post enc Tryd.prog Tryd.f6 false true false false) := by
  refine returnsInHanded_of_change_and (C := Tryd.checked) (X := fun w _ => laidMetH Tryd.prog Rows.pointPlainRow.laid w) (fun _ _ _ hh h => h.of_heap hh) own started (by kernel_rfl) Tryd.func6
    (ChangeSpec.witness_shaped (enc := enc) (C := Tryd.checked) (os := os) (X := fun w _ => laidMetH Tryd.prog Rows.pointPlainRow.laid w) false (World.laidAll Tryd.prog os Rows.pointPlainRow.laid) #[.string ByteArray.empty] 8 (World.laidAll_os _ _ _)
      (World.shaped_of_ZipB (by kernel_rfl) (by kernel_rfl)) (by kernel_rfl) (by kernel_rfl) (by kernel_rfl)
      (by rw [MakeChecks.laidMetH_plain _ _ _ (by kernel_rfl)]; exact laidMet_laidAll _ (by kernel_rfl) (by kernel_rfl))) ?_
  intro W base args ds gs before hval0 hW hcnd _ hL _
  have hT : Tabs W := tabs_of hL
  have hval : ∀ (j : Nat) t v, Tryd.f6.params[j]? = some t → args[j]? = some v → Value.okWide Tryd.prog W .any base t v := hval0
  have hW' := hW
  obtain ⟨p, q, hA0, hV, rfl, hfz, hnd⟩ := hW
  have hA : DataW.TrodAll enc Tryd.prog W 0 (fun _ => true) true Tryd.f6.params.toList args.toList ds p := hA0
  rw [Tryd.params6] at hA hval
  obtain ⟨v0, vs0, d0, ds0, p0, q0, hargs, rfl, rfl, h0, r0⟩ := trodAll_cons hA
  obtain ⟨rfl, rfl, rfl⟩ := trodAll_nil r0
  obtain rfl : args = #[v0] := by cases args; simp_all
  obtain ⟨rfl, rfl⟩ := trodVars_none hV
  obtain ⟨a0, rfl, rfl, rfl, w0⟩ := open_string Tryd.underlying9 (hval 0 9 v0 rfl rfl) h0
  clear hA0 hval0
  simp only [List.append_nil] at hW'
  refine (walk a0 W hT).mono fun e W' ⟨he, bel⟩ => ?_
  subst he
  exact ⟨_, rfl, _, _, _, [], [], [], hW', trodAll_mk1 (shut_bool Tryd.underlying4 _), (trodAll_cons_mk (shut_string Tryd.underlying9 w0) trodAll_mk0), rfl, bel.frame _, fun h => by cases h⟩

theorem over : Rows.pointPlainRow.holds Tryd.pinned (OpenSpec.ofChange Rows.pointPlainSpec) :=
  OpenClaim.holds_of_wide 6 Tryd.f6 rfl rfl rfl rfl rfl rfl rfl ⟨rfl, rfl, rfl, rfl, rfl⟩ rfl rfl rfl rfl rfl (by kernel_rfl) Tryd.func6 (by kernel_rfl)
    (of_decide_eq_true (by kernel_rfl)) (by unfold Func.isWrapper; first | (rw [if_pos (by decide +kernel)]; kernel_rfl) | (rw [if_neg (by decide +kernel)]; exact ⟨rfl, rfl⟩))
    (fun os started H enc _ => lifted os started H enc)

theorem said : Rows.PointPlainSaid := over
theorem plain (f : FuncId) (fn : Func) (hf : Tryd.pinned.checked.prog.funcNamed "diacritic/diacriticlaw02.PointPlain" = some f) (hfn : Tryd.pinned.checked.prog.funcs[f]? = some fn) :
    false = Tryd.pinned.checked.prog.looks [] ∧ ∀ (j : Nat) t, fn.params[j]? = some t → Tryd.pinned.checked.prog.wantsStandIn t = false := by
  obtain rfl : f = 6 := Option.some.inj ((show Tryd.prog.funcNamed "diacritic/diacriticlaw02.PointPlain" = some 6 by kernel_rfl).symm.trans hf) |>.symm
  obtain rfl : fn = Tryd.f6 := (Option.some.inj (Tryd.func6.symm.trans hfn)).symm
  refine ⟨by kernel_rfl, fun j t ht => ?_⟩
  rw [Tryd.params6] at ht
  have hm : t ∈ [9] := by simpa using Array.mem_of_getElem? ht
  have hall : ([9].all fun u => !Tryd.prog.wantsStandIn u) = true := by kernel_rfl
  exact (show Tryd.prog.wantsStandIn t = false by simpa using List.all_eq_true.1 hall t hm)
/-- THE CARD. -/
theorem proved : Rows.PointPlainCardSaid :=
  Claim7.holds_tied_plain_at .later [] _ _ _ _ said (fun _ h => by cases h) (by kernel_rfl) (fun _ h => by cases h) pointPlain_row_tie rfl ⟨rfl, rfl⟩ (by kernel_rfl) rfl plain (by kernel_rfl)
#print axioms proved

end Go.Proofs.YtdegnjbpjffgmaaDoor.pointPlain
