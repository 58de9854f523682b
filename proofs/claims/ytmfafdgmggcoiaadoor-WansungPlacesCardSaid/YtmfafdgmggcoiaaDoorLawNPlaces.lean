/-
  The law WansungPlaces holds at every number: the syllable of any number in the rows, and among the others, or that there is none, are the document's.
  Conditions: none beyond the row's own.
-/
import Derived.Test.YtmfafdgmggcoiaaDoorWnT
namespace Go.Proofs.YtmfafdgmggcoiaaDoor.wansungPlaces
open Go Go.Proofs.YtmfafdgmggcoiaaDoor Go.ChangeShapes Go.WideShapes Go.ChangeAt Go.RowKit
open Go.ChangeMaps (open_string shut_string)
set_option linter.unusedSimpArgs false
set_option linter.unusedVariables false

theorem own : ownKnob Tryd.prog.godebug = none := by kernel_rfl
set_option maxRecDepth 100000 in
set_option maxHeartbeats 1000000 in
theorem walk_no (k : Int) (h : k < 0 ∨ 12000 < k) (W : World) (hT : Tabs W) : Calls Tryd.prog 4 #[.int .i64 k] W fun e w' => e = .returned (.bool true) ∧ Ext W w' := by
  have HP := Lib.hid (fun w hT => place_at k w hT)
  have HE := Lib.hid (fun w hT => extra_at k w hT)
  have e1 : kthZ true k = 0 := by
    have := kth_ne true k
    rw [rows_many] at this
    by_cases q : kthZ true k = 0
    · exact q
    · have := this.1 q; omega
  have e2 : kthZ false k = 0 := by
    have := kth_ne false k
    rw [others_many] at this
    by_cases q : kthZ false k = 0
    · exact q
    · have := this.1 q; omega
  rw [e1, decide_eq_false (by omega)] at HP
  rw [e2, decide_eq_false (by omega)] at HE
  have HT := Lib.hid hT
  have h3 : k < 0 ∨ (¬ k < 0 ∧ 12000 < k) := by omega
  clear h hT e1 e2
  rcases h3 with h3 | ⟨h3, h4⟩
  all_goals
    go_enter Tryd.func4, Tryd.ntmps4
    go_wp2_with (first
      | (go_at_call 11; refine (HP.out _ HT.out).mono ?_; rintro e w1 ⟨rfl, hb1⟩)
      | (go_at_call 12; refine (HE.out _ (HT.out.ext hb1)).mono ?_; rintro e w2 ⟨rfl, hb2⟩)
      | (go_at_call 8; refine (awake7 _ ((HT.out.ext hb1).ext hb2)).mono ?_; rintro e w3 ⟨rfl, hb3⟩))
    go_ret
    exact ⟨rfl, (hb1.trans hb2).trans hb3⟩
set_option maxRecDepth 100000 in
set_option maxHeartbeats 1000000 in
theorem walk_yes (k : Nat) (h : k ≤ 12000) (W : World) (hT : Tabs W) : Calls Tryd.prog 4 #[.int .i64 k] W fun e w' => e = .returned (.bool true) ∧ Ext W w' := by
  have HP := Lib.hid (fun w hT => place_at k w hT)
  have HE := Lib.hid (fun w hT => extra_at k w hT)
  have HA := Lib.hid (fun w => rkth_nat k true w (by omega))
  have HB := Lib.hid (fun w => rkth_nat k false w (by omega))
  have n1 := kth_ne true (k : Int)
  have n2 := kth_ne false (k : Int)
  rw [rows_many] at n1
  rw [others_many] at n2
  have HT := Lib.hid hT
  obtain ⟨K, hK⟩ : ∃ K : Int, K = (k : Int) := ⟨_, rfl⟩
  rw [← hK] at HP HE HA HB n1 n2 ⊢
  have h1 : ¬ K < 0 := by omega
  have h2 : ¬ 12000 < K := by omega
  obtain ⟨x, hx⟩ : ∃ x, x = kthZ true K := ⟨_, rfl⟩
  obtain ⟨y, hy⟩ : ∃ y, y = kthZ false K := ⟨_, rfl⟩
  rw [← hx] at HP HA n1
  rw [← hy] at HE HB n2
  clear hx hy hK h hT
  by_cases c1 : K < 2350
  · have m1 : (x == 0) = false := beq_false_of_ne (n1.2 (by omega))
    have m2 : (y == 0) = false := beq_false_of_ne (n2.2 (by omega))
    have m3 : (x != 0) = true := by simp [bne, m1]
    have m4 : (y != 0) = true := by simp [bne, m2]
    have c2 : K < 8822 := by omega
    rw [decide_eq_true (by omega)] at HP HE
    clear n1 n2
    go_enter Tryd.func4, Tryd.ntmps4
    go_wp2_with (first
      | (go_at_call 11; refine (HP.out _ HT.out).mono ?_; rintro e w1 ⟨rfl, hb1⟩)
      | (go_at_call 12; refine (HE.out _ (HT.out.ext hb1)).mono ?_; rintro e w2 ⟨rfl, hb2⟩)
      | (go_at_call 13; have hq := HA; clear HA; refine (hq.out _).mono ?_; clear hq; rintro e w4 ⟨rfl, rfl⟩)
      | (go_at_call 13; refine (HB.out _).mono ?_; rintro e w5 ⟨rfl, rfl⟩)
      | (go_at_call 8; refine (awake7 _ ((HT.out.ext hb1).ext hb2)).mono ?_; rintro e w3 ⟨rfl, hb3⟩))
    all_goals
      go_ret
      exact ⟨by simp <;> omega, (hb1.trans hb2).trans hb3⟩
  · have e1 : x = 0 := by
      by_cases q : x = 0
      · exact q
      · have := n1.1 q; omega
    by_cases c2 : K < 8822
    · have m2 : (y == 0) = false := beq_false_of_ne (n2.2 (by omega))
      have m4 : (y != 0) = true := by simp [bne, m2]
      subst e1
      rw [decide_eq_false (by omega)] at HP
      rw [decide_eq_true (by omega)] at HE
      clear n1 n2
      go_enter Tryd.func4, Tryd.ntmps4
      go_wp2_with (first
        | (go_at_call 11; refine (HP.out _ HT.out).mono ?_; rintro e w1 ⟨rfl, hb1⟩)
        | (go_at_call 12; refine (HE.out _ (HT.out.ext hb1)).mono ?_; rintro e w2 ⟨rfl, hb2⟩)
        | (go_at_call 13; have hq := HA; clear HA; refine (hq.out _).mono ?_; clear hq; rintro e w4 ⟨rfl, rfl⟩)
        | (go_at_call 13; refine (HB.out _).mono ?_; rintro e w5 ⟨rfl, rfl⟩)
        | (go_at_call 8; refine (awake7 _ ((HT.out.ext hb1).ext hb2)).mono ?_; rintro e w3 ⟨rfl, hb3⟩))
      all_goals
        go_ret
        exact ⟨by simp <;> omega, (hb1.trans hb2).trans hb3⟩
    · have e2 : y = 0 := by
        by_cases q : y = 0
        · exact q
        · have := n2.1 q; omega
      subst e1 e2
      rw [decide_eq_false (by omega)] at HP HE
      clear n1 n2
      go_enter Tryd.func4, Tryd.ntmps4
      go_wp2_with (first
        | (go_at_call 11; refine (HP.out _ HT.out).mono ?_; rintro e w1 ⟨rfl, hb1⟩)
        | (go_at_call 12; refine (HE.out _ (HT.out.ext hb1)).mono ?_; rintro e w2 ⟨rfl, hb2⟩)
        | (go_at_call 13; have hq := HA; clear HA; refine (hq.out _).mono ?_; clear hq; rintro e w4 ⟨rfl, rfl⟩)
        | (go_at_call 13; refine (HB.out _).mono ?_; rintro e w5 ⟨rfl, rfl⟩)
        | (go_at_call 8; refine (awake7 _ ((HT.out.ext hb1).ext hb2)).mono ?_; rintro e w3 ⟨rfl, hb3⟩))
      all_goals
        go_ret
        exact ⟨by simp <;> omega, (hb1.trans hb2).trans hb3⟩
theorem walk (a : Int) (W : World) (hT : Tabs W) : Calls Tryd.prog 4 #[.int .i64 a] W fun e w' => e = .returned (.bool true) ∧ Ext W w' := by
  by_cases h : a < 0 ∨ 12000 < a
  · exact walk_no a h W hT
  · obtain ⟨k, rfl⟩ := Int.eq_ofNat_of_zero_le (show 0 ≤ a by omega)
    exact walk_yes k (by omega) W hT
set_option maxRecDepth 100000 in
theorem lifted (os : Os) (started : os.Started) (H : Type) (enc : TypeId × Value → H) :
    ReturnsInHanded {} Tryd.checked os 4 .any (fun w args => (Rows.wansungPlacesSpec.pre enc Tryd.prog Tryd.f4 Rows.wansungPlacesRow.domain false w args ∧ laidMetH Tryd.prog Rows.wansungPlacesRow.laid w) ∧ sizedMet enc Tryd.prog Tryd.f4 (OpenSpec.ofChange Rows.wansungPlacesSpec) false w args)
      (Rows.wansungPlacesSpec.post enc Tryd.prog Tryd.f4 false true false false) := by
  refine returnsInHanded_of_change_and (C := Tryd.checked) (X := fun w _ => laidMetH Tryd.prog Rows.wansungPlacesRow.laid w) (fun _ _ _ hh h => h.of_heap hh) own started (by kernel_rfl) Tryd.func4
    (ChangeSpec.witness_shaped (enc := enc) (C := Tryd.checked) (os := os) (X := fun w _ => laidMetH Tryd.prog Rows.wansungPlacesRow.laid w) false (World.laidAll Tryd.prog os Rows.wansungPlacesRow.laid) #[.int .i64 0] 8 (World.laidAll_os _ _ _)
      (World.shaped_of_ZipB (by kernel_rfl) (by kernel_rfl)) (by kernel_rfl) (by kernel_rfl) (by kernel_rfl)
      (by rw [MakeChecks.laidMetH_plain _ _ _ (by kernel_rfl)]; exact laidMet_laidAll _ (by kernel_rfl) (by kernel_rfl))) ?_
  intro W base args ds gs before hval0 hW hcnd _ hL _
  have hT : Tabs W := tabs_of hL
  have hval : ∀ (j : Nat) t v, Tryd.f4.params[j]? = some t → args[j]? = some v → Value.okWide Tryd.prog W .any base t v := hval0
  have hW' := hW
  obtain ⟨p, q, hA0, hV, rfl, hfz, hnd⟩ := hW
  have hA : DataW.TrodAll enc Tryd.prog W 0 (fun _ => true) true Tryd.f4.params.toList args.toList ds p := hA0
  rw [Tryd.params4] at hA hval
  obtain ⟨v0, vs0, d0, ds0, p0, q0, hargs, rfl, rfl, h0, r0⟩ := trodAll_cons hA
  obtain ⟨rfl, rfl, rfl⟩ := trodAll_nil r0
  obtain rfl : args = #[v0] := by cases args; simp_all
  obtain ⟨rfl, rfl⟩ := trodVars_none hV
  obtain ⟨a0, rfl, rfl, rfl, w0⟩ := open_int Tryd.underlying3 (hval 0 3 v0 rfl rfl) h0
  clear hA0 hval0
  try simp only [List.append_nil] at hW'
  refine (walk a0 W hT).mono fun e W' ⟨he, bel⟩ => ?_
  subst he
  exact ⟨_, rfl, _, _, _, [], [], [], hW', trodAll_mk1 (shut_bool Tryd.underlying4 _), (trodAll_cons_mk (shut_int Tryd.underlying3 w0) trodAll_mk0), rfl, bel.frame _, fun h => by cases h⟩

theorem over : Rows.wansungPlacesRow.holds Tryd.pinned (OpenSpec.ofChange Rows.wansungPlacesSpec) :=
  OpenClaim.holds_of_wide 4 Tryd.f4 rfl rfl rfl rfl rfl rfl rfl ⟨rfl, rfl, rfl, rfl, rfl⟩ rfl rfl rfl rfl rfl (by kernel_rfl) Tryd.func4 (by kernel_rfl)
    (of_decide_eq_true (by kernel_rfl)) (by unfold Func.isWrapper; first | (rw [if_pos (by decide +kernel)]; kernel_rfl) | (rw [if_neg (by decide +kernel)]; exact ⟨rfl, rfl⟩))
    (fun os started H enc _ => lifted os started H enc)

theorem said : Rows.WansungPlacesSaid := over
theorem plain (f : FuncId) (fn : Func) (hf : Tryd.pinned.checked.prog.funcNamed "diacritic/diacriticlaw07.WansungPlaces" = some f) (hfn : Tryd.pinned.checked.prog.funcs[f]? = some fn) :
    Rows.wansungPlacesCard.stood.looks = Tryd.pinned.checked.prog.looks [] ∧ ∀ (j : Nat) t, fn.params[j]? = some t → Tryd.pinned.checked.prog.wantsStandIn t = false := by
  obtain rfl : f = 4 := Option.some.inj ((show Tryd.prog.funcNamed "diacritic/diacriticlaw07.WansungPlaces" = some 4 by kernel_rfl).symm.trans hf) |>.symm
  obtain rfl : fn = Tryd.f4 := (Option.some.inj (Tryd.func4.symm.trans hfn)).symm
  refine ⟨by kernel_rfl, fun j t ht => ?_⟩
  rw [Tryd.params4] at ht
  have hm : t ∈ [3] := by simpa using Array.mem_of_getElem? ht
  have hall : ([3].all fun u => !Tryd.prog.wantsStandIn u) = true := by kernel_rfl
  exact (show Tryd.prog.wantsStandIn t = false by simpa using List.all_eq_true.1 hall t hm)
/-- THE CARD. -/
theorem proved : Rows.WansungPlacesCardSaid :=
  Claim7.holds_tied_plain_at .later [] _ _ _ _ said (fun _ h => by cases h) (by kernel_rfl) (fun _ h => by cases h) wansungPlaces_row_tie rfl ⟨rfl, rfl⟩ (by kernel_rfl) rfl plain (by kernel_rfl)
#print axioms proved

end Go.Proofs.YtmfafdgmggcoiaaDoor.wansungPlaces
