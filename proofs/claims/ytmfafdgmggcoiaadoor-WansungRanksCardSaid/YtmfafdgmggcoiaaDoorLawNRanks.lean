/-
  The law WansungRanks holds at every number: each syllable's number in the rows, or among the others, is the document's, and leads back to it; other signs have none.
  Conditions: none beyond the row's own.
-/
import Derived.Test.YtmfafdgmggcoiaaDoorWnT
namespace Go.Proofs.YtmfafdgmggcoiaaDoor.wansungRanks
open Go Go.Proofs.YtmfafdgmggcoiaaDoor Go.ChangeShapes Go.WideShapes Go.ChangeAt Go.RowKit
open Go.ChangeMaps (open_string shut_string)
set_option linter.unusedSimpArgs false
set_option linter.unusedVariables false

theorem own : ownKnob Tryd.prog.godebug = none := by kernel_rfl
set_option maxRecDepth 100000 in
theorem walk_no (p : Int) (h : ¬ (44032 ≤ p ∧ p ≤ 55203)) (W : World) (hT : Tabs W) : Calls Tryd.prog 3 #[.int .i32 p] W fun e w' => e = .returned (.bool true) ∧ Ext W w' := by
  have HR := Lib.hid (fun w => rankof_no p w h)
  have HT := Lib.hid hT
  have h3 : p < 44032 ∨ (¬ p < 44032 ∧ 55203 < p) := by omega
  clear h hT
  rcases h3 with h3 | ⟨h3, h4⟩
  all_goals
    go_enter Tryd.func3, Tryd.ntmps3
    go_wp2_with (first
      | (go_at_call 7; refine (HR.out _).mono ?_; rintro e w1 ⟨rfl, hb1⟩)
      | (go_at_call 8; refine (awake7 _ (HT.out.ext hb1)).mono ?_; rintro e w2 ⟨rfl, hb2⟩))
    go_ret
    exact ⟨rfl, hb1.trans hb2⟩
set_option maxRecDepth 100000 in
set_option maxHeartbeats 1000000 in
theorem walk_yes (n : Nat) (p : Int) (h : n < 11172) (hP : p - 44032 = (n : Int)) (W : World) (hT : Tabs W) : Calls Tryd.prog 3 #[.int .i32 p] W fun e w' => e = .returned (.bool true) ∧ Ext W w' := by
  have HR := Lib.hid (fun w hT => rankof_yes p n w hT h hP)
  have HI := Lib.hid (fun w => rin n w h)
  have HQ := Lib.hid (fun w => rrank n w h)
  have HT := Lib.hid hT
  have hk := kthZ_rank n h
  have hl := rankM_le (inM n) n
  have HP := Lib.hid (fun w hT => place_at (rankM (inM n) n : Nat) w hT)
  have HE := Lib.hid (fun w hT => extra_at (rankM (inM n) n : Nat) w hT)
  have hr := rank_lt n h
  have h1 : ¬ p < 44032 := by omega
  have h2 : ¬ 55203 < p := by omega
  have hp : p = 44032 + (n : Int) := by omega
  have hn0 : (n : Int) < 11172 := by omega
  cases hb : inM n with
  | true =>
    rw [hb] at HR HI HQ HP hk hl hr
    rw [rows_many] at hr
    rw [hk, ← hp, decide_eq_true (by omega)] at HP
    generalize rankM true n = k at HR HQ HP hl
    clear HE hT h hb hk hl hr hp
    go_enter Tryd.func3, Tryd.ntmps3
    go_wp2_with (first
      | (go_at_call 7; refine (HR.out _ HT.out).mono ?_; rintro e w1 ⟨rfl, hb1⟩; have HT1 := Lib.hid (HT.out.ext hb1))
      | (go_at_call 9; refine (HI.out _).mono ?_; rintro e w2 ⟨rfl, rfl⟩)
      | (go_at_call 10; refine (HQ.out _).mono ?_; rintro e w3 ⟨rfl, rfl⟩)
      | (go_at_call 11; refine (HP.out _ HT1.out).mono ?_; rintro e w4 ⟨rfl, hb4⟩)
      | (go_at_call 8; refine (awake7 _ (HT1.out.ext hb4)).mono ?_; rintro e w5 ⟨rfl, hb5⟩))
    go_ret
    exact ⟨by simp, (hb1.trans hb4).trans hb5⟩
  | false =>
    rw [hb] at HR HI HQ HP HE hk hl hr
    rw [others_many] at hr
    rw [hk, ← hp, decide_eq_true (by omega)] at HE
    generalize rankM false n = k at HR HQ HP HE hl
    generalize kthZ true (k : Int) = y at HP
    generalize decide (0 ≤ (k : Int) ∧ (k : Int) < 2350) = z at HP
    clear hT h hb hk hl hr hp
    go_enter Tryd.func3, Tryd.ntmps3
    go_wp2_with (first
      | (go_at_call 7; refine (HR.out _ HT.out).mono ?_; rintro e w1 ⟨rfl, hb1⟩; have HT1 := Lib.hid (HT.out.ext hb1))
      | (go_at_call 9; refine (HI.out _).mono ?_; rintro e w2 ⟨rfl, rfl⟩)
      | (go_at_call 10; refine (HQ.out _).mono ?_; rintro e w3 ⟨rfl, rfl⟩)
      | (go_at_call 11; refine (HP.out _ HT1.out).mono ?_; rintro e w4 ⟨rfl, hb4⟩)
      | (go_at_call 12; refine (HE.out _ (HT1.out.ext hb4)).mono ?_; rintro e w6 ⟨rfl, hb6⟩)
      | (go_at_call 8; refine (awake7 _ ((HT1.out.ext hb4).ext hb6)).mono ?_; rintro e w5 ⟨rfl, hb5⟩))
    go_ret
    exact ⟨by simp, ((hb1.trans hb4).trans hb6).trans hb5⟩
theorem walk (a : Int) (ha : (Lit.int .i32 a).wf = true) (W : World) (hT : Tabs W) : Calls Tryd.prog 3 #[.int .i32 a] W fun e w' => e = .returned (.bool true) ∧ Ext W w' := by
  by_cases h : 44032 ≤ a ∧ a ≤ 55203
  · exact walk_yes (a - 44032).toNat a (by omega) (by omega) W hT
  · exact walk_no a h W hT
set_option maxRecDepth 100000 in
theorem lifted (os : Os) (started : os.Started) (H : Type) (enc : TypeId × Value → H) :
    ReturnsInHanded {} Tryd.checked os 3 .any (fun w args => (Rows.wansungRanksSpec.pre enc Tryd.prog Tryd.f3 Rows.wansungRanksRow.domain false w args ∧ laidMetH Tryd.prog Rows.wansungRanksRow.laid w) ∧ sizedMet enc Tryd.prog Tryd.f3 (OpenSpec.ofChange Rows.wansungRanksSpec) false w args)
      (Rows.wansungRanksSpec.post enc Tryd.prog Tryd.f3 false true false false) := by
  refine returnsInHanded_of_change_and (C := Tryd.checked) (X := fun w _ => laidMetH Tryd.prog Rows.wansungRanksRow.laid w) (fun _ _ _ hh h => h.of_heap hh) own started (by kernel_rfl) Tryd.func3
    (ChangeSpec.witness_shaped (enc := enc) (C := Tryd.checked) (os := os) (X := fun w _ => laidMetH Tryd.prog Rows.wansungRanksRow.laid w) false (World.laidAll Tryd.prog os Rows.wansungRanksRow.laid) #[.int .i32 0] 8 (World.laidAll_os _ _ _)
      (World.shaped_of_ZipB (by kernel_rfl) (by kernel_rfl)) (by kernel_rfl) (by kernel_rfl) (by kernel_rfl)
      (by rw [MakeChecks.laidMetH_plain _ _ _ (by kernel_rfl)]; exact laidMet_laidAll _ (by kernel_rfl) (by kernel_rfl))) ?_
  intro W base args ds gs before hval0 hW hcnd _ hL _
  have hT : Tabs W := tabs_of hL
  have hval : ∀ (j : Nat) t v, Tryd.f3.params[j]? = some t → args[j]? = some v → Value.okWide Tryd.prog W .any base t v := hval0
  have hW' := hW
  obtain ⟨p, q, hA0, hV, rfl, hfz, hnd⟩ := hW
  have hA : DataW.TrodAll enc Tryd.prog W 0 (fun _ => true) true Tryd.f3.params.toList args.toList ds p := hA0
  rw [Tryd.params3] at hA hval
  obtain ⟨v0, vs0, d0, ds0, p0, q0, hargs, rfl, rfl, h0, r0⟩ := trodAll_cons hA
  obtain ⟨rfl, rfl, rfl⟩ := trodAll_nil r0
  obtain rfl : args = #[v0] := by cases args; simp_all
  obtain ⟨rfl, rfl⟩ := trodVars_none hV
  obtain ⟨a0, rfl, rfl, rfl, w0⟩ := open_int Tryd.underlying21 (hval 0 21 v0 rfl rfl) h0
  clear hA0 hval0
  try simp only [List.append_nil] at hW'
  refine (walk a0 w0 W hT).mono fun e W' ⟨he, bel⟩ => ?_
  subst he
  exact ⟨_, rfl, _, _, _, [], [], [], hW', trodAll_mk1 (shut_bool Tryd.underlying4 _), (trodAll_cons_mk (shut_int Tryd.underlying21 w0) trodAll_mk0), rfl, bel.frame _, fun h => by cases h⟩

theorem over : Rows.wansungRanksRow.holds Tryd.pinned (OpenSpec.ofChange Rows.wansungRanksSpec) :=
  OpenClaim.holds_of_wide 3 Tryd.f3 rfl rfl rfl rfl rfl rfl rfl ⟨rfl, rfl, rfl, rfl, rfl⟩ rfl rfl rfl rfl rfl (by kernel_rfl) Tryd.func3 (by kernel_rfl)
    (of_decide_eq_true (by kernel_rfl)) (by unfold Func.isWrapper; first | (rw [if_pos (by decide +kernel)]; kernel_rfl) | (rw [if_neg (by decide +kernel)]; exact ⟨rfl, rfl⟩))
    (fun os started H enc _ => lifted os started H enc)

theorem said : Rows.WansungRanksSaid := over
theorem plain (f : FuncId) (fn : Func) (hf : Tryd.pinned.checked.prog.funcNamed "diacritic/diacriticlaw07.WansungRanks" = some f) (hfn : Tryd.pinned.checked.prog.funcs[f]? = some fn) :
    Rows.wansungRanksCard.stood.looks = Tryd.pinned.checked.prog.looks [] ∧ ∀ (j : Nat) t, fn.params[j]? = some t → Tryd.pinned.checked.prog.wantsStandIn t = false := by
  obtain rfl : f = 3 := Option.some.inj ((show Tryd.prog.funcNamed "diacritic/diacriticlaw07.WansungRanks" = some 3 by kernel_rfl).symm.trans hf) |>.symm
  obtain rfl : fn = Tryd.f3 := (Option.some.inj (Tryd.func3.symm.trans hfn)).symm
  refine ⟨by kernel_rfl, fun j t ht => ?_⟩
  rw [Tryd.params3] at ht
  have hm : t ∈ [21] := by simpa using Array.mem_of_getElem? ht
  have hall : ([21].all fun u => !Tryd.prog.wantsStandIn u) = true := by kernel_rfl
  exact (show Tryd.prog.wantsStandIn t = false by simpa using List.all_eq_true.1 hall t hm)
/-- THE CARD. -/
theorem proved : Rows.WansungRanksCardSaid :=
  Claim7.holds_tied_plain_at .later [] _ _ _ _ said (fun _ h => by cases h) (by kernel_rfl) (fun _ h => by cases h) wansungRanks_row_tie rfl ⟨rfl, rfl⟩ (by kernel_rfl) rfl plain (by kernel_rfl)
#print axioms proved

end Go.Proofs.YtmfafdgmggcoiaaDoor.wansungRanks
