/-
  The law SingleReads holds at every number of a charset and every bytes: the text of any bytes, in each of the four, is the document's; it is encoded as it was.
  Conditions: none beyond the row's own.
-/
import Derived.Test.YtjlghdlbkibneaaDoorSc6
import Derived.ChangeMaps
namespace Go.Proofs.YtjlghdlbkibneaaDoor.singleReads
open Go Go.Proofs.YtjlghdlbkibneaaDoor Go.ChangeShapes Go.WideShapes Go.ChangeAt Go.RowKit
open Go.ChangeMaps (open_string shut_string)
set_option linter.unusedSimpArgs false
set_option linter.unusedVariables false

theorem own : ownKnob Tryd.prog.godebug = none := by kernel_rfl
theorem enc_back (c : Nat) (hc : c ≤ 3) (b : ByteArray) : (⟨(encZ c (decZ c b.data.toList)).toArray⟩ : ByteArray) = b := by
  rw [enc_dec c (by omega) (by omega)]
set_option maxRecDepth 100000 in
set_option maxHeartbeats 4000000 in
theorem walk_no (c : Int) (b : ByteArray) (W : World) (hT : Tabs W) (h : c < 0 ∨ 3 < c) : Calls Tryd.prog 8 #[.int .i64 c, .string b] W fun e w' => e = .returned (.bool true) ∧ Ext W w' := by
  have hC := KeepT.start hT
  have HNO := Lib.hid h
  have K1 := Lib.hid trivial
  clear hT
  have hcc : c < 0 ∨ (¬ c < 0 ∧ 3 < c) := by omega
  clear h
  rcases hcc with h1 | ⟨h1, h2⟩
  all_goals
    go_enter Tryd.func8, Tryd.ntmps8
    go_wp2_with (first
      | (go_at_call 27; clear K1; refine (of_no _ _ HNO.out).mono ?_; rintro e w1 ⟨rfl, hb⟩; have hC' := (hC.ext hb).three (.slice none 0 0) (.slice none 0 0) (.int .i64 0) 56; clear hC hb ; have hC := hC'; clear hC'; obtain ⟨a0, a1, a2, _⟩ := hC.c)
      | (go_at_call 28; refine (awake5 _ hC.tb).mono ?_; rintro e w2 ⟨rfl, hb⟩; have hC' := hC.ext hb; clear hC hb a0 a1 a2; have hC := hC'; clear hC'; obtain ⟨a0, a1, a2, _⟩ := hC.c))
    go_ret
    exact ⟨rfl, hC.ex⟩
set_option maxRecDepth 100000 in
set_option maxHeartbeats 4000000 in
theorem walk_long (c : Nat) (hc : c ≤ 3) (b : ByteArray) (W : World) (hT : Tabs W) (hs : 300 < b.size) : Calls Tryd.prog 8 #[.int .i64 c, .string b] W fun e w' => e = .returned (.bool true) ∧ Ext W w' := by
  have hC := KeepT.start hT
  have K1 := Lib.hid trivial
  have HO : Hid (∀ w : World, Tabs w → Calls Tryd.prog 27 #[.int .i64 c] w (SetOut w c (tabP c))) := fun w hT => of_yes c w hT hc
  obtain ⟨L, hL⟩ : ∃ L, L = tabP c := ⟨_, rfl⟩
  obtain ⟨n, hn⟩ : ∃ n : Int, n = (c : Int) := ⟨_, rfl⟩
  rw [← hL] at HO
  rw [← hn] at HO
  rw [← hn]
  have n0 : ¬ n < 0 := by omega
  have n1 : ¬ 3 < n := by omega
  have hs2 : (300 : Int) < b.size := by omega
  clear hs
  clear hT hL hn hc
  go_enter Tryd.func8, Tryd.ntmps8
  go_wp2_with (first
    | (go_at_call 27; clear K1; refine (HO.out _ hC.tb).mono ?_; rintro e w1 ⟨va, rfl, ⟨aa, an, ac, ab, am, ad, rfl, ht⟩, hb⟩; have hC' := ((hC.ext hb).tab ht).three (.slice aa an ac) (.slice ab am ad) (.int .i64 n) 56; clear hC hb ht ; have hC := hC'; clear hC'; obtain ⟨a0, a1, a2, _⟩ := hC.c)
    | (go_at_call 28; refine (awake5 _ hC.tb).mono ?_; rintro e w2 ⟨rfl, hb⟩; have hC' := hC.ext hb; clear hC hb a0 a1 a2; have hC := hC'; clear hC'; obtain ⟨a0, a1, a2, _⟩ := hC.c))
  go_ret
  exact ⟨rfl, hC.ex⟩
set_option maxRecDepth 100000 in
set_option maxHeartbeats 4000000 in
theorem walk_main (c : Nat) (hc : c ≤ 3) (b : ByteArray) (W : World) (hT : Tabs W) (hs : b.size ≤ 300) : Calls Tryd.prog 8 #[.int .i64 c, .string b] W fun e w' => e = .returned (.bool true) ∧ Ext W w' := by
  have hC := KeepT.start hT
  have K1 := Lib.hid trivial
  have K2 := Lib.hid trivial
  have K3 := Lib.hid trivial
  have HO : Hid (∀ w : World, Tabs w → Calls Tryd.prog 27 #[.int .i64 c] w (SetOut w c (tabP c))) := fun w hT => of_yes c w hT hc
  have HD : Hid (∀ (v : Value) (w : World), IsSet w v c (tabP c) → Calls Tryd.prog 30 #[v, .string b] w fun e w' => e = .returned (.tuple #[.string (txt (decZ c b.data.toList)), .agg #[.int .i64 0, .int .i64 0]]) ∧ Ext w w') := fun v w h => set_decode v c b w h hc (by omega)
  have hz : (decZ c b.data.toList).length = b.size := by unfold decZ; rw [List.length_map]; rfl
  have HE : Hid (∀ (v : Value) (w : World), Tabs w → IsSet w v c (tabP c) → Calls Tryd.prog 31 #[v, .string (txt (decZ c b.data.toList))] w fun e w' => e = .returned (.tuple #[.string b, .agg #[.int .i64 0, .int .i64 0]]) ∧ Ext w w') := fun v w hT h => by
    have h2 := enc_yes v c hc (decZ c b.data.toList) w hT h (decZ_signs c _ (by omega) (by omega)) (by omega) (by rw [badZ_dec c (by omega) (by omega)]; decide)
    rwa [enc_back c hc b] at h2
  have HR : Hid (∀ w : World, Calls Tryd.prog 32 #[.int .i64 c, .string b] w fun e w' => e = .returned (.string (txt (decZ c b.data.toList))) ∧ Ext w w') := fun w => rdec5 c b w (by omega) (by omega) (by omega)
  obtain ⟨L, hL⟩ : ∃ L, L = tabP c := ⟨_, rfl⟩
  obtain ⟨n, hn⟩ : ∃ n : Int, n = (c : Int) := ⟨_, rfl⟩
  rw [← hL] at HO HD HE
  rw [← hn] at HO HD HE HR
  rw [← hn]
  have n0 : ¬ n < 0 := by omega
  have n1 : ¬ 3 < n := by omega
  generalize txt (decZ n b.data.toList) = u at HD HE HR
  have hs2 : ¬ (300 : Int) < b.size := by omega
  clear hT hL hn hc hs hz
  go_enter Tryd.func8, Tryd.ntmps8
  go_wp2_with (first
    | (go_at_call 27; clear K1; refine (HO.out _ hC.tb).mono ?_; rintro e w1 ⟨va, rfl, ⟨aa, an, ac, ab, am, ad, rfl, ht⟩, hb⟩; have hC' := ((hC.ext hb).tab ht).three (.slice aa an ac) (.slice ab am ad) (.int .i64 n) 56; clear hC hb ht ; have hC := hC'; clear hC'; obtain ⟨a0, a1, a2, _⟩ := hC.c)
    | (go_at_call 30; clear K2; refine (HD.out _ _ (setOf n hC.t.1)).mono ?_; rintro e w2 ⟨rfl, hb⟩; have hC' := (hC.ext hb).two (.int .i64 0) (.int .i64 0) 30; clear hC hb a0 a1 a2; have hC := hC'; clear hC'; obtain ⟨f0, f1, a0, a1, a2, _⟩ := hC.c)
    | (go_at_call 31; clear K3; refine (HE.out _ _ hC.tb (setOf n hC.t.1)).mono ?_; rintro e w3 ⟨rfl, hb⟩; have hC' := (hC.ext hb).two (.int .i64 0) (.int .i64 0) 30; clear hC hb f0 f1 a0 a1 a2; have hC := hC'; clear hC'; obtain ⟨g0, g1, f0, f1, a0, a1, a2, _⟩ := hC.c)
    | (go_at_call 28; refine (awake5 _ hC.tb).mono ?_; rintro e w4 ⟨rfl, hb⟩; have hC' := hC.ext hb; clear hC hb g0 g1 f0 f1 a0 a1 a2; have hC := hC'; clear hC'; obtain ⟨g0, g1, f0, f1, a0, a1, a2, _⟩ := hC.c)
    | (go_at_call 32; refine (HR.out _).mono ?_; rintro e w5 ⟨rfl, hb⟩; have hC' := hC.ext hb; clear hC hb g0 g1 f0 f1 a0 a1 a2; have hC := hC'; clear hC'; obtain ⟨g0, g1, f0, f1, a0, a1, a2, _⟩ := hC.c)
    | (go_at_call 17; refine (bad_no _ _ _ (by decide)).mono ?_; rintro e w6 ⟨rfl, hb⟩; have hC' := hC.ext hb; clear hC hb g0 g1 f0 f1 a0 a1 a2; have hC := hC'; clear hC'; obtain ⟨g0, g1, f0, f1, a0, a1, a2, _⟩ := hC.c))
  go_ret
  exact ⟨by simp, hC.ex⟩
theorem walk (c : Int) (b : ByteArray) (W : World) (hT : Tabs W) : Calls Tryd.prog 8 #[.int .i64 c, .string b] W fun e w' => e = .returned (.bool true) ∧ Ext W w' := by
  by_cases h : c < 0 ∨ 3 < c
  · exact walk_no c b W hT h
  · obtain ⟨k, rfl⟩ := Int.eq_ofNat_of_zero_le (show 0 ≤ c by omega)
    by_cases hs : b.size ≤ 300
    · exact walk_main k (by omega) b W hT hs
    · exact walk_long k (by omega) b W hT (by omega)
set_option maxRecDepth 100000 in
theorem lifted (os : Os) (started : os.Started) (H : Type) (enc : TypeId × Value → H) :
    ReturnsInHanded {} Tryd.checked os 8 .any (fun w args => (Rows.singleReadsSpec.pre enc Tryd.prog Tryd.f8 Rows.singleReadsRow.domain false w args ∧ laidMetH Tryd.prog Rows.singleReadsRow.laid w) ∧ sizedMet enc Tryd.prog Tryd.f8 (OpenSpec.ofChange Rows.singleReadsSpec) false w args)
      (Rows.singleReadsSpec.post enc Tryd.prog Tryd.f8 false true false false) := by
  refine returnsInHanded_of_change_and (C := Tryd.checked) (X := fun w _ => laidMetH Tryd.prog Rows.singleReadsRow.laid w) (fun _ _ _ hh h => h.of_heap hh) own started (by kernel_rfl) Tryd.func8
    (ChangeSpec.witness_shaped (enc := enc) (C := Tryd.checked) (os := os) (X := fun w _ => laidMetH Tryd.prog Rows.singleReadsRow.laid w) false (World.laidAll Tryd.prog os Rows.singleReadsRow.laid) #[.int .i64 0, .string ByteArray.empty] 8 (World.laidAll_os _ _ _)
      (World.shaped_of_ZipB (by kernel_rfl) (by kernel_rfl)) (by kernel_rfl) (by kernel_rfl) (by kernel_rfl)
      (by rw [MakeChecks.laidMetH_plain _ _ _ (by kernel_rfl)]; exact laidMet_laidAll _ (by kernel_rfl) (by kernel_rfl))) ?_
  intro W base args ds gs before hval0 hW hcnd _ hL _
  have hT : Tabs W := tabs_of hL
  have hval : ∀ (j : Nat) t v, Tryd.f8.params[j]? = some t → args[j]? = some v → Value.okWide Tryd.prog W .any base t v := hval0
  have hW' := hW
  obtain ⟨p, q, hA0, hV, rfl, hfz, hnd⟩ := hW
  have hA : DataW.TrodAll enc Tryd.prog W 0 (fun _ => true) true Tryd.f8.params.toList args.toList ds p := hA0
  rw [Tryd.params8] at hA hval
  obtain ⟨v0, vs0, d0, ds0, p0, q0, hargs, rfl, rfl, h0, r0⟩ := trodAll_cons hA
  obtain ⟨v1, vs1, d1, ds1, p1, q1, rfl, rfl, rfl, h1, r1⟩ := trodAll_cons r0
  obtain ⟨rfl, rfl, rfl⟩ := trodAll_nil r1
  obtain rfl : args = #[v0, v1] := by cases args; simp_all
  obtain ⟨rfl, rfl⟩ := trodVars_none hV
  obtain ⟨a0, rfl, rfl, rfl, w0⟩ := open_int Tryd.underlying3 (hval 0 3 v0 rfl rfl) h0
  obtain ⟨a1, rfl, rfl, rfl, w1⟩ := open_string Tryd.underlying9 (hval 1 9 v1 rfl rfl) h1
  clear hA0 hval0
  try simp only [List.append_nil] at hW'
  refine (walk a0 a1 W hT).mono fun e W' ⟨he, bel⟩ => ?_
  subst he
  exact ⟨_, rfl, _, _, _, [], [], [], hW', trodAll_mk1 (shut_bool Tryd.underlying4 _), (trodAll_cons_mk (shut_int Tryd.underlying3 w0) (trodAll_cons_mk (shut_string Tryd.underlying9 w1) trodAll_mk0)), rfl, bel.frame _, fun h => by cases h⟩

theorem over : Rows.singleReadsRow.holds Tryd.pinned (OpenSpec.ofChange Rows.singleReadsSpec) :=
  OpenClaim.holds_of_wide 8 Tryd.f8 rfl rfl rfl rfl rfl rfl rfl ⟨rfl, rfl, rfl, rfl, rfl⟩ rfl rfl rfl rfl rfl (by kernel_rfl) Tryd.func8 (by kernel_rfl)
    (of_decide_eq_true (by kernel_rfl)) (by unfold Func.isWrapper; first | (rw [if_pos (by decide +kernel)]; kernel_rfl) | (rw [if_neg (by decide +kernel)]; exact ⟨rfl, rfl⟩))
    (fun os started H enc _ => lifted os started H enc)

theorem said : Rows.SingleReadsSaid := over
theorem plain (f : FuncId) (fn : Func) (hf : Tryd.pinned.checked.prog.funcNamed "diacritic/diacriticlaw05.SingleReads" = some f) (hfn : Tryd.pinned.checked.prog.funcs[f]? = some fn) :
    false = Tryd.pinned.checked.prog.looks [] ∧ ∀ (j : Nat) t, fn.params[j]? = some t → Tryd.pinned.checked.prog.wantsStandIn t = false := by
  obtain rfl : f = 8 := Option.some.inj ((show Tryd.prog.funcNamed "diacritic/diacriticlaw05.SingleReads" = some 8 by kernel_rfl).symm.trans hf) |>.symm
  obtain rfl : fn = Tryd.f8 := (Option.some.inj (Tryd.func8.symm.trans hfn)).symm
  refine ⟨by kernel_rfl, fun j t ht => ?_⟩
  rw [Tryd.params8] at ht
  have hm : t ∈ [3, 9] := by simpa using Array.mem_of_getElem? ht
  have hall : ([3, 9].all fun u => !Tryd.prog.wantsStandIn u) = true := by kernel_rfl
  exact (show Tryd.prog.wantsStandIn t = false by simpa using List.all_eq_true.1 hall t hm)
/-- THE CARD. -/
theorem proved : Rows.SingleReadsCardSaid :=
  Claim7.holds_tied_plain_at .later [] _ _ _ _ said (fun _ h => by cases h) (by kernel_rfl) (fun _ h => by cases h) singleReads_row_tie rfl ⟨rfl, rfl⟩ (by kernel_rfl) rfl plain (by kernel_rfl)
#print axioms proved

end Go.Proofs.YtjlghdlbkibneaaDoor.singleReads
