/-
  The law SingleSets holds at every number: each of the four is, as a table, the document's: all its bytes and their signs; no other charset is one.
  Conditions: none beyond the row's own.
-/
import Derived.Test.YtjlghdlbkibneaaDoorSc6
import Derived.ChangeMaps
namespace Go.Proofs.YtjlghdlbkibneaaDoor.singleSets
open Go Go.Proofs.YtjlghdlbkibneaaDoor Go.ChangeShapes Go.WideShapes Go.ChangeAt Go.RowKit
open Go.ChangeMaps (open_string shut_string)
set_option linter.unusedSimpArgs false
set_option linter.unusedVariables false

theorem own : ownKnob Tryd.prog.godebug = none := by kernel_rfl
theorem size_none (w : World) : Calls Tryd.prog 16 #[.agg #[.slice none 0 0, .slice none 0 0]] w fun e w' => e = .returned (.int .i64 0) ∧ Ext w w' := table_size _ [] w (tab_nil w)
/-- The first pairs of a charset. -/
def prs (c : Int) (k : Nat) : List Pr := (List.range k).map fun (n : Nat) => ((n : Int), signZ c n)
theorem prs_succ (c : Int) (k : Nat) : prs c (k + 1) = prs c k ++ [((k : Int), signZ c k)] := by simp [prs, List.range_succ]
theorem prs_len (c : Int) (k : Nat) : (prs c k).length = k := by simp [prs]
set_option maxRecDepth 100000 in
set_option maxHeartbeats 4000000 in
theorem walk_no (c : Int) (W : World) (hT : Tabs W) (h : c < 0 ∨ 3 < c) : Calls Tryd.prog 7 #[.int .i64 c] W fun e w' => e = .returned (.bool true) ∧ Ext W w' := by
  have hC := KeepT.start hT
  have HNO := Lib.hid h
  have K1 := Lib.hid trivial
  clear hT
  have hcc : c < 0 ∨ (¬ c < 0 ∧ 3 < c) := by omega
  clear h
  rcases hcc with h1 | ⟨h1, h2⟩
  all_goals
    go_enter Tryd.func7, Tryd.ntmps7
    go_wp2_with (first
      | (go_at_call 27; clear K1; refine (of_no _ _ HNO.out).mono ?_; rintro e w1 ⟨rfl, hb⟩; have hC' := (hC.ext hb).three (.slice none 0 0) (.slice none 0 0) (.int .i64 0) 56; clear hC hb ; have hC := hC'; clear hC'; obtain ⟨a0, a1, a2, _⟩ := hC.c)
      | (go_at_call 28; refine (awake5 _ hC.tb).mono ?_; rintro e w2 ⟨rfl, hb⟩; have hC' := hC.ext hb; clear hC hb a0 a1 a2; have hC := hC'; clear hC'; obtain ⟨a0, a1, a2, _⟩ := hC.c)
      | (go_at_call 16; refine (size_none _).mono ?_; rintro e w3 ⟨rfl, hb⟩; have hC' := hC.ext hb; clear hC hb a0 a1 a2; have hC := hC'; clear hC'; obtain ⟨a0, a1, a2, _⟩ := hC.c))
    go_ret
    exact ⟨rfl, hC.ex⟩
set_option maxRecDepth 100000 in
set_option maxHeartbeats 4000000 in
theorem walk_main (c : Nat) (hc : c ≤ 3) (W : World) (hT : Tabs W) : Calls Tryd.prog 7 #[.int .i64 c] W fun e w' => e = .returned (.bool true) ∧ Ext W w' := by
  have hC := KeepT.start hT
  have K1 := Lib.hid trivial
  have HO : Hid (∀ w : World, Tabs w → Calls Tryd.prog 27 #[.int .i64 c] w (SetOut w c (tabP c))) := fun w hT => of_yes c w hT hc
  have HS : Hid (∀ (k : Nat) (w : World), k < 256 → Calls Tryd.prog 29 #[.int .i64 c, .int .u8 k] w fun e w' => e = .returned (.int .i32 (signZ c k)) ∧ Ext w w') := fun k w hk => rsign c k w (by omega) (by omega) hk
  have HPE : Hid (prs c 256 = tabP c) := (tabP_eq c hc).symm
  have HLN : Hid ((tabP c).length = 256) := by show _ = _; rw [← HPE.out, prs_len]
  obtain ⟨L, hL⟩ : ∃ L, L = tabP c := ⟨_, rfl⟩
  obtain ⟨n, hn⟩ : ∃ n : Int, n = (c : Int) := ⟨_, rfl⟩
  rw [← hL] at HO HPE HLN
  rw [← hn] at HO HS HPE
  rw [← hn]
  have n0 : ¬ n < 0 := by omega
  have n1 : ¬ 3 < n := by omega
  obtain ⟨i0, hi, hz0, hz1, hz2⟩ := info_parts_pair
  clear hT hL hn hc
  go_enter Tryd.func7, Tryd.ntmps7
  go_wp2_with (first
    | (go_at_call 27; clear K1; refine (HO.out _ hC.tb).mono ?_; rintro e w1 ⟨va, rfl, ⟨aa, an, ac, ab, am, ad, rfl, ht⟩, hb⟩; have hC' := ((hC.ext hb).tab ht).three (.slice aa an ac) (.slice ab am ad) (.int .i64 n) 56; clear hC hb ht ; have hC := hC'; clear hC'; obtain ⟨a0, a1, a2, _⟩ := hC.c))
  go_loopw [5, 34] (fun v i wr => ∃ k : Nat, k ≤ 256 ∧ i = .int .i64 k ∧ wr.ownsRow (w1.heap.size + 1) 42 2 v (prs n k).length (pairCells (prs n k)) ∧ Ext (w1.alloc (.cells #[.slice aa an ac, .slice ab am ad, .int .i64 n] 56)) wr) (fun _ i _ => 256 - (intOf i).toNat)
  case atStart => exact ⟨0, by omega, rfl, World.ownsRow_nil _ _ _ _, Ext.refl _⟩
  case round =>
    obtain ⟨k, hk, rfl, ho, hx⟩ := hrel
    have hsz := hx.size
    simp only [World.size_alloc] at hsz
    have hlen := prs_len n k
    by_cases hlt : k < 256
    · have h8 : (k : Int) < 256 := by omega
      have HSk := Lib.hid (fun w => HS.out k w hlt)
      have HSU := Lib.hid (prs_succ n k)
      generalize signZ n k = p at HSk HSU
      have hle : (prs n k).length ≤ 256 := by omega
      have HLEN := Lib.hid hlen
      clear hlen
      go_wp2_with (first
        | (go_at_call 29; refine (HSk.out _).mono ?_; rintro e w2 ⟨rfl, hb2⟩; have ho2 := own_ext ho hb2; have hx2 := hx.trans hb2; have hsz2 := hb2.size)
        | ((at_builtin; refine wpList_append_own _ rfl _ _ 33 rfl (w1.heap.size + 1) 42 i0 (.agg #[.int .i64 0, .int .i32 0]) 2 16 Tryd.underlying33 hi hz0 hz1 hz2 rfl (by decide) _ _ _ rfl (ho2.alloc _) ⟨w2.heap.size, 0, none⟩ 1 1 [.int .i64 (k : Int), .int .i32 p] rfl rfl (cell_two_new _ _ _ _) (fun x hx => by simp at hx; rcases hx with rfl | rfl <;> rfl) (by unfold maxLen; omega) (by omega) (by simp; omega) ?_; intro v5 w5 hown5 hgrow5 hnil5; clear hnil5; have hx5 := hx2.own ho2 (by simp) hgrow5; clear hgrow5)))
      go_roundw
      case rel =>
        refine ⟨k + 1, by omega, by go_num, ?_, hx5⟩
        rw [HSU.out, pairCells_app, pairCells_one, List.length_append]
        exact hown5
      case measure => simp [intOf]; omega
    · have hk2 : k = 256 := by omega
      subst hk2
      rw [HPE.out] at ho
      obtain ⟨pa, pc, rfl, hpr⟩ := own_pairs ho
      have HPR := Lib.hid hpr
      have hC' := hC.ext hx
      have hX := Ext.refl wr
      have hlL := HLN.out
      have HLL := Lib.hid hlL
      clear hC a0 a1 a2 ho hpr hlen hx hsz
      have hC := hC'
      clear hC'
      obtain ⟨a0, a1, a2, _⟩ := hC.c
      clear hlL
      go_wp2_with (first
        | (go_at_call 28; refine (awake5 _ hC.tb).mono ?_; rintro e w1 ⟨rfl, hb⟩; have hC' := hC.ext hb; have hX' := hX.trans hb; clear hC hb hX a0 a1 a2; have hC := hC'; have hX := hX'; clear hC' hX'; obtain ⟨a0, a1, a2, _⟩ := hC.c)
        | (go_at_call 18; refine (is_yes _ L _ _ _ hC.t.1 (HPR.out.ext hX)).mono ?_; rintro e w2 ⟨rfl, hb⟩; have hC' := hC.ext hb; have hX' := hX.trans hb; clear hC hb hX a0 a1 a2; have hC := hC'; have hX := hX'; clear hC' hX'; obtain ⟨a0, a1, a2, _⟩ := hC.c))
      go_ret
      exact ⟨by simp, hC.ex⟩
theorem walk (c : Int) (W : World) (hT : Tabs W) : Calls Tryd.prog 7 #[.int .i64 c] W fun e w' => e = .returned (.bool true) ∧ Ext W w' := by
  by_cases h : c < 0 ∨ 3 < c
  · exact walk_no c W hT h
  · obtain ⟨k, rfl⟩ := Int.eq_ofNat_of_zero_le (show 0 ≤ c by omega)
    exact walk_main k (by omega) W hT
set_option maxRecDepth 100000 in
theorem lifted (os : Os) (started : os.Started) (H : Type) (enc : TypeId × Value → H) :
    ReturnsInHanded {} Tryd.checked os 7 .any (fun w args => (Rows.singleSetsSpec.pre enc Tryd.prog Tryd.f7 Rows.singleSetsRow.domain false w args ∧ laidMetH Tryd.prog Rows.singleSetsRow.laid w) ∧ sizedMet enc Tryd.prog Tryd.f7 (OpenSpec.ofChange Rows.singleSetsSpec) false w args)
      (Rows.singleSetsSpec.post enc Tryd.prog Tryd.f7 false true false false) := by
  refine returnsInHanded_of_change_and (C := Tryd.checked) (X := fun w _ => laidMetH Tryd.prog Rows.singleSetsRow.laid w) (fun _ _ _ hh h => h.of_heap hh) own started (by kernel_rfl) Tryd.func7
    (ChangeSpec.witness_shaped (enc := enc) (C := Tryd.checked) (os := os) (X := fun w _ => laidMetH Tryd.prog Rows.singleSetsRow.laid w) false (World.laidAll Tryd.prog os Rows.singleSetsRow.laid) #[.int .i64 0] 8 (World.laidAll_os _ _ _)
      (World.shaped_of_ZipB (by kernel_rfl) (by kernel_rfl)) (by kernel_rfl) (by kernel_rfl) (by kernel_rfl)
      (by rw [MakeChecks.laidMetH_plain _ _ _ (by kernel_rfl)]; exact laidMet_laidAll _ (by kernel_rfl) (by kernel_rfl))) ?_
  intro W base args ds gs before hval0 hW hcnd _ hL _
  have hT : Tabs W := tabs_of hL
  have hval : ∀ (j : Nat) t v, Tryd.f7.params[j]? = some t → args[j]? = some v → Value.okWide Tryd.prog W .any base t v := hval0
  have hW' := hW
  obtain ⟨p, q, hA0, hV, rfl, hfz, hnd⟩ := hW
  have hA : DataW.TrodAll enc Tryd.prog W 0 (fun _ => true) true Tryd.f7.params.toList args.toList ds p := hA0
  rw [Tryd.params7] at hA hval
  obtain ⟨v0, vs0, d0, ds0, p0, q0, hargs, rfl, rfl, h0, r0⟩ := trodAll_cons hA
  obtain ⟨rfl, rfl, rfl⟩ := trodAll_nil r0
  obtain rfl : args = #[v0] := by cases args; simp_all
  obtain ⟨rfl, rfl⟩ := trodVars_none hV
  obtain ⟨a0, rfl, rfl, rfl, w0⟩ := open_int Tryd.underlying3 (hval 0 3 v0 rfl rfl) h0
  clear hA0 hval0
  try simp only [List.append_nil] at hW'
  refine (walk a0 W hT).mono fun e W' ⟨he, bel⟩ => ?_
  subst he
  exact ⟨_, rfl, _, _, _, [], [], [], hW', trodAll_mk1 (shut_bool Tryd.underlying4 _), (trodAll_cons_mk (shut_int Tryd.underlying3 w0) trodAll_mk0), rfl, bel.frame _, fun h => by cases h⟩

theorem over : Rows.singleSetsRow.holds Tryd.pinned (OpenSpec.ofChange Rows.singleSetsSpec) :=
  OpenClaim.holds_of_wide 7 Tryd.f7 rfl rfl rfl rfl rfl rfl rfl ⟨rfl, rfl, rfl, rfl, rfl⟩ rfl rfl rfl rfl rfl (by kernel_rfl) Tryd.func7 (by kernel_rfl)
    (of_decide_eq_true (by kernel_rfl)) (by unfold Func.isWrapper; first | (rw [if_pos (by decide +kernel)]; kernel_rfl) | (rw [if_neg (by decide +kernel)]; exact ⟨rfl, rfl⟩))
    (fun os started H enc _ => lifted os started H enc)

theorem said : Rows.SingleSetsSaid := over
theorem plain (f : FuncId) (fn : Func) (hf : Tryd.pinned.checked.prog.funcNamed "diacritic/diacriticlaw05.SingleSets" = some f) (hfn : Tryd.pinned.checked.prog.funcs[f]? = some fn) :
    false = Tryd.pinned.checked.prog.looks [] ∧ ∀ (j : Nat) t, fn.params[j]? = some t → Tryd.pinned.checked.prog.wantsStandIn t = false := by
  obtain rfl : f = 7 := Option.some.inj ((show Tryd.prog.funcNamed "diacritic/diacriticlaw05.SingleSets" = some 7 by kernel_rfl).symm.trans hf) |>.symm
  obtain rfl : fn = Tryd.f7 := (Option.some.inj (Tryd.func7.symm.trans hfn)).symm
  refine ⟨by kernel_rfl, fun j t ht => ?_⟩
  rw [Tryd.params7] at ht
  have hm : t ∈ [3] := by simpa using Array.mem_of_getElem? ht
  have hall : ([3].all fun u => !Tryd.prog.wantsStandIn u) = true := by kernel_rfl
  exact (show Tryd.prog.wantsStandIn t = false by simpa using List.all_eq_true.1 hall t hm)
/-- THE CARD. -/
theorem proved : Rows.SingleSetsCardSaid :=
  Claim7.holds_tied_plain_at .later [] _ _ _ _ said (fun _ h => by cases h) (by kernel_rfl) (fun _ h => by cases h) singleSets_row_tie rfl ⟨rfl, rfl⟩ (by kernel_rfl) rfl plain (by kernel_rfl)
#print axioms proved

end Go.Proofs.YtjlghdlbkibneaaDoor.singleSets
