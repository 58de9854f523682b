/-
  The law SyncPuts holds at every text: which bytes are clean, what is put, what is dropped, and how many bytes more there are, are the document's.
  Conditions: none beyond the row's own.
-/
import Derived.Test.YtbdjncnofpbkkaaUn3
import Derived.ChangeMaps
namespace Go.Proofs.Ytbdjncnofpbkkaa.syncPuts
open Go Go.Proofs.Ytbdjncnofpbkkaa Go.ChangeShapes Go.WideShapes Go.ChangeAt Go.RowKit
open Go.ChangeMaps (open_string shut_string)
set_option linter.unusedSimpArgs false
set_option linter.unusedVariables false

theorem own : ownKnob Try.prog.godebug = none := by kernel_rfl
set_option maxRecDepth 100000 in
theorem walk_long (s : ByteArray) (W : World) (h : 1000 < s.size) : Calls Try.prog 3 #[.string s] W fun e w' => e = .returned (.bool true) ∧ Ext W w' := by
  have HA := Lib.hid (fun w => awake11 w)
  have h1 : (1000 : Int) < s.size := by omega
  clear h
  go_enter Try.func3, Try.ntmps3
  go_wp2_with (go_at_call 9; refine (HA.out _).mono ?_; rintro e w1 ⟨rfl, hb1⟩)
  go_ret
  exact ⟨rfl, hb1⟩
set_option maxRecDepth 100000 in
set_option maxHeartbeats 4000000 in
theorem walk_main (s : ByteArray) (W : World) (h : s.size ≤ 1000) : Calls Try.prog 3 #[.string s] W fun e w' => e = .returned (.bool true) ∧ Ext W w' := by
  have HA := Lib.hid (fun w => awake11 w)
  have h1 : ¬ (1000 : Int) < s.size := by omega
  have HL := Lib.hid (fun k w hk => rlooks s k w hk (by omega))
  have HStep : Hid (∀ k (hk : k < s.size), extraU (s.data.toList.drop k) = (if looksU (s.data.toList.drop k) then 1 else 0) + extraU (s.data.toList.drop (k + 1))) := fun k hk => by rw [ul_at s k hk, extraU_cons]
  have HEnd : Hid (extraU (s.data.toList.drop s.size) = 0) := by show _ = _; rw [ul_end s s.size (by omega)]; rfl
  obtain ⟨N, hN⟩ : ∃ N, N = extraU s.data.toList := ⟨_, rfl⟩
  have H0 : Hid (0 + extraU (s.data.toList.drop 0) = N) := by show _ = _; rw [hN, Nat.zero_add]; rfl
  have HCl := Lib.hid (fun w => cclean s w (by omega))
  have HEx := Lib.hid (fun w => cextra s w (by omega))
  have HPu := Lib.hid (fun w => cput s w (by omega))
  have HDr := Lib.hid (fun w => cdrop s w (by omega))
  have HRP := Lib.hid (fun w => rput s w (by omega))
  have HRD := Lib.hid (fun w => rdrop s w (by omega))
  rw [← hN] at HCl HEx
  generalize bsU (putU s.data.toList) = P at HPu HRP
  generalize bsU (dropU s.data.toList) = D at HDr HRD
  clear hN
  go_enter Try.func3, Try.ntmps3
  go_wp2
  go_loopw [3, 4, 12] (fun c x i wr => ∃ (k e : Nat) (q : Bool), k ≤ s.size ∧ e ≤ k ∧ c = .bool q ∧ x = .int .i64 e ∧ i = .int .i64 k ∧ wr = W ∧ Hid (q = decide (e = 0)) ∧ Hid (e + extraU (s.data.toList.drop k) = N)) (fun _ _ i _ => s.size - (intOf i).toNat)
  case atStart => exact ⟨0, 0, true, by omega, by omega, rfl, rfl, rfl, rfl, rfl, H0⟩
  case round =>
    obtain ⟨k, x, q, hk, hxk, rfl, rfl, rfl, rfl, HQ, HN⟩ := hrel
    clear H0
    by_cases hlt : k < s.size
    · have hki : (k : Int) < s.size := by omega
      have HLk := Lib.hid (fun w => HL.out k w hlt)
      have hst := HStep.out k hlt
      cases hb : looksU (s.data.toList.drop k) with
      | true =>
        rw [hb] at HLk hst
        have HN2 : Hid (x + 1 + extraU (s.data.toList.drop (k + 1)) = N) := by
          show _ = N
          have := HN.out
          rw [hst] at this
          simp at this
          omega
        clear HL HStep HEnd HCl HEx HPu HDr HRP HRD HA HQ HN hst hb
        go_wp2_with (go_at_call 10; refine (HLk.out _).mono ?_; rintro e w1 ⟨rfl, rfl⟩)
        go_roundw
        case rel => exact ⟨k + 1, x + 1, false, by omega, by omega, rfl, by first | rfl | go_num, by first | rfl | go_num, by first | rfl | trivial, (decide_eq_false (by omega)).symm, HN2⟩
        case measure => simp [intOf]; omega
      | false =>
        rw [hb] at HLk hst
        have HN2 : Hid (x + extraU (s.data.toList.drop (k + 1)) = N) := by
          show _ = N
          have := HN.out
          rw [hst] at this
          simp at this
          omega
        clear HL HStep HEnd HCl HEx HPu HDr HRP HRD HA HN hst hb
        go_wp2_with (go_at_call 10; refine (HLk.out _).mono ?_; rintro e w1 ⟨rfl, rfl⟩)
        go_roundw
        case rel => exact ⟨k + 1, x, q, by omega, by omega, rfl, rfl, by first | rfl | go_num, by first | rfl | trivial, HQ, HN2⟩
        case measure => simp [intOf]; omega
    · have hke : k = s.size := by omega
      subst hke
      have hki : ¬ (s.size : Int) < s.size := by omega
      have hx : x = N := by
        have := HN.out
        rw [HEnd.out] at this
        omega
      subst hx
      rw [← HQ.out] at HCl
      have hbb : (q == q) = true := beq_self_eq_true q
      clear HL HStep HEnd HN HQ
      cases q
      all_goals
        go_wp2_with (first
          | (go_at_call 9; refine (HA.out _).mono ?_; rintro e w1 ⟨rfl, hb1⟩)
          | (go_at_call 11; refine (HCl.out _).mono ?_; rintro e w2 ⟨rfl, hb2⟩)
          | (go_at_call 12; refine (HPu.out _).mono ?_; rintro e w3 ⟨rfl, hb3⟩)
          | (go_at_call 13; refine (HRP.out _).mono ?_; rintro e w4 ⟨rfl, rfl⟩)
          | (go_at_call 14; refine (HDr.out _).mono ?_; rintro e w5 ⟨rfl, hb5⟩)
          | (go_at_call 15; refine (HRD.out _).mono ?_; rintro e w6 ⟨rfl, rfl⟩)
          | (go_at_call 16; refine (HEx.out _).mono ?_; rintro e w7 ⟨rfl, hb7⟩))
        go_ret
        exact ⟨by first | (simp; done) | rfl, (((hb1.trans hb2).trans hb3).trans hb5).trans hb7⟩
theorem walk (s : ByteArray) (W : World) : Calls Try.prog 3 #[.string s] W fun e w' => e = .returned (.bool true) ∧ Ext W w' := by
  by_cases h : s.size ≤ 1000
  · exact walk_main s W h
  · exact walk_long s W (by omega)
set_option maxRecDepth 100000 in
theorem lifted (os : Os) (started : os.Started) (H : Type) (enc : TypeId × Value → H) :
    ReturnsInHanded {} Try.checked os 3 .any (Rows.syncPutsSpec.pre6 enc Try.prog Try.f3 Rows.syncPutsRow.domain false) (Rows.syncPutsSpec.post enc Try.prog Try.f3 false true false false) := by
  refine returnsInHanded_of_change (C := Try.checked) own started (by kernel_rfl) Try.func3
    (ChangeSpec.witness6 (enc := enc) (C := Try.checked) false ⟨#[], #[.string ByteArray.empty], []⟩ 8 (by kernel_rfl) (by kernel_rfl) (by kernel_rfl) (by kernel_rfl)) ?_
  intro W base args ds gs before hval0 hW hcnd _
  have hval : ∀ (j : Nat) t v, Try.f3.params[j]? = some t → args[j]? = some v → Value.okWide Try.prog W .any base t v := hval0
  have hW' := hW
  obtain ⟨p, q, hA0, hV, rfl, hfz, hnd⟩ := hW
  have hA : DataW.TrodAll enc Try.prog W 0 (fun _ => true) true Try.f3.params.toList args.toList ds p := hA0
  rw [Try.params3] at hA hval
  obtain ⟨v0, vs0, d0, ds0, p0, q0, hargs, rfl, rfl, h0, r0⟩ := trodAll_cons hA
  obtain ⟨rfl, rfl, rfl⟩ := trodAll_nil r0
  obtain rfl : args = #[v0] := by cases args; simp_all
  obtain ⟨rfl, rfl⟩ := trodVars_none hV
  obtain ⟨a0, rfl, rfl, rfl, w0⟩ := open_string Try.underlying9 (hval 0 9 v0 rfl rfl) h0
  clear hA0 hval0
  try simp only [List.append_nil] at hW'
  refine (walk a0 W).mono fun e W' ⟨he, bel⟩ => ?_
  subst he
  exact ⟨_, rfl, _, _, _, [], [], [], hW', trodAll_mk1 (shut_bool Try.underlying4 _), (trodAll_cons_mk (shut_string Try.underlying9 w0) trodAll_mk0), rfl, bel.frame _, fun h => by cases h⟩

theorem and2 {a b : Bool} (ha : a = true) (hb : b = true) : (a && b) = true := by rw [ha, hb]; rfl
set_option maxHeartbeats 40000000 in
theorem closed : joinedFacts Try.pinned.checked.prog 3 Try.f3 Rows.syncPutsSpec Rows.syncPutsRow = true := by
  unfold joinedFacts
  repeat' with_reducible refine and2 ?_ ?_
  all_goals as_aux_lemma => kernel_rfl
theorem over : Rows.syncPutsRow.holds Try.pinned (OpenSpec.ofChange Rows.syncPutsSpec) :=
  OpenClaim.holds_of_wide 3 Try.f3 rfl rfl rfl rfl rfl rfl rfl ⟨rfl, rfl, rfl, rfl, rfl⟩ rfl rfl rfl rfl rfl (by kernel_rfl) Try.func3 closed
    (of_decide_eq_true (by kernel_rfl)) (by unfold Func.isWrapper; first | (rw [if_pos (by decide +kernel)]; kernel_rfl) | (rw [if_neg (by decide +kernel)]; exact ⟨rfl, rfl⟩))
    (fun os started H enc _ => lifted os started H enc)

/-- THE STATEMENT. -/
theorem proved : Rows.SyncPutsSaid := over
#print axioms proved

end Go.Proofs.Ytbdjncnofpbkkaa.syncPuts
