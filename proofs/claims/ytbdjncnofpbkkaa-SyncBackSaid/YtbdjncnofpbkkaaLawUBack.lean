/-
  The law SyncBack holds at every text: what was put is dropped as it was; behind each FF of it stands a byte below E0.
  Conditions: none beyond the row's own.
-/
import Derived.Test.YtbdjncnofpbkkaaUn3
import Derived.ChangeMaps
namespace Go.Proofs.Ytbdjncnofpbkkaa.syncBack
open Go Go.Proofs.Ytbdjncnofpbkkaa Go.ChangeShapes Go.WideShapes Go.ChangeAt Go.RowKit
open Go.ChangeMaps (open_string shut_string)
set_option linter.unusedSimpArgs false
set_option linter.unusedVariables false

theorem own : ownKnob Try.prog.godebug = none := by kernel_rfl
set_option maxRecDepth 100000 in
theorem walk_long (s : ByteArray) (W : World) (h : 1000 < s.size) : Calls Try.prog 4 #[.string s] W fun e w' => e = .returned (.bool true) ∧ Ext W w' := by
  have HA := Lib.hid (fun w => awake11 w)
  have h1 : (1000 : Int) < s.size := by omega
  clear h
  go_enter Try.func4, Try.ntmps4
  go_wp2_with (go_at_call 9; refine (HA.out _).mono ?_; rintro e w1 ⟨rfl, hb1⟩)
  go_ret
  exact ⟨rfl, hb1⟩
/-- At a byte FF of what was put. -/
theorem below (s : ByteArray) (P : ByteArray) (hP : P = bsU (putU s.data.toList)) (k : Nat) (h : k < P.size) (hx : P[k].toNat = 255) : ∃ h2 : k + 1 < P.size, P[k + 1].toNat < 224 := by
  have e : P.data.toList = putU s.data.toList := by rw [hP]; rfl
  have e1 : (putU s.data.toList)[k]? = some P[k] := by
    rw [← e]
    have h3 := ul_at P k h
    have h4 : (P.data.toList.drop k)[0]? = some P[k] := by rw [h3]; rfl
    rw [List.getElem?_drop] at h4
    simpa using h4
  obtain ⟨y, h5, h6⟩ := put_below _ k _ e1 hx
  rw [← e] at h5
  have h2 : k + 1 < P.size := (List.getElem?_eq_some_iff.1 h5).1
  refine ⟨h2, ?_⟩
  have h7 := ul_at P (k + 1) h2
  have h8 : (P.data.toList.drop (k + 1))[0]? = some P[k + 1] := by rw [h7]; rfl
  rw [List.getElem?_drop] at h8
  have h9 : P.data.toList[k + 1]? = some P[k + 1] := h8
  rw [h5] at h9
  rw [← Option.some.inj h9]
  exact h6
set_option maxRecDepth 100000 in
set_option maxHeartbeats 4000000 in
theorem walk_main (s : ByteArray) (W : World) (h : s.size ≤ 1000) : Calls Try.prog 4 #[.string s] W fun e w' => e = .returned (.bool true) ∧ Ext W w' := by
  have HA := Lib.hid (fun w => awake11 w)
  have h1 : ¬ (1000 : Int) < s.size := by omega
  have HCl := Lib.hid (fun w => cclean s w (by omega))
  have HPu := Lib.hid (fun w => cput s w (by omega))
  obtain ⟨P, hP⟩ : ∃ P, P = bsU (putU s.data.toList) := ⟨_, rfl⟩
  have hsz : P.size ≤ 2000 := by
    rw [hP]
    show (putU s.data.toList).length ≤ 2000
    rw [put_len]
    have := extra_le11 s.data.toList
    have e : s.data.toList.length = s.size := rfl
    omega
  have HDr : Hid (∀ w, Calls Try.prog 14 #[.string P] w fun e w' => e = .returned (.string s) ∧ Ext w w') := fun w => by
    have := cdrop P w (by omega)
    rwa [show bsU (dropU P.data.toList) = s by rw [hP, bsU_list, drop_put]; rfl] at this
  have HBe := Lib.hid (fun k h hx => below s P hP k h hx)
  have HSame : Hid (extraU s.data.toList = 0 → P = s) := fun h => by rw [hP, put_clean _ h]; rfl
  rw [← hP] at HPu
  have hs2 : (P.size : Int) ≤ 2000 := by omega
  obtain ⟨q, hq⟩ : ∃ q, q = decide (extraU s.data.toList = 0) := ⟨_, rfl⟩
  rw [← hq] at HCl
  have HQ : Hid (q = true → P = s) := fun e => HSame.out (of_decide_eq_true (by rw [← hq]; exact e))
  clear hP h hsz HSame hq
  go_enter Try.func4, Try.ntmps4
  go_wp2_with (go_at_call 12; refine (HPu.out _).mono ?_; rintro e w1 ⟨rfl, hb1⟩)
  go_loopw [13] (fun i wr => ∃ k : Nat, k ≤ P.size ∧ i = .int .i64 k ∧ wr = w1) (fun i _ => P.size - (intOf i).toNat)
  case atStart => exact ⟨0, by omega, rfl, rfl⟩
  case round =>
    obtain ⟨k, hk, rfl, rfl⟩ := hrel
    by_cases hlt : k < P.size
    · have hki : (k : Int) < P.size := by omega
      by_cases hx : (P[k]'hlt).toNat = 255
      · have g0 : (((P[k]'hlt).toNat : Int) == 255) = true := by rw [hx]; rfl
        obtain ⟨h2, hy⟩ := HBe.out k hlt hx
        have g1 : ((k : Int) == (P.size : Int) - 1) = false := beq_false_of_ne (by omega)
        have h2i : (k : Int) + 1 < P.size := by omega
        have hwk : IntKind.i64.wrap ((k : Int) + 1) = (k : Int) + 1 := IntWalk.i64_in _ (by omega)
        have hk1 : ((k : Int) + 1).toNat = k + 1 := by omega
        have hk2 : ¬ (k : Int) + 1 < 0 := by omega
        have g2 : ¬ (224 : Int) ≤ (P[k + 1]'h2).toNat := by omega
        have g3 : decide ((224 : Int) ≤ (P[k + 1]'h2).toNat) = false := decide_eq_false g2
        clear HBe hx hy HCl HDr HQ HA
        go_wp2
        go_roundw
        case rel => exact ⟨k + 1, by omega, by first | rfl | go_num, by first | rfl | trivial⟩
        case measure => simp [intOf]; omega
      · have g0 : (((P[k]'hlt).toNat : Int) == 255) = false := beq_false_of_ne (by omega)
        clear HBe hx HCl HDr HQ HA
        go_wp2
        go_roundw
        case rel => exact ⟨k + 1, by omega, by first | rfl | go_num, by first | rfl | trivial⟩
        case measure => simp [intOf]; omega
    · have hke : k = P.size := by omega
      subst hke
      have hki : ¬ (P.size : Int) < P.size := by omega
      clear HBe
      cases q with
      | false =>
        clear HQ
        go_wp2_with (first
          | (go_at_call 9; refine (HA.out _).mono ?_; rintro e w2 ⟨rfl, hb2⟩)
          | (go_at_call 14; refine (HDr.out _).mono ?_; rintro e w3 ⟨rfl, hb3⟩)
          | (go_at_call 11; refine (HCl.out _).mono ?_; rintro e w4 ⟨rfl, hb4⟩))
        go_ret
        exact ⟨by first | (simp; done) | rfl, ((hb1.trans hb2).trans hb3).trans hb4⟩
      | true =>
        have e := HQ.out rfl
        subst e
        clear HQ
        go_wp2_with (first
          | (go_at_call 9; refine (HA.out _).mono ?_; rintro e w2 ⟨rfl, hb2⟩)
          | (go_at_call 14; refine (HDr.out _).mono ?_; rintro e w3 ⟨rfl, hb3⟩)
          | (go_at_call 11; refine (HCl.out _).mono ?_; rintro e w4 ⟨rfl, hb4⟩))
        go_ret
        exact ⟨by first | (simp; done) | rfl, ((hb1.trans hb2).trans hb3).trans hb4⟩
theorem walk (s : ByteArray) (W : World) : Calls Try.prog 4 #[.string s] W fun e w' => e = .returned (.bool true) ∧ Ext W w' := by
  by_cases h : s.size ≤ 1000
  · exact walk_main s W h
  · exact walk_long s W (by omega)
set_option maxRecDepth 100000 in
theorem lifted (os : Os) (started : os.Started) (H : Type) (enc : TypeId × Value → H) :
    ReturnsInHanded {} Try.checked os 4 .any (Rows.syncBackSpec.pre6 enc Try.prog Try.f4 Rows.syncBackRow.domain false) (Rows.syncBackSpec.post enc Try.prog Try.f4 false true false false) := by
  refine returnsInHanded_of_change (C := Try.checked) own started (by kernel_rfl) Try.func4
    (ChangeSpec.witness6 (enc := enc) (C := Try.checked) false ⟨#[], #[.string ByteArray.empty], []⟩ 8 (by kernel_rfl) (by kernel_rfl) (by kernel_rfl) (by kernel_rfl)) ?_
  intro W base args ds gs before hval0 hW hcnd _
  have hval : ∀ (j : Nat) t v, Try.f4.params[j]? = some t → args[j]? = some v → Value.okWide Try.prog W .any base t v := hval0
  have hW' := hW
  obtain ⟨p, q, hA0, hV, rfl, hfz, hnd⟩ := hW
  have hA : DataW.TrodAll enc Try.prog W 0 (fun _ => true) true Try.f4.params.toList args.toList ds p := hA0
  rw [Try.params4] at hA hval
  obtain ⟨v0, vs0, d0, ds0, p0, q0, hargs, rfl, rfl, h0, r0⟩ := trodAll_cons hA
  obtain ⟨rfl, rfl, rfl⟩ := trodAll_nil r0
  obtain rfl : args = #[v0] := by cases args; simp_all
  obtain ⟨rfl, rfl⟩ := trodVars_none hV
  obtain ⟨a0, rfl, rfl, rfl, w0⟩ := open_string Try.underlying9 (hval 0 9 v0 rfl rfl) h0
  clear hA0 hval0
  try simp only [List.append_nil] at hW'
  refine (walk a0 W).mono fun e W' ⟨he, bel⟩ => ?_
  subst he
  exact ⟨_, rfl, _, _, _, [], [], [], hW', trodAll_mk1 (shut_bool Try.underlying4 _), (trodAll_cons_mk (shut_string Try.underlying9 w0) trodAll_mk0), rfl, bel.frame _, fun h => by cases h⟩

theorem and2 {a b : Bool} (ha : a = true) (hb : b = true) : (a && b) = true := by rw [ha, hb]; rfl
set_option maxHeartbeats 40000000 in
theorem closed : joinedFacts Try.pinned.checked.prog 4 Try.f4 Rows.syncBackSpec Rows.syncBackRow = true := by
  unfold joinedFacts
  repeat' with_reducible refine and2 ?_ ?_
  all_goals as_aux_lemma => kernel_rfl
theorem over : Rows.syncBackRow.holds Try.pinned (OpenSpec.ofChange Rows.syncBackSpec) :=
  OpenClaim.holds_of_wide 4 Try.f4 rfl rfl rfl rfl rfl rfl rfl ⟨rfl, rfl, rfl, rfl, rfl⟩ rfl rfl rfl rfl rfl (by kernel_rfl) Try.func4 closed
    (of_decide_eq_true (by kernel_rfl)) (by unfold Func.isWrapper; first | (rw [if_pos (by decide +kernel)]; kernel_rfl) | (rw [if_neg (by decide +kernel)]; exact ⟨rfl, rfl⟩))
    (fun os started H enc _ => lifted os started H enc)

/-- THE STATEMENT. -/
theorem proved : Rows.SyncBackSaid := over
#print axioms proved

end Go.Proofs.Ytbdjncnofpbkkaa.syncBack
