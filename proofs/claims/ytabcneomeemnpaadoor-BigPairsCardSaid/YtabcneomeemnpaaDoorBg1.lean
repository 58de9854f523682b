/-
  The document's answers of layer 8 (1): cells; rows; the sign of a text at a place; the one sign of two bytes; the two.
-/
import Derived.Test.YtabcneomeemnpaaDoorBg0
import Derived.Test.YtabcneomeemnpaaDoorSgA
import Derived.IntWalk
namespace Go.Proofs.YtabcneomeemnpaaDoor
open Go Go.ChangeShapes Go.WideShapes Go.ChangeAt Go.RowKit
set_option linter.unusedSimpArgs false
set_option linter.unusedVariables false

theorem rcellb (b : Int) (w : World) (h0 : 0 ≤ b) (h1 : b ≤ 1000) : Calls Tryd.prog 28 #[.int .i64 b] w fun e w' => e = .returned (.int .i64 (cellB b)) ∧ w = w' := by
  unfold cellB
  by_cases c1 : b < 64
  · rw [if_neg (by omega), if_neg (by omega)]
    have c2 : b < 161 := by omega
    go_enter Tryd.func28, Tryd.ntmps28
    go_wp2
    go_ret
    exact ⟨rfl, rfl⟩
  by_cases c2 : b ≤ 126
  · rw [if_pos ⟨by omega, c2⟩]
    have c3 : 64 ≤ b := by omega
    have c4 : ¬ 126 < b := by omega
    go_enter Tryd.func28, Tryd.ntmps28
    go_wp2
    go_ret
    exact ⟨rfl, rfl⟩
  rw [if_neg (by omega)]
  have c3 : 64 ≤ b := by omega
  have c4 : 126 < b := by omega
  by_cases c5 : b < 161
  · rw [if_neg (by omega)]
    go_enter Tryd.func28, Tryd.ntmps28
    go_wp2
    go_ret
    exact ⟨rfl, rfl⟩
  by_cases c6 : b ≤ 254
  · rw [if_pos ⟨by omega, c6⟩]
    have c7 : 161 ≤ b := by omega
    have c8 : ¬ 254 < b := by omega
    go_enter Tryd.func28, Tryd.ntmps28
    go_wp2
    go_ret
    exact ⟨rfl, rfl⟩
  · rw [if_neg (by omega)]
    have c7 : 161 ≤ b := by omega
    go_enter Tryd.func28, Tryd.ntmps28
    go_wp2
    go_ret
    exact ⟨rfl, rfl⟩
theorem cellB_bd (b : Int) : cellB b = -1 ∨ (0 ≤ cellB b ∧ cellB b ≤ 156) := by
  unfold cellB
  split
  · omega
  · split <;> omega
/-- A text that is a row: its signs. -/
def RowText (s : ByteArray) (L : List Int) : Prop := runesL s.data.toList = L ∧ badS s < 0 ∧ s.size ≤ 1000 ∧ L.length ≤ 157
theorem rrow8_8 (w : World) : Calls Tryd.prog 25 #[.int .i64 136] w fun e w' => (∃ s, e = .returned (.string s) ∧ RowText s big8) ∧ w = w' := by
  go_enter Tryd.func25, Tryd.ntmps25
  go_wp2
  go_ret
  exact ⟨⟨_, rfl, by decide +kernel, by decide +kernel, by decide +kernel, by decide +kernel⟩, rfl⟩
theorem rrow8_1 (w : World) : Calls Tryd.prog 25 #[.int .i64 161] w fun e w' => (∃ s, e = .returned (.string s) ∧ RowText s big1) ∧ w = w' := by
  go_enter Tryd.func25, Tryd.ntmps25
  go_wp2
  go_ret
  exact ⟨⟨_, rfl, by decide +kernel, by decide +kernel, by decide +kernel, by decide +kernel⟩, rfl⟩
theorem rrow8_3 (w : World) : Calls Tryd.prog 25 #[.int .i64 163] w fun e w' => (∃ s, e = .returned (.string s) ∧ RowText s big3) ∧ w = w' := by
  go_enter Tryd.func25, Tryd.ntmps25
  go_wp2
  go_ret
  exact ⟨⟨_, rfl, by decide +kernel, by decide +kernel, by decide +kernel, by decide +kernel⟩, rfl⟩
theorem rrow8_4 (w : World) : Calls Tryd.prog 25 #[.int .i64 164] w fun e w' => (∃ s, e = .returned (.string s) ∧ RowText s big4) ∧ w = w' := by
  go_enter Tryd.func25, Tryd.ntmps25
  go_wp2
  go_ret
  exact ⟨⟨_, rfl, by decide +kernel, by decide +kernel, by decide +kernel, by decide +kernel⟩, rfl⟩
theorem rrow8_5 (w : World) : Calls Tryd.prog 25 #[.int .i64 165] w fun e w' => (∃ s, e = .returned (.string s) ∧ RowText s big5) ∧ w = w' := by
  go_enter Tryd.func25, Tryd.ntmps25
  go_wp2
  go_ret
  exact ⟨⟨_, rfl, by decide +kernel, by decide +kernel, by decide +kernel, by decide +kernel⟩, rfl⟩
theorem rrow8_no (a : Int) (w : World) (h1 : a ≠ 136) (h2 : a ≠ 161) (h3 : a ≠ 163) (h4 : a ≠ 164) (h5 : a ≠ 165) : Calls Tryd.prog 25 #[.int .i64 a] w fun e w' => (∃ s, e = .returned (.string s) ∧ RowText s []) ∧ w = w' := by
  have e1 := beq_false_of_ne h1
  have e2 := beq_false_of_ne h2
  have e3 := beq_false_of_ne h3
  have e4 := beq_false_of_ne h4
  have e5 := beq_false_of_ne h5
  clear h1 h2 h3 h4 h5
  go_enter Tryd.func25, Tryd.ntmps25
  go_wp2
  go_ret
  exact ⟨⟨_, rfl, by decide +kernel, by decide +kernel, by decide +kernel, by decide +kernel⟩, rfl⟩
theorem rrow8 (a : Nat) (w : World) : Calls Tryd.prog 25 #[.int .i64 a] w fun e w' => (∃ s, e = .returned (.string s) ∧ RowText s (rowB a)) ∧ w = w' := by
  unfold rowB
  by_cases c1 : a = 136
  · subst c1; rw [if_pos rfl]; exact rrow8_8 w
  rw [if_neg c1]
  by_cases c2 : a = 161
  · subst c2; rw [if_pos rfl]; exact rrow8_1 w
  rw [if_neg c2]
  by_cases c3 : a = 163
  · subst c3; rw [if_pos rfl]; exact rrow8_3 w
  rw [if_neg c3]
  by_cases c4 : a = 164
  · subst c4; rw [if_pos rfl]; exact rrow8_4 w
  rw [if_neg c4]
  by_cases c5 : a = 165
  · subst c5; rw [if_pos rfl]; exact rrow8_5 w
  rw [if_neg c5]
  exact rrow8_no a w (by omega) (by omega) (by omega) (by omega) (by omega)
/-- What is left of a row's text from a place on: the signs from a cell on. -/
def Rest (s : ByteArray) (L : List Int) (i c : Nat) : Prop := runesL (s.data.toList.drop i) = L.drop c ∧ badL i (s.data.toList.drop i) < 0
theorem RowText.rest {s : ByteArray} {L : List Int} (h : RowText s L) : Rest s L 0 0 := ⟨h.1, h.2.1⟩
theorem Rest.good {s : ByteArray} {L : List Int} {i c : Nat} (h : Rest s L i c) (hi : i < s.size) : ¬ ((Lib.decodeL (s.data.toList.drop i)).1 = 65533 ∧ (Lib.decodeL (s.data.toList.drop i)).2 = 1) := by
  intro hb
  have h2 := h.2
  rw [badL_step i _ (drop_ne hi), if_pos hb] at h2
  omega
theorem Rest.here {s : ByteArray} {L : List Int} {i c : Nat} (h : Rest s L i c) (hi : i < s.size) : L[c]? = some ((Lib.decodeL (s.data.toList.drop i)).1 : Int) := by
  have h1 := h.1
  rw [runesL_step _ (drop_ne hi)] at h1
  have h2 : (L.drop c)[0]? = some ((Lib.decodeL (s.data.toList.drop i)).1 : Int) := by rw [← h1]; rfl
  simpa using h2
theorem Rest.next {s : ByteArray} {L : List Int} {i c : Nat} (h : Rest s L i c) (hi : i < s.size) : Rest s L (i + (Lib.decodeL (s.data.toList.drop i)).2) (c + 1) := by
  have h1 := h.1
  have h2 := h.2
  have hne := drop_ne hi
  rw [runesL_step _ hne, List.drop_drop] at h1
  rw [badL_step i _ hne, if_neg (h.good hi), List.drop_drop] at h2
  refine ⟨?_, h2⟩
  have h3 : (L.drop c).drop 1 = L.drop (c + 1) := List.drop_drop ..
  rw [← h3, ← h1]
  rfl
theorem Rest.stop {s : ByteArray} {L : List Int} {i c : Nat} (h : Rest s L i c) (hi : s.size ≤ i) : L.length ≤ c := by
  have h1 := h.1
  have e : s.data.toList.drop i = [] := List.drop_eq_nil_of_le hi
  rw [e, runesL_nil] at h1
  exact List.drop_eq_nil_iff.1 h1.symm
set_option maxRecDepth 100000 in
set_option maxHeartbeats 1000000 in
theorem rnth8 (s : ByteArray) (L : List Int) (n : Nat) (w : World) (v : Int) (hL : RowText s L) (hn : n ≤ 200) (hv : L.getD n 0 = v) :
    Calls Tryd.prog 29 #[.string s, .int .i64 n] w fun e w' => e = .returned (.int .i32 v) ∧ Ext w w' := by
  have H0 := Lib.hid hL.rest
  have hs := hL.2.2.1
  have HE := Lib.hid hv
  clear hL hv
  go_enter Tryd.func29, Tryd.ntmps29
  go_wp2
  go_loopw [5, 6] (fun a b wr => ∃ i c : Nat, a = .int .i64 i ∧ b = .int .i64 c ∧ c ≤ n ∧ i ≤ s.size ∧ Ext w wr ∧ Hid (Rest s L i c)) (fun a _ _ => s.size - (intOf a).toNat)
  case atStart => exact ⟨0, 0, rfl, rfl, Nat.zero_le _, Nat.zero_le _, Ext.refl _, H0⟩
  case round =>
    obtain ⟨i, c, rfl, rfl, hc, hii, hx, HN⟩ := hrel
    clear H0
    by_cases hi : i < s.size
    · have hi2 : (i : Int) < s.size := by omega
      have HA := Lib.hid (fun w => rat_ok s i w hi (by omega) (HN.out.good hi))
      have HH := Lib.hid (HN.out.here hi)
      have HX := Lib.hid (HN.out.next hi)
      have hw := Lib.decodeL_width (s.data.toList.drop i)
      have hle := Lib.decodeL_le _ (drop_ne hi)
      rw [List.length_drop] at hle
      have hsl : s.data.toList.length = s.size := rfl
      have hq : (Lib.decodeL (s.data.toList.drop i)).2 + i ≤ s.size := by omega
      generalize ((Lib.decodeL (s.data.toList.drop i)).1 : Int) = p at HA HH
      generalize (Lib.decodeL (s.data.toList.drop i)).2 = q at HA hw hq hle HX
      by_cases hcn : c = n
      · subst hcn
        have HV : Hid (v = p) := by
          show _ = _
          rw [← HE.out, List.getD_eq_getElem?_getD, HH.out]
          rfl
        clear HH HX HE
        go_wp2_with (go_at_call 20; refine (HA.out _).mono ?_; rintro e w2 ⟨rfl, hb2⟩)
        go_ret
        exact ⟨by rw [HV.out]; rfl, hx.trans hb2⟩
      · have g1 : ((c : Int) == (n : Int)) = false := beq_false_of_ne (by omega)
        have g2 : ¬ (c : Int) = (n : Int) := by omega
        clear HH
        go_wp2_with (go_at_call 20; refine (HA.out _).mono ?_; rintro e w2 ⟨rfl, hb2⟩)
        go_roundw
        case rel => exact ⟨i + q, c + 1, by go_num, by go_num, by omega, by omega, hx.trans hb2, HX.out⟩
        case measure => first | (simp [intOf]; done) | (simp [intOf]; omega)
    · have hi2 : ¬ (i : Int) < s.size := by omega
      have HV : Hid (v = 0) := by
        show _ = _
        have := HN.out.stop (by omega)
        rw [← HE.out, List.getD_eq_getElem?_getD, List.getElem?_eq_none (by omega)]
        rfl
      clear HN HE
      go_wp2
      go_ret
      exact ⟨by rw [HV.out]; rfl, hx⟩
theorem nthB_bd (L : List Int) (hL : ∀ z ∈ L, 0 ≤ z ∧ z ≤ 65535) (c : Int) : 0 ≤ nthB L c ∧ nthB L c ≤ 65535 := by
  unfold nthB
  split
  · omega
  · rw [List.getD_eq_getElem?_getD]
    cases h : L[c.toNat]? with
    | none => exact ⟨by simp, by simp⟩
    | some z => exact hL z (List.mem_of_getElem? h)
theorem rone8 (a : Nat) (b : Int) (w : World) (h0 : 0 ≤ b) (h1 : b ≤ 1000) : Calls Tryd.prog 14 #[.int .i64 a, .int .i64 b] w fun e w' => e = .returned (.int .i32 (oneB a b)) ∧ Ext w w' := by
  have HC := Lib.hid (fun w => rcellb b w h0 h1)
  have HR := Lib.hid (fun w => rrow8 a w)
  have HN := Lib.hid (fun (s : ByteArray) (n : Nat) (v : Int) (hL : RowText s (rowB a)) (hn : n ≤ 200) (hv : (rowB a).getD n 0 = v) (w : World) => rnth8 s (rowB a) n w v hL hn hv)
  have hb := cellB_bd b
  unfold oneB
  generalize rowB a = L at HR HN ⊢
  generalize cellB b = t at HC hb ⊢
  rcases hb with rfl | ⟨t0, t1⟩
  · have e : nthB L (-1) = 0 := rfl
    rw [e, if_neg (by decide)]
    clear HR HN e
    go_enter Tryd.func14, Tryd.ntmps14
    go_wp2_with (go_at_call 28; refine (HC.out _).mono ?_; rintro e w1 ⟨rfl, rfl⟩)
    go_ret
    exact ⟨rfl, Ext.refl _⟩
  · obtain ⟨n, rfl⟩ := Int.eq_ofNat_of_zero_le t0
    have e : nthB L (n : Int) = L.getD n 0 := by
      unfold nthB
      rw [if_neg (by omega), Int.toNat_natCast]
    rw [e]
    have hn : n ≤ 200 := by omega
    have c1 : ¬ (n : Int) < 0 := by omega
    obtain ⟨p, hp0⟩ : ∃ p, L.getD n 0 = p := ⟨_, rfl⟩
    rw [hp0]
    have HP := Lib.hid hp0
    clear e hp0
    by_cases hp : p = 63
    · subst hp
      rw [if_pos rfl]
      go_enter Tryd.func14, Tryd.ntmps14
      go_wp2_with (first
        | (go_at_call 28; refine (HC.out _).mono ?_; rintro e w1 ⟨rfl, rfl⟩)
        | (go_at_call 25; refine (HR.out _).mono ?_; rintro e w1 ⟨⟨s, rfl, hs⟩, rfl⟩)
        | (go_at_call 29; refine (HN.out _ _ _ hs hn HP.out _).mono ?_; rintro e w1 ⟨rfl, hx⟩))
      go_ret
      exact ⟨rfl, hx⟩
    · rw [if_neg hp]
      have g1 : (p == 63) = false := beq_false_of_ne hp
      go_enter Tryd.func14, Tryd.ntmps14
      go_wp2_with (first
        | (go_at_call 28; refine (HC.out _).mono ?_; rintro e w1 ⟨rfl, rfl⟩)
        | (go_at_call 25; refine (HR.out _).mono ?_; rintro e w1 ⟨⟨s, rfl, hs⟩, rfl⟩)
        | (go_at_call 29; refine (HN.out _ _ _ hs hn HP.out _).mono ?_; rintro e w1 ⟨rfl, hx⟩))
      go_ret
      exact ⟨rfl, hx⟩
theorem rtwo8 (a b : Int) (w : World) (h0 : 0 ≤ a) (h1 : a ≤ 1000) (h2 : 0 ≤ b) (h3 : b ≤ 1000) : Calls Tryd.prog 17 #[.int .i64 a, .int .i64 b] w fun e w' => e = .returned (.tuple #[.int .i32 (twoS (a * 256 + b)).1, .int .i32 (twoS (a * 256 + b)).2]) ∧ w = w' := by
  unfold twoS
  have HZ : Hid (∃ c : Int, c = a * 256 + b) := ⟨_, rfl⟩
  obtain ⟨c, hc⟩ := HZ.out
  by_cases c1 : a * 256 + b = 34914
  · rw [if_pos c1]
    go_enter Tryd.func17, Tryd.ntmps17
    go_wp2
    go_ret2
    exact ⟨rfl, rfl⟩
  rw [if_neg c1]
  have d1 : (a * 256 + b == 34914) = false := beq_false_of_ne c1
  by_cases c2 : a * 256 + b = 34916
  · rw [if_pos c2]
    clear c1
    go_enter Tryd.func17, Tryd.ntmps17
    go_wp2
    go_ret2
    exact ⟨rfl, rfl⟩
  rw [if_neg c2]
  have d2 : (a * 256 + b == 34916) = false := beq_false_of_ne c2
  by_cases c3 : a * 256 + b = 34979
  · rw [if_pos c3]
    clear c1 c2
    go_enter Tryd.func17, Tryd.ntmps17
    go_wp2
    go_ret2
    exact ⟨rfl, rfl⟩
  rw [if_neg c3]
  have d3 : (a * 256 + b == 34979) = false := beq_false_of_ne c3
  by_cases c4 : a * 256 + b = 34981
  · rw [if_pos c4]
    clear c1 c2 c3
    go_enter Tryd.func17, Tryd.ntmps17
    go_wp2
    go_ret2
    exact ⟨rfl, rfl⟩
  rw [if_neg c4]
  have d4 : (a * 256 + b == 34981) = false := beq_false_of_ne c4
  clear c1 c2 c3 c4
  go_enter Tryd.func17, Tryd.ntmps17
  go_wp2
  go_ret2
  exact ⟨rfl, rfl⟩
end Go.Proofs.YtabcneomeemnpaaDoor
