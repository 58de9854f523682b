/-
  What the proof of this claim leans on (S6).
-/
import Derived.Test.YtndopjmdpmkgeaaGreatDoorS0
import Derived.Test.YtndopjmdpmkgeaaGreatDoorS1
import Derived.Test.YtndopjmdpmkgeaaGreatDoorS3
import Derived.Test.YtndopjmdpmkgeaaGreatDoorS5
import Derived.IntWalk
namespace Go.Proofs.YtndopjmdpmkgeaaGreatDoor
open Go Go.ChangeShapes Go.WideShapes Go.ChangeAt Go.RowKit
set_option linter.unusedSimpArgs false
set_option linter.unusedVariables false

theorem rcellb (b : Int) (w : World) (h0 : 0 ≤ b) (h1 : b ≤ 1000) : Calls Tryz.prog 130 #[.int .i64 b] w fun e w' => e = .returned (.int .i64 (cellB b)) ∧ w = w' := by
  unfold cellB
  by_cases c1 : b < 64
  · rw [if_neg (by omega), if_neg (by omega)]
    have c2 : b < 161 := by omega
    go_enter Tryz.func130, Tryz.ntmps130
    go_wp2
    go_ret
    exact ⟨rfl, rfl⟩
  by_cases c2 : b ≤ 126
  · rw [if_pos ⟨by omega, c2⟩]
    have c3 : 64 ≤ b := by omega
    have c4 : ¬ 126 < b := by omega
    go_enter Tryz.func130, Tryz.ntmps130
    go_wp2
    go_ret
    exact ⟨rfl, rfl⟩
  rw [if_neg (by omega)]
  have c3 : 64 ≤ b := by omega
  have c4 : 126 < b := by omega
  by_cases c5 : b < 161
  · rw [if_neg (by omega)]
    go_enter Tryz.func130, Tryz.ntmps130
    go_wp2
    go_ret
    exact ⟨rfl, rfl⟩
  by_cases c6 : b ≤ 254
  · rw [if_pos ⟨by omega, c6⟩]
    have c7 : 161 ≤ b := by omega
    have c8 : ¬ 254 < b := by omega
    go_enter Tryz.func130, Tryz.ntmps130
    go_wp2
    go_ret
    exact ⟨rfl, rfl⟩
  · rw [if_neg (by omega)]
    have c7 : 161 ≤ b := by omega
    go_enter Tryz.func130, Tryz.ntmps130
    go_wp2
    go_ret
    exact ⟨rfl, rfl⟩
theorem cellB_bd (b : Int) : cellB b = -1 ∨ (0 ≤ cellB b ∧ cellB b ≤ 156) := by
  unfold cellB
  split
  · omega
  · split <;> omega
/-- A text that is a row: its signs. -/
def RowText (s : ByteArray) (L : List Int) : Prop := runesL s.data.toList = L ∧ badS s < 0 ∧ s.size ≤ 1000 ∧ L.length ≤ 157
theorem rrow8_8 (w : World) : Calls Tryz.prog 132 #[.int .i64 136] w fun e w' => (∃ s, e = .returned (.string s) ∧ RowText s big8) ∧ w = w' := by
  go_enter Tryz.func132, Tryz.ntmps132
  go_wp2
  go_ret
  exact ⟨⟨_, rfl, by decide +kernel, by decide +kernel, by decide +kernel, by decide +kernel⟩, rfl⟩
theorem rrow8_1 (w : World) : Calls Tryz.prog 132 #[.int .i64 161] w fun e w' => (∃ s, e = .returned (.string s) ∧ RowText s big1) ∧ w = w' := by
  go_enter Tryz.func132, Tryz.ntmps132
  go_wp2
  go_ret
  exact ⟨⟨_, rfl, by decide +kernel, by decide +kernel, by decide +kernel, by decide +kernel⟩, rfl⟩
theorem rrow8_3 (w : World) : Calls Tryz.prog 132 #[.int .i64 163] w fun e w' => (∃ s, e = .returned (.string s) ∧ RowText s big3) ∧ w = w' := by
  go_enter Tryz.func132, Tryz.ntmps132
  go_wp2
  go_ret
  exact ⟨⟨_, rfl, by decide +kernel, by decide +kernel, by decide +kernel, by decide +kernel⟩, rfl⟩
theorem rrow8_4 (w : World) : Calls Tryz.prog 132 #[.int .i64 164] w fun e w' => (∃ s, e = .returned (.string s) ∧ RowText s big4) ∧ w = w' := by
  go_enter Tryz.func132, Tryz.ntmps132
  go_wp2
  go_ret
  exact ⟨⟨_, rfl, by decide +kernel, by decide +kernel, by decide +kernel, by decide +kernel⟩, rfl⟩
theorem rrow8_5 (w : World) : Calls Tryz.prog 132 #[.int .i64 165] w fun e w' => (∃ s, e = .returned (.string s) ∧ RowText s big5) ∧ w = w' := by
  go_enter Tryz.func132, Tryz.ntmps132
  go_wp2
  go_ret
  exact ⟨⟨_, rfl, by decide +kernel, by decide +kernel, by decide +kernel, by decide +kernel⟩, rfl⟩
theorem rrow8_no (a : Int) (w : World) (h1 : a ≠ 136) (h2 : a ≠ 161) (h3 : a ≠ 163) (h4 : a ≠ 164) (h5 : a ≠ 165) : Calls Tryz.prog 132 #[.int .i64 a] w fun e w' => (∃ s, e = .returned (.string s) ∧ RowText s []) ∧ w = w' := by
  have e1 := beq_false_of_ne h1
  have e2 := beq_false_of_ne h2
  have e3 := beq_false_of_ne h3
  have e4 := beq_false_of_ne h4
  have e5 := beq_false_of_ne h5
  clear h1 h2 h3 h4 h5
  go_enter Tryz.func132, Tryz.ntmps132
  go_wp2
  go_ret
  exact ⟨⟨_, rfl, by decide +kernel, by decide +kernel, by decide +kernel, by decide +kernel⟩, rfl⟩
theorem rrow8 (a : Nat) (w : World) : Calls Tryz.prog 132 #[.int .i64 a] w fun e w' => (∃ s, e = .returned (.string s) ∧ RowText s (rowB a)) ∧ w = w' := by
  unfold rowB
  by_cases c1 : a = 136
  · subst c1; rw [if_pos rfl]; exact rrow8_8 w
  rw [if_neg c1]
  by_cases c2 : a = 161
  · subst c2; rw [if_pos rfl]; exact rrow8_1 w
  rw [if_neg c2]
  by_cases c3 : a = 163
  · subst c3; rw [if_pos rfl]; exact rrow8_3 w
  rw [if_neg c3]
  by_cases c4 : a = 164
  · subst c4; rw [if_pos rfl]; exact rrow8_4 w
  rw [if_neg c4]
  by_cases c5 : a = 165
  · subst c5; rw [if_pos rfl]; exact rrow8_5 w
  rw [if_neg c5]
  exact rrow8_no a w (by omega) (by omega) (by omega) (by omega) (by omega)
/-- What is left of a row's text from a place on: the signs from a cell on. -/
def Rest (s : ByteArray) (L : List Int) (i c : Nat) : Prop := runesL (s.data.toList.drop i) = L.drop c ∧ badL i (s.data.toList.drop i) < 0
theorem RowText.rest {s : ByteArray} {L : List Int} (h : RowText s L) : Rest s L 0 0 := ⟨h.1, h.2.1⟩
theorem Rest.good {s : ByteArray} {L : List Int} {i c : Nat} (h : Rest s L i c) (hi : i < s.size) : ¬ ((Lib.decodeL (s.data.toList.drop i)).1 = 65533 ∧ (Lib.decodeL (s.data.toList.drop i)).2 = 1) := by
  intro hb
  have h2 := h.2
  rw [badL_step i _ (drop_ne hi), if_pos hb] at h2
  omega
theorem Rest.here {s : ByteArray} {L : List Int} {i c : Nat} (h : Rest s L i c) (hi : i < s.size) : L[c]? = some ((Lib.decodeL (s.data.toList.drop i)).1 : Int) := by
  have h1 := h.1
  rw [runesL_step _ (drop_ne hi)] at h1
  have h2 : (L.drop c)[0]? = some ((Lib.decodeL (s.data.toList.drop i)).1 : Int) := by rw [← h1]; rfl
  simpa using h2
theorem Rest.next {s : ByteArray} {L : List Int} {i c : Nat} (h : Rest s L i c) (hi : i < s.size) : Rest s L (i + (Lib.decodeL (s.data.toList.drop i)).2) (c + 1) := by
  have h1 := h.1
  have h2 := h.2
  have hne := drop_ne hi
  rw [runesL_step _ hne, List.drop_drop] at h1
  rw [badL_step i _ hne, if_neg (h.good hi), List.drop_drop] at h2
  refine ⟨?_, h2⟩
  have h3 : (L.drop c).drop 1 = L.drop (c + 1) := List.drop_drop ..
  rw [← h3, ← h1]
  rfl
theorem Rest.stop {s : ByteArray} {L : List Int} {i c : Nat} (h : Rest s L i c) (hi : s.size ≤ i) : L.length ≤ c := by
  have h1 := h.1
  have e : s.data.toList.drop i = [] := List.drop_eq_nil_of_le hi
  rw [e, runesL_nil] at h1
  exact List.drop_eq_nil_iff.1 h1.symm
set_option maxRecDepth 100000 in
set_option maxHeartbeats 1000000 in
theorem rnth8 (s : ByteArray) (L : List Int) (n : Nat) (w : World) (v : Int) (hL : RowText s L) (hn : n ≤ 200) (hv : L.getD n 0 = v) :
    Calls Tryz.prog 131 #[.string s, .int .i64 n] w fun e w' => e = .returned (.int .i32 v) ∧ Ext w w' := by
  have H0 := Lib.hid hL.rest
  have hs := hL.2.2.1
  have HE := Lib.hid hv
  clear hL hv
  go_enter Tryz.func131, Tryz.ntmps131
  go_wp2
  go_loopw [5, 6] (fun a b wr => ∃ i c : Nat, a = .int .i64 i ∧ b = .int .i64 c ∧ c ≤ n ∧ i ≤ s.size ∧ Ext w wr ∧ Hid (Rest s L i c)) (fun a _ _ => s.size - (intOf a).toNat)
  case atStart => exact ⟨0, 0, rfl, rfl, Nat.zero_le _, Nat.zero_le _, Ext.refl _, H0⟩
  case round =>
    obtain ⟨i, c, rfl, rfl, hc, hii, hx, HN⟩ := hrel
    clear H0
    by_cases hi : i < s.size
    · have hi2 : (i : Int) < s.size := by omega
      have HA := Lib.hid (fun w => rat_ok s i w hi (by omega) (HN.out.good hi))
      have HH := Lib.hid (HN.out.here hi)
      have HX := Lib.hid (HN.out.next hi)
      have hw := Lib.decodeL_width (s.data.toList.drop i)
      have hle := Lib.decodeL_le _ (drop_ne hi)
      rw [List.length_drop] at hle
      have hsl : s.data.toList.length = s.size := rfl
      have hq : (Lib.decodeL (s.data.toList.drop i)).2 + i ≤ s.size := by omega
      generalize ((Lib.decodeL (s.data.toList.drop i)).1 : Int) = p at HA HH
      generalize (Lib.decodeL (s.data.toList.drop i)).2 = q at HA hw hq hle HX
      by_cases hcn : c = n
      · subst hcn
        have HV : Hid (v = p) := by
          show _ = _
          rw [← HE.out, List.getD_eq_getElem?_getD, HH.out]
          rfl
        clear HH HX HE
        go_wp2_with (go_at_call 46; refine (HA.out _).mono ?_; rintro e w2 ⟨rfl, hb2⟩)
        go_ret
        exact ⟨by rw [HV.out]; rfl, hx.trans hb2⟩
      · have g1 : ((c : Int) == (n : Int)) = false := beq_false_of_ne (by omega)
        have g2 : ¬ (c : Int) = (n : Int) := by omega
        clear HH
        go_wp2_with (go_at_call 46; refine (HA.out _).mono ?_; rintro e w2 ⟨rfl, hb2⟩)
        go_roundw
        case rel => exact ⟨i + q, c + 1, by go_num, by go_num, by omega, by omega, hx.trans hb2, HX.out⟩
        case measure => first | (simp [intOf]; done) | (simp [intOf]; omega)
    · have hi2 : ¬ (i : Int) < s.size := by omega
      have HV : Hid (v = 0) := by
        show _ = _
        have := HN.out.stop (by omega)
        rw [← HE.out, List.getD_eq_getElem?_getD, List.getElem?_eq_none (by omega)]
        rfl
      clear HN HE
      go_wp2
      go_ret
      exact ⟨by rw [HV.out]; rfl, hx⟩
theorem rone8 (a : Nat) (b : Int) (w : World) (h0 : 0 ≤ b) (h1 : b ≤ 1000) : Calls Tryz.prog 97 #[.int .i64 a, .int .i64 b] w fun e w' => e = .returned (.int .i32 (oneB a b)) ∧ Ext w w' := by
  have HC := Lib.hid (fun w => rcellb b w h0 h1)
  have HR := Lib.hid (fun w => rrow8 a w)
  have HN := Lib.hid (fun (s : ByteArray) (n : Nat) (v : Int) (hL : RowText s (rowB a)) (hn : n ≤ 200) (hv : (rowB a).getD n 0 = v) (w : World) => rnth8 s (rowB a) n w v hL hn hv)
  have hb := cellB_bd b
  unfold oneB
  generalize rowB a = L at HR HN ⊢
  generalize cellB b = t at HC hb ⊢
  rcases hb with rfl | ⟨t0, t1⟩
  · have e : nthB L (-1) = 0 := rfl
    rw [e, if_neg (by decide)]
    clear HR HN e
    go_enter Tryz.func97, Tryz.ntmps97
    go_wp2_with (go_at_call 130; refine (HC.out _).mono ?_; rintro e w1 ⟨rfl, rfl⟩)
    go_ret
    exact ⟨rfl, Ext.refl _⟩
  · obtain ⟨n, rfl⟩ := Int.eq_ofNat_of_zero_le t0
    have e : nthB L (n : Int) = L.getD n 0 := by
      unfold nthB
      rw [if_neg (by omega), Int.toNat_natCast]
    rw [e]
    have hn : n ≤ 200 := by omega
    have c1 : ¬ (n : Int) < 0 := by omega
    obtain ⟨p, hp0⟩ : ∃ p, L.getD n 0 = p := ⟨_, rfl⟩
    rw [hp0]
    have HP := Lib.hid hp0
    clear e hp0
    by_cases hp : p = 63
    · subst hp
      rw [if_pos rfl]
      go_enter Tryz.func97, Tryz.ntmps97
      go_wp2_with (first
        | (go_at_call 130; refine (HC.out _).mono ?_; rintro e w1 ⟨rfl, rfl⟩)
        | (go_at_call 132; refine (HR.out _).mono ?_; rintro e w1 ⟨⟨s, rfl, hs⟩, rfl⟩)
        | (go_at_call 131; refine (HN.out _ _ _ hs hn HP.out _).mono ?_; rintro e w1 ⟨rfl, hx⟩))
      go_ret
      exact ⟨rfl, hx⟩
    · rw [if_neg hp]
      have g1 : (p == 63) = false := beq_false_of_ne hp
      go_enter Tryz.func97, Tryz.ntmps97
      go_wp2_with (first
        | (go_at_call 130; refine (HC.out _).mono ?_; rintro e w1 ⟨rfl, rfl⟩)
        | (go_at_call 132; refine (HR.out _).mono ?_; rintro e w1 ⟨⟨s, rfl, hs⟩, rfl⟩)
        | (go_at_call 131; refine (HN.out _ _ _ hs hn HP.out _).mono ?_; rintro e w1 ⟨rfl, hx⟩))
      go_ret
      exact ⟨rfl, hx⟩
theorem rtwo8 (a b : Int) (w : World) (h0 : 0 ≤ a) (h1 : a ≤ 1000) (h2 : 0 ≤ b) (h3 : b ≤ 1000) : Calls Tryz.prog 96 #[.int .i64 a, .int .i64 b] w fun e w' => e = .returned (.tuple #[.int .i32 (twoS (a * 256 + b)).1, .int .i32 (twoS (a * 256 + b)).2]) ∧ w = w' := by
  unfold twoS
  have HZ : Hid (∃ c : Int, c = a * 256 + b) := ⟨_, rfl⟩
  obtain ⟨c, hc⟩ := HZ.out
  by_cases c1 : a * 256 + b = 34914
  · rw [if_pos c1]
    go_enter Tryz.func96, Tryz.ntmps96
    go_wp2
    go_ret2
    exact ⟨rfl, rfl⟩
  rw [if_neg c1]
  have d1 : (a * 256 + b == 34914) = false := beq_false_of_ne c1
  by_cases c2 : a * 256 + b = 34916
  · rw [if_pos c2]
    clear c1
    go_enter Tryz.func96, Tryz.ntmps96
    go_wp2
    go_ret2
    exact ⟨rfl, rfl⟩
  rw [if_neg c2]
  have d2 : (a * 256 + b == 34916) = false := beq_false_of_ne c2
  by_cases c3 : a * 256 + b = 34979
  · rw [if_pos c3]
    clear c1 c2
    go_enter Tryz.func96, Tryz.ntmps96
    go_wp2
    go_ret2
    exact ⟨rfl, rfl⟩
  rw [if_neg c3]
  have d3 : (a * 256 + b == 34979) = false := beq_false_of_ne c3
  by_cases c4 : a * 256 + b = 34981
  · rw [if_pos c4]
    clear c1 c2 c3
    go_enter Tryz.func96, Tryz.ntmps96
    go_wp2
    go_ret2
    exact ⟨rfl, rfl⟩
  rw [if_neg c4]
  have d4 : (a * 256 + b == 34981) = false := beq_false_of_ne c4
  clear c1 c2 c3 c4
  go_enter Tryz.func96, Tryz.ntmps96
  go_wp2
  go_ret2
  exact ⟨rfl, rfl⟩
end Go.Proofs.YtndopjmdpmkgeaaGreatDoor

namespace Go.Proofs.YtndopjmdpmkgeaaGreatDoor
open Go Go.ChangeShapes Go.WideShapes Go.ChangeAt Go.RowKit
set_option linter.unusedSimpArgs false
set_option linter.unusedVariables false

/-- The text of two bytes' signs. -/
def sigT (a b : Nat) : ByteArray := ⟨(encs (signsB a b)).toArray⟩
theorem sigT_two (a b : Nat) (p q : Int) (h : twoS ((a * 256 + b : Nat) : Int) = (p, q)) (hp : p ≠ 0) : sigT a b = signText p ++ signText q := by
  unfold sigT signsB
  rw [h, if_pos hp, show [p, q] = [p] ++ [q] from rfl, encs_app, encs_one, encs_one]
  apply ByteArray.ext
  rw [ByteArray.data_append]
  simp [signText]
theorem sigT_one (a b : Nat) (h : (twoS ((a * 256 + b : Nat) : Int)).1 = 0) (hp : oneB a b ≠ 0) : sigT a b = signText (oneB a b) := by
  unfold sigT signsB
  rw [if_neg (by rw [h]; decide), if_pos hp, encs_one]
  rfl
theorem sigT_no (a b : Nat) (h : (twoS ((a * 256 + b : Nat) : Int)).1 = 0) (hp : oneB a b = 0) : sigT a b = ⟨#[]⟩ := by
  unfold sigT signsB
  rw [if_neg (by rw [h]; decide), if_neg (by rw [hp]; decide)]
  rfl
theorem signText_size (p : Int) : (signText p).size ≤ 4 := by
  show (Lib.encodeRune p).toArray.size ≤ 4
  rw [List.size_toArray]
  exact enc_le p
set_option maxRecDepth 100000 in
set_option maxHeartbeats 1000000 in
theorem rsigns8 (a b : Nat) (w : World) (ha : a < 256) (hb : b < 256) : Calls Tryz.prog 57 #[.int .i64 a, .int .i64 b] w fun e w' => e = .returned (.string (sigT a b)) ∧ Ext w w' := by
  have H1 := Lib.hid (fun w => rtwo8 (a : Int) (b : Int) w (by omega) (by omega) (by omega) (by omega))
  have H2 := Lib.hid (fun w => rone8 a (b : Int) w (by omega) (by omega))
  have H3 := Lib.hid (fun (p : Int) (h : isSign p = true) (w : World) => rbytes_any p w h)
  have hc : ((a : Int) * 256 + (b : Int)) = ((a * 256 + b : Nat) : Int) := by omega
  rw [hc] at H1
  rcases two_cases ((a * 256 + b : Nat) : Int) with e | ⟨c, e⟩ | ⟨c, e⟩ | ⟨c, e⟩ | ⟨c, e⟩
  · rw [e] at H1
    have e0 : (twoS ((a * 256 + b : Nat) : Int)).1 = 0 := by rw [e]
    by_cases hp : oneB a b = 0
    · rw [sigT_no a b e0 hp]
      rw [hp] at H2
      clear e e0 hc
      go_enter Tryz.func57, Tryz.ntmps57
      go_wp2_with (first
        | (go_at_call 96; refine (H1.out _).mono ?_; rintro e w1 ⟨rfl, rfl⟩)
        | (go_at_call 97; refine (H2.out _).mono ?_; rintro e w1 ⟨rfl, hx⟩))
      go_ret
      exact ⟨rfl, hx⟩
    · rw [sigT_one a b e0 hp]
      have hbd := oneB_bd a b
      have hs : isSign (oneB a b) = true := (isSign_iff _).2 (by omega)
      have g : (oneB a b == 0) = false := beq_false_of_ne hp
      generalize oneB a b = p at H2 hp hs g ⊢
      clear e e0 hc hbd
      go_enter Tryz.func57, Tryz.ntmps57
      go_wp2_with (first
        | (go_at_call 96; refine (H1.out _).mono ?_; rintro e w1 ⟨rfl, rfl⟩)
        | (go_at_call 97; refine (H2.out _).mono ?_; rintro e w1 ⟨rfl, hx⟩)
        | (go_at_call 54; refine (H3.out _ hs _).mono ?_; rintro e w1 ⟨rfl, hy⟩))
      go_ret
      exact ⟨rfl, hx.trans hy⟩
  all_goals
    rw [sigT_two a b _ _ e (by decide)]
    rw [e] at H1
    have hz1 := signText_size 202
    have hz2 := signText_size 234
    have hz3 := signText_size 772
    have hz4 := signText_size 780
    have hx := Ext.refl w
    clear e c hc
    go_enter Tryz.func57, Tryz.ntmps57
    go_wp2_with (first
      | (go_at_call 96; refine (H1.out _).mono ?_; rintro e w1 ⟨rfl, rfl⟩)
      | (go_at_call 54; refine (H3.out _ ?_ _).mono ?_; (· decide); rintro e w1 ⟨rfl, hy⟩; replace hx := hx.trans hy; clear hy))
    go_ret
    exact ⟨rfl, hx⟩
end Go.Proofs.YtndopjmdpmkgeaaGreatDoor

namespace Go.Proofs.YtndopjmdpmkgeaaGreatDoor
open Go Go.RowKit
set_option linter.unusedSimpArgs false
set_option linter.unusedVariables false

/-- A capital as a small letter. -/
def low9 (c : UInt8) : UInt8 := if 65 ≤ c.toNat ∧ c.toNat ≤ 90 then (c.toNat + 32).toUInt8 else c
/-- Are two labels one, capitals of the first taken as small letters? -/
def same9 (a b : ByteArray) : Bool := decide (a.data.toList.map low9 = b.data.toList)
theorem same9_size {a b : ByteArray} (h : a.size ≠ b.size) : same9 a b = false := by
  unfold same9
  refine decide_eq_false fun e => h ?_
  have := congrArg List.length e
  simpa using this
theorem same9_no {a b : ByteArray} {k : Nat} (ha : k < a.size) (hb : k < b.size) (h : low9 a[k] ≠ b[k]) : same9 a b = false := by
  unfold same9
  refine decide_eq_false fun e => h ?_
  have h1 := congrArg (fun l => l[k]?) e
  simp only [List.getElem?_map] at h1
  have h2 : a.data.toList[k]? = some a[k] := List.getElem?_eq_some_iff.2 ⟨ha, rfl⟩
  have h3 : b.data.toList[k]? = some b[k] := List.getElem?_eq_some_iff.2 ⟨hb, rfl⟩
  rw [h2, h3] at h1
  exact Option.some.inj h1
theorem same9_yes {a b : ByteArray} (hs : a.size = b.size) (h : ∀ k (ha : k < a.size) (hb : k < b.size), low9 a[k] = b[k]) : same9 a b = true := by
  unfold same9
  refine decide_eq_true (List.ext_getElem? fun k => ?_)
  rw [List.getElem?_map]
  by_cases ha : k < a.size
  · have h2 : a.data.toList[k]? = some a[k] := List.getElem?_eq_some_iff.2 ⟨ha, rfl⟩
    have h3 : b.data.toList[k]? = some (b[k]'(by omega)) := List.getElem?_eq_some_iff.2 ⟨by show k < b.size; omega, rfl⟩
    rw [h2, h3]
    exact congrArg some (h k ha (by omega))
  · rw [List.getElem?_eq_none (by show a.size ≤ k; omega), List.getElem?_eq_none (by show b.size ≤ k; omega)]
    rfl
/-- All names of a charset, the first ahead. -/
def labels9 : Nat → List ByteArray
  | 0 => ["latin1".toUTF8, "iso-8859-1".toUTF8, "latin-1".toUTF8]
  | 1 => ["koi8-r".toUTF8, "koi8r".toUTF8]
  | 2 => ["koi8-u".toUTF8, "koi8u".toUTF8]
  | 3 => ["cp866".toUTF8, "ibm866".toUTF8]
  | 4 => ["cp949".toUTF8, "euc-kr".toUTF8, "uhc".toUTF8]
  | 5 => ["johab".toUTF8, "cp1361".toUTF8]
  | 6 => ["big5-hkscs".toUTF8, "big5".toUTF8]
  | 7 => ["utf-8".toUTF8, "utf8".toUTF8]
  | 8 => ["utf-16le".toUTF8, "utf16le".toUTF8]
  | 9 => ["utf-16be".toUTF8, "utf16be".toUTF8]
  | _ => []
/-- The charset of a label, from c on; -1: none. -/
def named9 (l : ByteArray) : Nat → Nat → Int
  | 0, _ => -1
  | n + 1, c => if (labels9 c).any (same9 l) then c else named9 l n (c + 1)
/-- The text of a sign; empty: none. -/
def txt9 (p : Int) : ByteArray := if p = 0 then ⟨#[]⟩ else signText p
/-- The text of two bytes' signs in CP949 (4), Johab (5), Big5 (6). -/
def sg9 (c a b : Nat) : ByteArray := if c = 6 then sigT a b else if c = 4 then txt9 (signW a b) else txt9 (signJ (a * 256 + b))
theorem txt9_size (p : Int) : (txt9 p).size ≤ 4 := by
  unfold txt9
  split
  · decide
  · exact sign_size p
theorem sigT_size9 (a b : Nat) : (sigT a b).size ≤ 8 := by
  rcases two_cases ((a * 256 + b : Nat) : Int) with e | ⟨c, e⟩ | ⟨c, e⟩ | ⟨c, e⟩ | ⟨c, e⟩
  · by_cases hp : oneB a b = 0
    · rw [sigT_no a b (by rw [e]) hp]; decide
    · rw [sigT_one a b (by rw [e]) hp]; have := sign_size (oneB a b); omega
  all_goals
    rw [sigT_two a b _ _ e (by decide), ByteArray.size_append]
    have h1 := sign_size
    decide
theorem sg9_size (c a b : Nat) : (sg9 c a b).size ≤ 8 := by
  unfold sg9
  split
  · exact sigT_size9 a b
  · split
    · have := txt9_size (signW a b); omega
    · have := txt9_size (signJ (a * 256 + b)); omega
/-- The text of bytes from i on, what stands ahead of them being t; the place of the fault, -1: none. -/
def dec9 (f : Nat → Nat → ByteArray) (s : ByteArray) (i : Nat) (t : ByteArray) : ByteArray × Int :=
  if h : i < s.size then
    if s[i].toNat < 128 then dec9 f s (i + 1) (t ++ s.extract i (i + 1))
    else if h2 : i + 1 < s.size then
      if (f s[i].toNat s[i + 1].toNat).size = 0 then (⟨#[]⟩, i) else dec9 f s (i + 2) (t ++ f s[i].toNat s[i + 1].toNat)
    else (⟨#[]⟩, i)
  else (t, -1)
termination_by s.size - i
section
variable {f : Nat → Nat → ByteArray} {s t : ByteArray} {i : Nat}
theorem dec9_end (h : ¬ i < s.size) : dec9 f s i t = (t, -1) := by
  rw [dec9, dif_neg h]
theorem dec9_low (h : i < s.size) (hb : s[i].toNat < 128) : dec9 f s i t = dec9 f s (i + 1) (t ++ s.extract i (i + 1)) := by
  rw [dec9, dif_pos h, if_pos hb]
theorem dec9_left (h : i < s.size) (hb : ¬ s[i].toNat < 128) (h2 : ¬ i + 1 < s.size) : dec9 f s i t = (⟨#[]⟩, (i : Int)) := by
  rw [dec9, dif_pos h, if_neg hb, dif_neg h2]
theorem dec9_none (h : i < s.size) (hb : ¬ s[i].toNat < 128) (h2 : i + 1 < s.size) (h3 : (f s[i].toNat s[i + 1].toNat).size = 0) : dec9 f s i t = (⟨#[]⟩, (i : Int)) := by
  rw [dec9, dif_pos h, if_neg hb, dif_pos h2, if_pos h3]
theorem dec9_two (h : i < s.size) (hb : ¬ s[i].toNat < 128) (h2 : i + 1 < s.size) (h3 : ¬ (f s[i].toNat s[i + 1].toNat).size = 0) : dec9 f s i t = dec9 f s (i + 2) (t ++ f s[i].toNat s[i + 1].toNat) := by
  rw [dec9, dif_pos h, if_neg hb, dif_pos h2, if_neg h3]
end
theorem nil_app9 (x : ByteArray) : (⟨#[]⟩ : ByteArray) ++ x = x := by apply ByteArray.ext; rw [ByteArray.data_append]; simp
theorem app_nil9 (x : ByteArray) : x ++ (⟨#[]⟩ : ByteArray) = x := by apply ByteArray.ext; rw [ByteArray.data_append]; simp
set_option maxRecDepth 100000 in
theorem rowsZ_signs : rowsZ.all isSign = true := by decide +kernel
theorem signW_sign (a b : Nat) (ha : a < 256) (hb : b < 256) (h : signW a b ≠ 0) : isSign (signW a b) = true := by
  have h1 := sign_codeW a b ha hb h
  unfold codeW at h1
  by_cases c1 : 44032 ≤ signW a b ∧ signW a b ≤ 55203
  · exact (isSign_iff _).2 (by omega)
  · rw [if_neg c1] at h1
    by_cases c2 : 0 < signW a b
    · rw [if_pos c2] at h1
      obtain ⟨j, k1, k2, k3⟩ := rowGo_get (signW a b) 1128 0 (by
        have : rowGo (signW a b) 1128 0 = rowCodeZ (signW a b) := rfl
        rw [this, h1]; omega)
      rw [Nat.zero_add] at k2
      refine List.all_eq_true.1 rowsZ_signs _ ?_
      rw [← rowsZ_eq]
      exact List.mem_map.2 ⟨j, List.mem_range.2 k1, k2⟩
    · rw [if_neg c2] at h1
      omega
theorem signJ_sign (c : Nat) (h : c < 65536) (hs : signJ c ≠ 0) : isSign (signJ c) = true := by
  obtain ⟨_, h1, h2, h3, _⟩ := okJ_at c h hs
  exact (isSign_iff _).2 (by omega)
end Go.Proofs.YtndopjmdpmkgeaaGreatDoor

namespace Go.Proofs.YtndopjmdpmkgeaaGreatDoor
open Go Go.ChangeShapes Go.WideShapes Go.ChangeAt Go.RowKit
set_option linter.unusedSimpArgs false
set_option linter.unusedVariables false

def LeadCells (y : Nat) (w : World) : Prop := ∀ w2, Ext w w2 → ∀ k : Nat, k < 5 → w2.cell? ⟨y, k, none⟩ = some (.int .i64 (leadB k))
theorem LeadCells.of {y : Nat} {w : World} (h : w.heap[y]? = some (.cells #[.int .i64 136, .int .i64 161, .int .i64 163, .int .i64 164, .int .i64 165] 3 (0, 0))) : LeadCells y w := by
  intro w2 hx k hk
  have hy : y < w.heap.size := by
    rcases Nat.lt_or_ge y w.heap.size with h2 | h2
    · exact h2
    · rw [Array.getElem?_eq_none h2] at h
      cases h
  rw [World.cell?_of_block (hx.block y hy)]
  have : k = 0 ∨ k = 1 ∨ k = 2 ∨ k = 3 ∨ k = 4 := by omega
  rcases this with rfl | rfl | rfl | rfl | rfl <;> (simp only [World.cell?, h]; rfl)
theorem rows_posB (L : List Int) (k : Nat) (h : L = rowB (leadB k)) (hk : k < 5) : L.all (fun z => decide (0 < z)) = true ∧ L.length ≤ 157 := by
  subst h
  have : k = 0 ∨ k = 1 ∨ k = 2 ∨ k = 3 ∨ k = 4 := by omega
  rcases this with rfl | rfl | rfl | rfl | rfl <;> decide +kernel
theorem row_pos {k c : Nat} {r : Int} (hk : k < 5) (h : (rowB (leadB k))[c]? = some r) : 0 < r ∧ c < 157 := by
  obtain ⟨h1, h2⟩ := rows_posB _ k rfl hk
  have h3 := List.all_eq_true.1 h1 r (List.mem_of_getElem? h)
  have h4 := (List.getElem?_eq_some_iff.1 h).1
  exact ⟨by simpa using h3, by omega⟩
theorem cell_row {k c : Nat} {r : Int} (hk : k < 5) (h : (rowB (leadB k))[c]? = some r) : cellAt (157 * k + c) = if r = 63 then 0 else r := by
  have hc := (row_pos hk h).2
  unfold cellAt
  rw [show (157 * k + c) / 157 = k from by omega, show (157 * k + c) % 157 = c from by omega, List.getD_eq_getElem?_getD, h]
  rfl
theorem cell_end {k c : Nat} (hc : c < 157) (h : (rowB (leadB k)).length ≤ c) : cellAt (157 * k + c) = 0 := by
  unfold cellAt
  rw [show (157 * k + c) / 157 = k from by omega, show (157 * k + c) % 157 = c from by omega, List.getD_eq_getElem?_getD, List.getElem?_eq_none h]
  rfl
theorem NoB.step {p : Int} {k c : Nat} {r : Int} (hk : k < 5) (h : NoB p (157 * k + c)) (hr : (rowB (leadB k))[c]? = some r) (hn : ¬ (r = p ∧ r ≠ 63)) : NoB p (157 * k + (c + 1)) := by
  intro j hj e
  by_cases hl : j < 157 * k + c
  · exact h j hl e
  · have : j = 157 * k + c := by omega
    subst this
    rw [cell_row hk hr] at e
    by_cases h63 : r = 63
    · rw [if_pos h63] at e
      exact e.symm
    · rw [if_neg h63] at e
      exact absurd ⟨e, h63⟩ hn
theorem NoB.done {p : Int} {k c : Nat} (h : NoB p (157 * k + c)) (hc : (rowB (leadB k)).length ≤ c) : NoB p (157 * (k + 1)) := by
  intro j hj e
  by_cases hl : j < 157 * k + c
  · exact h j hl e
  · have e2 : j = 157 * k + (j - 157 * k) := by omega
    rw [e2, cell_end (by omega) (by omega)] at e
    exact e.symm
theorem NoB.hit {p : Int} {k c : Nat} {r : Int} (hk : k < 5) (h : NoB p (157 * k + c)) (hr : (rowB (leadB k))[c]? = some r) (he : r = p) (h63 : r ≠ 63) : onlyB p = ((leadB k * 256 + secB8 c : Nat) : Int) ∧ c < 157 := by
  obtain ⟨h1, h2⟩ := row_pos hk hr
  have h3 := cell_row hk hr
  rw [if_neg h63] at h3
  rw [only_at p (157 * k + c) h (by omega) (by rw [h3, he]) (by omega), code_at k c h2]
  exact ⟨rfl, h2⟩
def NoP (p q : Int) (b : Nat) : Prop := ∀ j : Nat, 64 ≤ j → j < b → pairB p q ≠ 34816 + (j : Int)
theorem NoP.step {p q : Int} {b : Nat} (h : NoP p q b) (hn : pairB p q ≠ 34816 + (b : Int)) : NoP p q (b + 1) := fun j h1 h2 => by
  by_cases e : j = b
  · subst e; exact hn
  · exact h j h1 (by omega)
end Go.Proofs.YtndopjmdpmkgeaaGreatDoor

namespace Go.Proofs.YtndopjmdpmkgeaaGreatDoor
open Go Go.ChangeShapes Go.WideShapes Go.ChangeAt Go.RowKit
set_option linter.unusedSimpArgs false
set_option linter.unusedVariables false

theorem signsB_all (a b : Nat) : allSigns (signsB a b) = true := by
  unfold signsB
  rcases two_cases ((a * 256 + b : Nat) : Int) with e | ⟨c, e⟩ | ⟨c, e⟩ | ⟨c, e⟩ | ⟨c, e⟩
  · rw [e, if_neg (by decide)]
    by_cases h : oneB a b = 0
    · rw [if_neg (by rw [h]; decide)]; rfl
    · rw [if_pos h]
      have hb := oneB_bd a b
      show (isSign (oneB a b) && true) = true
      rw [(isSign_iff _).2 (by omega)]
      rfl
  all_goals
    rw [e]
    rfl
/-- The pairs of the cells from one on, so many. -/
def pairsGo : Nat → Nat → List Pr
  | 0, _ => []
  | k + 1, i => if cellAt i = 0 then pairsGo k (i + 1) else ((codeB i : Nat), cellAt i) :: pairsGo k (i + 1)
/-- All pairs of bytes that have one sign, by rising codes. -/
def bigPairs : List Pr := pairsGo 785 0
end Go.Proofs.YtndopjmdpmkgeaaGreatDoor

namespace Go.Proofs.YtndopjmdpmkgeaaGreatDoor
open Go Go.RowKit
set_option linter.unusedSimpArgs false
set_option linter.unusedVariables false

theorem pairsGo_mem : ∀ (k i : Nat) (x : Pr), x ∈ pairsGo k i ↔ ∃ j, i ≤ j ∧ j < i + k ∧ cellAt j ≠ 0 ∧ x = (((codeB j : Nat) : Int), cellAt j)
  | 0, i, x => by
    constructor
    · intro h; simp [pairsGo] at h
    · rintro ⟨j, h1, h2, _⟩; omega
  | k + 1, i, x => by
    unfold pairsGo
    by_cases h : cellAt i = 0
    · rw [if_pos h, pairsGo_mem k (i + 1) x]
      constructor
      · rintro ⟨j, h1, h2, h3, h4⟩
        exact ⟨j, by omega, by omega, h3, h4⟩
      · rintro ⟨j, h1, h2, h3, h4⟩
        by_cases e : j = i
        · subst e; exact absurd h h3
        · exact ⟨j, by omega, by omega, h3, h4⟩
    · rw [if_neg h, List.mem_cons, pairsGo_mem k (i + 1) x]
      constructor
      · rintro (h1 | ⟨j, h1, h2, h3, h4⟩)
        · exact ⟨i, by omega, by omega, h, h1⟩
        · exact ⟨j, by omega, by omega, h3, h4⟩
      · rintro ⟨j, h1, h2, h3, h4⟩
        by_cases e : j = i
        · subst e; exact .inl h4
        · exact .inr ⟨j, by omega, by omega, h3, h4⟩
theorem bigPairs_mem (x : Pr) : x ∈ bigPairs ↔ ∃ j, j < 785 ∧ cellAt j ≠ 0 ∧ x = (((codeB j : Nat) : Int), cellAt j) := by
  unfold bigPairs
  rw [pairsGo_mem 785 0 x]
  constructor
  · rintro ⟨j, _, h2, h3⟩; exact ⟨j, by omega, h3⟩
  · rintro ⟨j, h2, h3⟩; exact ⟨j, by omega, by omega, h3⟩
/-- Two bytes' one sign is a pair; a pair is two bytes' one sign. -/
theorem bigPairs_one (a b : Nat) (h : oneB a b ≠ 0) : (((a * 256 + b : Nat) : Int), oneB a b) ∈ bigPairs := by
  obtain ⟨i, h1, h2, h3⟩ := one_cell a b h
  exact (bigPairs_mem _).2 ⟨i, h1, by rw [h2]; exact h, by rw [h2, h3]⟩
end Go.Proofs.YtndopjmdpmkgeaaGreatDoor

namespace Go.Proofs.YtndopjmdpmkgeaaGreatDoor
open Go Go.RowKit
set_option linter.unusedSimpArgs false
set_option linter.unusedVariables false

/-- The pieces: the first code, the signs. -/
def bgL : List (Nat × List Int) := [(34902, [256, 193, 461, 192, 274, 201, 282, 200, 332, 211, 465, 210]), (34915, [7870]), (34917, [7872, 202, 257, 225, 462, 224, 593, 275, 233, 283, 232, 299, 237, 464, 236, 333, 243, 466, 242, 363, 250, 468, 249, 470, 472, 474]), (34977, [476, 252]), (34980, [7871]), (34982, [7873, 234, 609]), (41280, [12288, 65292, 12289, 12290, 65294, 8226, 65307, 65306, 65311, 65281, 65072, 8230, 8229, 65104, 65380, 65106, 183, 65108, 65109, 65110, 65111, 65372, 8211, 65073, 8212, 65075, 9588, 65076, 65103, 65288, 65289, 65077, 65078, 65371, 65373, 65079, 65080, 12308, 12309, 65081, 65082, 12304, 12305, 65083, 65084, 12298, 12299, 65085, 65086, 12296, 12297, 65087, 65088, 12300, 12301, 65089, 65090, 12302, 12303, 65091, 65092, 65113, 65114]), (41377, [65115, 65116, 65117, 65118, 8216, 8217, 8220, 8221, 12317, 12318, 8245, 8242, 65283, 65286, 65290, 8251, 167, 12291, 9675, 9679, 9651, 9650, 9678, 9734, 9733, 9671, 9670, 9633, 9632, 9661, 9660, 12963, 8453, 8254, 65507, 65343, 717, 65097, 65098, 65101, 65102, 65099, 65100, 65119, 65120, 65121, 65291, 65293, 215, 247, 177, 8730, 65308, 65310, 65309, 8806, 8807, 8800, 8734, 8786, 8801, 65122, 65123, 65124, 65125, 65126, 8764, 8745, 8746, 8869, 8736, 8735, 8895, 13266, 13265, 8747, 8750, 8757, 8756, 9792, 9794, 9793, 9737, 8593, 8595, 8592, 8594, 8598, 8599, 8601, 8600, 8741, 8739, 65295]), (41792, [65367, 65368, 65369, 65370, 913, 914, 915, 916, 917, 918, 919, 920, 921, 922, 923, 924, 925, 926, 927, 928, 929, 931, 932, 933, 934, 935, 936, 937, 945, 946, 947, 948, 949, 950, 951, 952, 953, 954, 955, 956, 957, 958, 959, 960, 961, 963, 964, 965, 966, 967, 968, 969, 12549, 12550, 12551, 12552, 12553, 12554, 12555, 12556, 12557, 12558, 12559]), (41889, [12560, 12561, 12562, 12563, 12564, 12565, 12566, 12567, 12568, 12569, 12570, 12571, 12572, 12573, 12574, 12575, 12576, 12577, 12578, 12579, 12580, 12581, 12582, 12583, 12584, 12585, 729, 713, 714, 711, 715]), (42048, [19968, 20057, 19969, 19971, 20035, 20061, 20102, 20108, 20154, 20799, 20837, 20843, 20960, 20992, 20993, 21147, 21269, 21313, 21340, 21448, 19977, 19979, 19976, 19978, 20011, 20024, 20961, 20037, 20040, 20063, 20062, 20110, 20129, 20800, 20995, 21242, 21315, 21449, 21475, 22303, 22763, 22805, 22823, 22899, 23376, 23377, 23379, 23544, 23567, 23586, 23608, 23665, 24029, 24037, 24049, 24050, 24051, 24062, 24178, 24318, 24331, 24339, 25165]), (42145, [19985, 19984, 19981, 20013, 20016, 20025, 20043, 23609, 20104, 20113, 20117, 20114, 20116, 20130, 20161, 20160, 20163, 20166, 20167, 20173, 20170, 20171, 20164, 20803, 20801, 20839, 20845, 20846, 20844, 20887, 20982, 20998, 20999, 21000, 21243, 21246, 21247, 21270, 21305, 21320, 21319, 21317, 21342, 21380, 21451, 21450, 21453, 22764, 22825, 22827, 22826, 22829, 23380, 23569, 23588, 23610, 23663, 24052, 24187, 24319, 24340, 24341, 24515, 25096, 25142, 25163, 25166, 25903, 25991, 26007, 26020, 26041, 26085, 26352, 26376, 26408, 27424, 27490, 27513, 27595, 27604, 27611, 27663, 27700, 28779, 29226, 29238, 29243, 29255, 29273, 29275, 29356, 29579, 19993]), (42304, [19990, 19989, 19988, 19992, 20027, 20045, 20047, 20046, 20197, 20184, 20180, 20181, 20182, 20183, 20195, 20196, 20185, 20190, 20805, 20804, 20873, 20874, 20908, 20985, 20986, 20984, 21002, 21152, 21151, 21253, 21254, 21271, 21277, 20191, 21322, 21321, 21345, 21344, 21359, 21358, 21435, 21487, 21476, 21491, 21484, 21486, 21481, 21480, 21500, 21496, 21493, 21483, 21478, 21482, 21490, 21489, 21488, 21477, 21485, 21499, 22235, 22234, 22806]), (42401, [22830, 22833, 22900, 22902, 23381, 23427, 23612, 24040, 24039, 24038, 24066, 24067, 24179, 24188, 24321, 24344, 24343, 24517, 25098, 25171, 25172, 25170, 25169, 26021, 26086, 26414, 26412, 26410, 26411, 26413, 27491, 27597, 27665, 27664, 27704, 27713, 27712, 27710, 29359, 29572, 29577, 29916, 29926, 29976, 29983, 29992, 29993, 30000, 30001, 30002, 30003, 30091, 30333, 30382, 30399, 30446, 30683, 30690, 30707, 31034, 31166, 31348, 31435, 19998, 19999, 20050, 20051, 20073, 20121, 20132, 20134, 20133, 20223, 20233, 20249, 20234, 20245, 20237, 20240, 20241, 20239, 20210, 20214, 20219, 20208, 20211, 20221, 20225, 20235, 20809, 20807, 20806, 20808, 20840])]
def bgF (i : Nat) : Nat := (bgL.getD i (0, [])).1
def bgS (i : Nat) : List Int := (bgL.getD i (0, [])).2
def bgV : List Pv := bgL.map fun p => ⟨(p.1 : Int), 0, 0, txt p.2⟩
/-- The last piece, from one on, so many, that begins at a code or ahead of it; else one that was so. -/
def lastGo (c : Int) : Nat → Nat → Nat × List Int → Nat × List Int
  | 0, _, q => q
  | k + 1, i, q => lastGo c k (i + 1) (if (bgF i : Int) ≤ c then (bgF i, bgS i) else q)
/-- A sign by its number. -/
def nthS (zs : List Int) (n : Int) : Int := if 0 ≤ n then zs.getD n.toNat 0 else 0
/-- The sign of a code, as the code looks for it; 0: there is none. -/
def soB (c : Int) : Int := nthS (lastGo c 14 0 (0, [])).2 (c - (lastGo c 14 0 (0, [])).1)
theorem lastGo_in (c : Int) : ∀ (k i : Nat) (q : Nat × List Int), lastGo c k i q = q ∨ ∃ j, i ≤ j ∧ j < i + k ∧ (bgF j : Int) ≤ c ∧ lastGo c k i q = (bgF j, bgS j)
  | 0, i, q => .inl rfl
  | k + 1, i, q => by
    unfold lastGo
    by_cases h : (bgF i : Int) ≤ c
    · rw [if_pos h]
      rcases lastGo_in c k (i + 1) (bgF i, bgS i) with e | ⟨j, h1, h2, h3, e⟩
      · exact .inr ⟨i, by omega, by omega, h, e⟩
      · exact .inr ⟨j, by omega, by omega, h3, e⟩
    · rw [if_neg h]
      rcases lastGo_in c k (i + 1) q with e | ⟨j, h1, h2, h3, e⟩
      · exact .inl e
      · exact .inr ⟨j, by omega, by omega, h3, e⟩
set_option maxRecDepth 1000000 in
theorem soB_cells : (List.range 785).all (fun i => cellAt i == 0 || soB ((codeB i : Nat) : Int) == cellAt i) = true := by decide +kernel
set_option maxRecDepth 1000000 in
theorem soB_back : (List.range 14).all (fun i => (List.range (bgS i).length).all fun n => oneB ((bgF i + n) / 256) (((bgF i + n) % 256 : Nat) : Int) != 0) = true := by decide +kernel
theorem soB_one (a b : Nat) (hb : b < 256) : soB ((a * 256 + b : Nat) : Int) = oneB a b := by
  by_cases h : oneB a b = 0
  · rw [h]
    unfold soB
    rcases lastGo_in ((a * 256 + b : Nat) : Int) 14 0 (0, []) with e | ⟨j, h1, h2, h3, e⟩
    · rw [e]
      unfold nthS
      split <;> rfl
    · rw [e]
      unfold nthS
      rw [if_pos (show 0 ≤ ((a * 256 + b : Nat) : Int) - (bgF j : Int) by omega)]
      obtain ⟨n, hn⟩ : ∃ n, n = (((a * 256 + b : Nat) : Int) - (bgF j : Int)).toNat := ⟨_, rfl⟩
      rw [← hn]
      by_cases hl : n < (bgS j).length
      · exfalso
        have h4 := List.all_eq_true.1 soB_back j (List.mem_range.2 (by omega))
        have h5 := List.all_eq_true.1 h4 n (List.mem_range.2 hl)
        rw [show bgF j + n = a * 256 + b from by omega, show (a * 256 + b) / 256 = a from by omega, show (a * 256 + b) % 256 = b from by omega, h] at h5
        cases h5
      · rw [List.getD_eq_getElem?_getD, List.getElem?_eq_none (by show (bgS j).length ≤ n; omega)]
        rfl
  · obtain ⟨i, h1, h2, h3⟩ := (bigPairs_mem _).1 (bigPairs_one a b h)
    have h4 := List.all_eq_true.1 soB_cells i (List.mem_range.2 h1)
    have h5 := congrArg Prod.fst h3
    have h6 := congrArg Prod.snd h3
    simp only at h5 h6
    rw [← h5, ← h6] at h4
    rcases Bool.or_eq_true_iff.1 h4 with h7 | h7
    · exact absurd (eq_of_beq h7) h
    · exact eq_of_beq h7
set_option maxRecDepth 100000 in
theorem bgS_ok (i : Nat) : allSigns (bgS i) = true ∧ (bgS i).length ≤ 100 ∧ (bgS i).all (fun z => decide (z ≠ 0)) = true := by
  by_cases h : i < 14
  · have hk : (List.range 14).all (fun i => allSigns (bgS i) && decide ((bgS i).length ≤ 100) && (bgS i).all (fun z => decide (z ≠ 0))) = true := by decide +kernel
    have h1 := List.all_eq_true.1 hk i (List.mem_range.2 h)
    simp only [Bool.and_eq_true, decide_eq_true_eq] at h1
    exact ⟨h1.1.1, h1.1.2, by simpa using h1.2⟩
  · have e : bgS i = [] := by
      unfold bgS
      rw [List.getD_eq_getElem?_getD, List.getElem?_eq_none (by show 14 ≤ i; omega)]
      rfl
    rw [e]
    exact ⟨rfl, by decide, rfl⟩
theorem bgF_bd (i : Nat) : bgF i ≤ 42401 := by
  by_cases h : i < 14
  · have hk : (List.range 14).all (fun i => decide (bgF i ≤ 42401)) = true := by decide +kernel
    have h1 := List.all_eq_true.1 hk i (List.mem_range.2 h)
    simpa using h1
  · unfold bgF
    rw [List.getD_eq_getElem?_getD, List.getElem?_eq_none (by show 14 ≤ i; omega)]
    decide

end Go.Proofs.YtndopjmdpmkgeaaGreatDoor

namespace Go.Proofs.YtndopjmdpmkgeaaGreatDoor
open Go Go.ChangeShapes Go.WideShapes Go.ChangeAt Go.RowKit
set_option linter.unusedSimpArgs false
set_option linter.unusedVariables false

/-- Texts in a row that is made at once. -/
theorem made_texts {w : World} {y : Nat} {t : TypeId} (xs : List ByteArray) (h : w.heap[y]? = some (.cells (textCells xs).toArray t (0, 0))) (n : Nat) (hn : n = xs.length) : IsTexts w (some ⟨y, 0, none⟩) n n xs := by
  subst hn
  refine ⟨rfl, .inr ⟨y, 0, rfl, Nat.le_refl _, fun j z hj => ?_⟩⟩
  have e1 : (textCells xs)[j]? = some (.string z) := by simp [textCells, hj]
  simp only [World.cell?, h, Nat.zero_add]
  simpa using e1
set_option maxRecDepth 100000 in
theorem rlabels (c : Nat) (w : World) : Calls Tryz.prog 52 #[.int .i64 c] w fun e w' => ∃ a cap, e = .returned (.slice a (labels9 c).length cap) ∧ IsTexts w' a (labels9 c).length cap (labels9 c) ∧ Ext w w' := by
  by_cases h : c < 10
  · have : c = 0 ∨ c = 1 ∨ c = 2 ∨ c = 3 ∨ c = 4 ∨ c = 5 ∨ c = 6 ∨ c = 7 ∨ c = 8 ∨ c = 9 := by omega
    rcases this with rfl | rfl | rfl | rfl | rfl | rfl | rfl | rfl | rfl | rfl
    all_goals
      go_enter Tryz.func52, Tryz.ntmps52
      go_wp2
      go_ret
      refine ⟨_, _, rfl, made_texts _ (heap_alloc_new w _) _ rfl, (Ext.refl w).alloc _⟩
  · have e : labels9 c = [] := by
      unfold labels9
      split <;> first | omega | rfl
    rw [e]
    have g0 : ((c : Int) == 0) = false := beq_false_of_ne (by omega)
    have g1 : ((c : Int) == 1) = false := beq_false_of_ne (by omega)
    have g2 : ((c : Int) == 2) = false := beq_false_of_ne (by omega)
    have g3 : ((c : Int) == 3) = false := beq_false_of_ne (by omega)
    have g4 : ((c : Int) == 4) = false := beq_false_of_ne (by omega)
    have g5 : ((c : Int) == 5) = false := beq_false_of_ne (by omega)
    have g6 : ((c : Int) == 6) = false := beq_false_of_ne (by omega)
    have g7 : ((c : Int) == 7) = false := beq_false_of_ne (by omega)
    have g8 : ((c : Int) == 8) = false := beq_false_of_ne (by omega)
    have g9 : ((c : Int) == 9) = false := beq_false_of_ne (by omega)
    generalize (c : Int) = z at g0 g1 g2 g3 g4 g5 g6 g7 g8 g9
    go_enter Tryz.func52, Tryz.ntmps52
    go_wp2
    go_ret
    exact ⟨_, _, rfl, ⟨rfl, .inl rfl⟩, Ext.refl w⟩
theorem low9_nat (c : UInt8) : (low9 c).toNat = if 65 ≤ c.toNat ∧ c.toNat ≤ 90 then c.toNat + 32 else c.toNat := by
  unfold low9
  split
  · simp; omega
  · rfl
theorem low9_cap {c d : UInt8} (h1 : 65 ≤ c.toNat) (h2 : c.toNat ≤ 90) : low9 c = d ↔ (c.toNat : Int) + 32 = d.toNat := by
  have e := low9_nat c
  rw [if_pos ⟨h1, h2⟩] at e
  constructor
  · rintro rfl; omega
  · intro h; exact UInt8.toNat_inj.1 (by omega)
theorem low9_not {c d : UInt8} (h : c.toNat < 65 ∨ 90 < c.toNat) : low9 c = d ↔ (c.toNat : Int) = d.toNat := by
  have e := low9_nat c
  rw [if_neg (by omega)] at e
  constructor
  · rintro rfl; omega
  · intro h; exact UInt8.toNat_inj.1 (by omega)
/-- So far two labels are one. -/
def SoFar (a b : ByteArray) (k : Nat) : Prop := ∀ j (ha : j < a.size) (hb : j < b.size), j < k → low9 a[j] = b[j]
set_option maxRecDepth 100000 in
set_option maxHeartbeats 1000000 in
theorem rsame9 (a b : ByteArray) (w : World) (hsz : a.size ≤ 1000000) : Calls Tryz.prog 53 #[.string a, .string b] w fun e w' => e = .returned (.bool (same9 a b)) ∧ w = w' := by
  by_cases hs : a.size = b.size
  · have H0 : Hid (SoFar a b 0) := fun j _ _ h => by omega
    have hsi : (a.size : Int) = b.size := by omega
    have HSZ := Lib.hid hs
    clear hs
    go_enter Tryz.func53, Tryz.ntmps53
    go_wp2
    clear hsi
    go_loopw [5] (fun i wr => ∃ k : Nat, k ≤ a.size ∧ i = .int .i64 k ∧ w = wr ∧ Hid (SoFar a b k)) (fun i _ => a.size - (intOf i).toNat)
    case atStart => exact ⟨0, by omega, rfl, rfl, H0⟩
    case round =>
      obtain ⟨k, hk, rfl, rfl, HS⟩ := hrel
      clear H0
      by_cases hlt : k < a.size
      · have hlb : k < b.size := by have := HSZ.out; omega
        have HA : Hid (low9 a[k] = b[k] → SoFar a b (k + 1)) := fun e j h1 h2 h3 => by
          rcases Nat.lt_or_ge j k with h4 | h4
          · exact HS.out j h1 h2 h4
          · obtain rfl : j = k := by omega
            exact e
        have HN : Hid (low9 a[k] ≠ b[k] → same9 a b = false) := fun e => same9_no hlt hlb e
        have x1 : (a[k].toNat : Int) < 256 := by have := a[k].toNat_lt; omega
        have x2 : (b[k].toNat : Int) < 256 := by have := b[k].toNat_lt; omega
        by_cases c1 : (65 : Int) ≤ a[k].toNat
        · by_cases c2 : (a[k].toNat : Int) ≤ 90
          · have HI := Lib.hid (low9_cap (c := a[k]) (d := b[k]) (by omega) (by omega))
            by_cases e : (a[k].toNat : Int) + 32 = b[k].toNat
            · have HX := Lib.hid (HA.out (HI.out.2 e))
              have g : ((a[k].toNat : Int) + 32 == (b[k].toNat : Int)) = true := by rw [e]; exact beq_self_eq_true _
              clear HA HN HI HS
              go_wp2
              go_roundw
              case rel => exact ⟨k + 1, by omega, by go_num, by first | trivial | rfl, HX⟩
              case measure => simp [intOf]; omega
            · have HF := Lib.hid (HN.out (fun q => e (HI.out.1 q)))
              have g : ((a[k].toNat : Int) + 32 == (b[k].toNat : Int)) = false := beq_false_of_ne e
              clear HA HN HI HS
              go_wp2
              go_ret
              exact ⟨by rw [HF.out]; rfl, rfl⟩
          · have HI := Lib.hid (low9_not (c := a[k]) (d := b[k]) (by omega))
            by_cases e : (a[k].toNat : Int) = b[k].toNat
            · have HX := Lib.hid (HA.out (HI.out.2 e))
              have g : ((a[k].toNat : Int) == (b[k].toNat : Int)) = true := by rw [e]; exact beq_self_eq_true _
              clear HA HN HI HS
              go_wp2
              go_roundw
              case rel => exact ⟨k + 1, by omega, by go_num, by first | trivial | rfl, HX⟩
              case measure => simp [intOf]; omega
            · have HF := Lib.hid (HN.out (fun q => e (HI.out.1 q)))
              have g : ((a[k].toNat : Int) == (b[k].toNat : Int)) = false := beq_false_of_ne e
              clear HA HN HI HS
              go_wp2
              go_ret
              exact ⟨by rw [HF.out]; rfl, rfl⟩
        · have HI := Lib.hid (low9_not (c := a[k]) (d := b[k]) (by omega))
          by_cases e : (a[k].toNat : Int) = b[k].toNat
          · have HX := Lib.hid (HA.out (HI.out.2 e))
            have g : ((a[k].toNat : Int) == (b[k].toNat : Int)) = true := by rw [e]; exact beq_self_eq_true _
            clear HA HN HI HS
            go_wp2
            go_roundw
            case rel => exact ⟨k + 1, by omega, by go_num, by first | trivial | rfl, HX⟩
            case measure => simp [intOf]; omega
          · have HF := Lib.hid (HN.out (fun q => e (HI.out.1 q)))
            have g : ((a[k].toNat : Int) == (b[k].toNat : Int)) = false := beq_false_of_ne e
            clear HA HN HI HS
            go_wp2
            go_ret
            exact ⟨by rw [HF.out]; rfl, rfl⟩
      · have HE : Hid (same9 a b = true) := same9_yes HSZ.out fun j h1 h2 => HS.out j h1 h2 (by omega)
        have hke : ¬ (k : Int) < a.size := by omega
        go_wp2
        go_ret
        exact ⟨by rw [HE.out]; rfl, rfl⟩
  · have e := same9_size hs
    rw [e]
    have g : ((a.size : Int) == b.size) = false := beq_false_of_ne (by omega)
    have g2 : ¬ (a.size : Int) = b.size := by omega
    clear e
    go_enter Tryz.func53, Tryz.ntmps53
    go_wp2
    go_ret
    exact ⟨rfl, rfl⟩
/-- None of the first labels is this one. -/
def NoneYet (l : ByteArray) (L : List ByteArray) (j : Nat) : Prop := ∀ q x, q < j → L[q]? = some x → same9 l x = false
theorem NoneYet.any {l : ByteArray} {L : List ByteArray} {j : Nat} (h : NoneYet l L j) (hj : L.length ≤ j) : L.any (same9 l) = false := by
  rw [List.any_eq_false]
  intro x hx
  obtain ⟨q, hq⟩ := List.getElem?_of_mem hx
  have := (List.getElem?_eq_some_iff.1 hq).1
  rw [h q x (by omega) hq]
  decide
theorem any_at {l : ByteArray} {L : List ByteArray} {j : Nat} {x : ByteArray} (h : L[j]? = some x) (he : same9 l x = true) : L.any (same9 l) = true :=
  List.any_eq_true.2 ⟨x, List.mem_of_getElem? h, he⟩
theorem IsTexts.cell {w : World} {a : Option Addr} {n cap : Nat} {xs : List ByteArray} (h : IsTexts w a n cap xs) {k : Nat} (hk : k < n) : ∃ x off z, a = some ⟨x, off, none⟩ ∧ xs[k]? = some z ∧ ∀ w', Ext w w' → w'.cell? ⟨x, off + k, none⟩ = some (.string z) := by
  obtain ⟨h1, h2⟩ := h
  rcases h2 with h2 | ⟨x, off, rfl, hc, hcell⟩
  · omega
  · have hkl : k < xs.length := by omega
    have e : xs[k]? = some xs[k] := by simp [hkl]
    exact ⟨x, off, _, rfl, e, fun w' hx => (World.cell?_of_block (hx.block x (World.block_lt_of_cell? w _ (hcell k _ e)))).trans (hcell k _ e)⟩
theorem labels9_len (c : Nat) : (labels9 c).length ≤ 3 := by
  unfold labels9
  split <;> simp
set_option maxRecDepth 100000 in
set_option maxHeartbeats 1000000 in
theorem rnamed9 (l : ByteArray) (w : World) (hsz : l.size ≤ 1000000) : Calls Tryz.prog 33 #[.string l] w fun e w' => e = .returned (.int .i64 (named9 l 10 0)) ∧ Ext w w' := by
  obtain ⟨R, hR⟩ : ∃ R, R = named9 l 10 0 := ⟨_, rfl⟩
  rw [← hR]
  have H0 : Hid (named9 l (10 - 0) 0 = R) := hR.symm
  have HL := Lib.hid (fun c w => rlabels c w)
  have HQ := Lib.hid (fun x w => rsame9 l x w hsz)
  clear hR
  go_enter Tryz.func33, Tryz.ntmps33
  go_wp2
  go_loopw [3] (fun i wr => ∃ k : Nat, k ≤ 10 ∧ i = .int .i64 k ∧ Ext w wr ∧ Hid (named9 l (10 - k) k = R)) (fun i _ => 10 - (intOf i).toNat)
  case atStart => exact ⟨0, by omega, rfl, Ext.refl _, H0⟩
  case round =>
    obtain ⟨k, hk, rfl, hx, HN⟩ := hrel
    clear H0
    by_cases hlt : k < 10
    · have hki : (k : Int) < 10 := by omega
      have e0 : named9 l (10 - k) k = if (labels9 k).any (same9 l) then (k : Int) else named9 l (10 - (k + 1)) (k + 1) := by
        rw [show 10 - k = (10 - (k + 1)) + 1 from by omega]
        rfl
      have HY : Hid ((labels9 k).any (same9 l) = true → (k : Int) = R) := fun h => by
        have := HN.out
        rw [e0, if_pos h] at this
        exact this
      have HF : Hid ((labels9 k).any (same9 l) = false → named9 l (10 - (k + 1)) (k + 1) = R) := fun h => by
        have := HN.out
        rw [e0, h] at this
        simpa using this
      have HLk := Lib.hid (HL.out k)
      have hLb := labels9_len k
      clear HN e0
      generalize labels9 k = L at HY HF HLk hLb
      go_wp2_with (go_at_call 52; refine (HLk.out _).mono ?_; rintro e w1 ⟨a, cap, rfl, ht, hb⟩)
      have HT := Lib.hid ht
      clear ht
      go_loopw [5] (fun i wr2 => ∃ j : Nat, j ≤ L.length ∧ i = .int .i64 j ∧ Ext w1 wr2 ∧ Hid (NoneYet l L j)) (fun i _ => L.length - (intOf i).toNat)
      case atStart => exact ⟨0, by omega, rfl, Ext.refl _, fun q x h => by omega⟩
      case round =>
        obtain ⟨j, hj, rfl, hx2, HJ⟩ := hrel
        by_cases hjl : j < L.length
        · have hji : (j : Int) < L.length := by omega
          obtain ⟨x, off, z, rfl, hz, hcell⟩ := HT.out.cell hjl
          have hc := hcell _ hx2
          have HQz := Lib.hid (HQ.out z)
          have HA := Lib.hid (fun e => any_at (l := l) hz e)
          have HB : Hid (same9 l z = false → NoneYet l L (j + 1)) := fun e q y h1 h2 => by
            rcases Nat.lt_or_ge q j with h3 | h3
            · exact HJ.out q y h3 h2
            · obtain rfl : q = j := by omega
              rw [hz] at h2
              cases h2
              exact e
          clear hcell hz
          generalize same9 l z = b at HQz HA HB
          cases b with
          | true =>
            have HR := Lib.hid (HY.out (HA.out rfl))
            clear HA HB HY HF
            go_wp2_with (go_at_call 53; refine (HQz.out _).mono ?_; rintro e w2 ⟨rfl, rfl⟩)
            go_ret
            exact ⟨by rw [← HR.out]; rfl, (hx.trans hb).trans hx2⟩
          | false =>
            have HR := Lib.hid (HB.out rfl)
            clear HA HB
            go_wp2_with (go_at_call 53; refine (HQz.out _).mono ?_; rintro e w2 ⟨rfl, rfl⟩)
            go_roundw
            case rel => exact ⟨j + 1, by omega, by go_num, hx2, HR⟩
            case measure => simp [intOf]; omega
        · have HR := Lib.hid (HF.out (HJ.out.any (by omega)))
          have hji : ¬ (j : Int) < L.length := by omega
          clear HY HF
          go_wp2
          go_roundw
          case rel => exact ⟨k + 1, by omega, by go_num, (hx.trans hb).trans hx2, HR⟩
          case measure => simp [intOf]; omega
    · have hke : k = 10 := by omega
      subst hke
      have e : (-1 : Int) = R := HN.out
      subst e
      clear HN
      go_wp2
      go_ret
      exact ⟨rfl, hx⟩
end Go.Proofs.YtndopjmdpmkgeaaGreatDoor

