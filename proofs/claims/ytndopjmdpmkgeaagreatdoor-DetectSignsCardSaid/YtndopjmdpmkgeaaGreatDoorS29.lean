/-
  What the proof of this claim leans on (S29).
-/
import Derived.Test.YtndopjmdpmkgeaaGreatDoorS0
import Derived.Test.YtndopjmdpmkgeaaGreatDoorS1
import Derived.Test.YtndopjmdpmkgeaaGreatDoorS28
import Derived.Deep.WholeRow
namespace Go.Proofs.YtndopjmdpmkgeaaGreatDoor
open Go Go.ChangeShapes Go.WideShapes Go.ChangeAt Go.RowKit
set_option linter.unusedSimpArgs false
set_option linter.unusedVariables false

def secV (b : Int) : Int := if secZ b < 0 then 0 else secZ b
theorem secZ_le (b : Int) (h : 0 ≤ secZ b) : secZ b ≤ 177 := by
  unfold secZ at h ⊢
  split
  · omega
  · split
    · omega
    · split <;> omega
theorem csecond (b : Int) (w : World) (h0 : 0 ≤ b) (h1 : b ≤ 1000) : Calls Tryz.prog 179 #[.int .i64 b] w fun e w' => e = .returned (.tuple #[.int .i64 (secV b), .bool (decide (0 ≤ secZ b))]) ∧ w = w' := by
  have hu : secV b = (if 65 ≤ b ∧ b ≤ 90 then b - 65 else if 97 ≤ b ∧ b ≤ 122 then b - 97 + 26 else if 129 ≤ b ∧ b ≤ 254 then b - 129 + 52 else 0) := by
    unfold secV secZ
    split
    · rw [if_neg (by omega)]
    · split
      · rw [if_neg (by omega)]
      · split
        · rw [if_neg (by omega)]
        · rfl
  have hd : decide (0 ≤ secZ b) = (decide (65 ≤ b ∧ b ≤ 90) || (decide (97 ≤ b ∧ b ≤ 122) || decide (129 ≤ b ∧ b ≤ 254))) := by
    unfold secZ
    by_cases a : 65 ≤ b ∧ b ≤ 90
    · rw [if_pos a]; simp [a] <;> omega
    · rw [if_neg a]
      by_cases c : 97 ≤ b ∧ b ≤ 122
      · rw [if_pos c]; simp [c] <;> omega
      · rw [if_neg c]
        by_cases d : 129 ≤ b ∧ b ≤ 254
        · rw [if_pos d]; simp [d] <;> omega
        · rw [if_neg d]; simp [a, c, d]
  rw [hu, hd]
  clear hu hd
  by_cases a : 65 ≤ b ∧ b ≤ 90
  · rw [if_pos a, decide_eq_true a]
    obtain ⟨a1, a2⟩ := a
    go_enter Tryz.func179, Tryz.ntmps179
    go_wp2
    go_ret2
    exact ⟨rfl, rfl⟩
  rw [if_neg a, decide_eq_false a]
  by_cases c : 97 ≤ b ∧ b ≤ 122
  · rw [if_pos c, decide_eq_true c]
    obtain ⟨c1, c2⟩ := c
    have a1 : 65 ≤ b := by omega
    have a2 : ¬ b ≤ 90 := by omega
    clear a
    go_enter Tryz.func179, Tryz.ntmps179
    go_wp2
    go_ret2
    exact ⟨rfl, rfl⟩
  rw [if_neg c, decide_eq_false c]
  by_cases d : 129 ≤ b ∧ b ≤ 254
  · rw [if_pos d, decide_eq_true d]
    obtain ⟨d1, d2⟩ := d
    have a1 : 65 ≤ b := by omega
    have a2 : ¬ b ≤ 90 := by omega
    have c1 : 97 ≤ b := by omega
    have c2 : ¬ b ≤ 122 := by omega
    clear a c
    go_enter Tryz.func179, Tryz.ntmps179
    go_wp2
    go_ret2
    exact ⟨rfl, rfl⟩
  rw [if_neg d, decide_eq_false d]
  have hh : b < 65 ∨ (65 ≤ b ∧ ¬ b ≤ 90 ∧ b < 97) ∨ (65 ≤ b ∧ ¬ b ≤ 90 ∧ 97 ≤ b ∧ ¬ b ≤ 122 ∧ b < 129) ∨ (65 ≤ b ∧ ¬ b ≤ 90 ∧ 97 ≤ b ∧ ¬ b ≤ 122 ∧ 129 ≤ b ∧ ¬ b ≤ 254) := by omega
  clear a c d
  rcases hh with e1 | ⟨e1, e2, e3⟩ | ⟨e1, e2, e3, e4, e5⟩ | ⟨e1, e2, e3, e4, e5, e6⟩
  · have e2 : ¬ 65 ≤ b := by omega
    have e3 : ¬ 97 ≤ b := by omega
    have e4 : ¬ 129 ≤ b := by omega
    go_enter Tryz.func179, Tryz.ntmps179
    go_wp2
    go_ret2
    exact ⟨rfl, rfl⟩
  · have e4 : ¬ 97 ≤ b := by omega
    have e5 : ¬ 129 ≤ b := by omega
    go_enter Tryz.func179, Tryz.ntmps179
    go_wp2
    go_ret2
    exact ⟨rfl, rfl⟩
  · have e6 : ¬ 129 ≤ b := by omega
    go_enter Tryz.func179, Tryz.ntmps179
    go_wp2
    go_ret2
    exact ⟨rfl, rfl⟩
  · go_enter Tryz.func179, Tryz.ntmps179
    go_wp2
    go_ret2
    exact ⟨rfl, rfl⟩
/-- The number of two bytes beside the rows; -1: they have none. -/
def exZ (a b : Int) : Int := if secZ b < 0 ∨ a < 129 then -1 else if a < 161 then (a - 129) * 178 + secZ b else if secZ b < 84 then 5696 + (a - 161) * 84 + secZ b else -1
set_option maxRecDepth 100000 in
theorem cextra_no (a b : Int) (w : World) (ha : 0 ≤ a) (ha2 : a ≤ 255) (hb : 0 ≤ b) (hb2 : b ≤ 255) (h : exZ a b < 0) :
    Calls Tryz.prog 141 #[.int .i64 a, .int .i64 b] w fun e w' => e = .returned (.tuple #[.int .i64 0, .bool false]) ∧ w = w' := by
  have HS := Lib.hid (fun w => csecond b w hb (by omega))
  unfold exZ at h
  by_cases h1 : secZ b < 0
  · rw [decide_eq_false (by omega)] at HS
    generalize secV b = s at HS
    clear h h1 hb hb2
    go_enter Tryz.func141, Tryz.ntmps141
    go_wp2_with (go_at_call 179; refine (HS.out _).mono ?_; rintro e w1 ⟨rfl, rfl⟩)
    go_ret2
    exact ⟨rfl, rfl⟩
  · have hs := secZ_le b (by omega)
    rw [decide_eq_true (by omega), show secV b = secZ b from if_neg h1] at HS
    by_cases h2 : a < 129
    · clear h
      generalize secZ b = s at HS hs h1
      clear h1 hb hb2
      go_enter Tryz.func141, Tryz.ntmps141
      go_wp2_with (go_at_call 179; refine (HS.out _).mono ?_; rintro e w1 ⟨rfl, rfl⟩)
      go_ret2
      exact ⟨rfl, rfl⟩
    · rw [if_neg (by omega)] at h
      generalize secZ b = s at HS hs h1 h
      have h3 : ¬ a < 161 := by
        intro q
        rw [if_pos q] at h
        omega
      rw [if_neg h3] at h
      have h4 : ¬ s < 84 := by
        intro q
        rw [if_pos q] at h
        omega
      clear h h1 hb hb2
      go_enter Tryz.func141, Tryz.ntmps141
      go_wp2_with (go_at_call 179; refine (HS.out _).mono ?_; rintro e w1 ⟨rfl, rfl⟩)
      go_ret2
      exact ⟨rfl, rfl⟩
set_option maxRecDepth 100000 in
theorem cextra_yes (a b : Int) (w : World) (ha : 0 ≤ a) (ha2 : a ≤ 255) (hb : 0 ≤ b) (hb2 : b ≤ 255) (h : 0 ≤ exZ a b) :
    Calls Tryz.prog 141 #[.int .i64 a, .int .i64 b] w fun e w' => e = .returned (.tuple #[.int .i64 (exZ a b), .bool true]) ∧ w = w' := by
  have HS := Lib.hid (fun w => csecond b w hb (by omega))
  unfold exZ at h ⊢
  by_cases h1 : secZ b < 0 ∨ a < 129
  · rw [if_pos h1] at h; omega
  · rw [if_neg h1] at h ⊢
    have hs := secZ_le b (by omega)
    have hs0 : 0 ≤ secZ b := by omega
    have h2 : ¬ a < 129 := by omega
    rw [decide_eq_true (by omega), show secV b = secZ b from if_neg (by omega)] at HS
    generalize secZ b = s at HS hs hs0 h1 h ⊢
    by_cases h3 : a < 161
    · rw [if_pos h3]
      clear h h1 hb hb2
      go_enter Tryz.func141, Tryz.ntmps141
      go_wp2_with (go_at_call 179; refine (HS.out _).mono ?_; rintro e w1 ⟨rfl, rfl⟩)
      go_ret2
      exact ⟨rfl, rfl⟩
    · rw [if_neg h3] at h ⊢
      have h4 : s < 84 := by
        by_cases q : s < 84
        · exact q
        · rw [if_neg q] at h; omega
      rw [if_pos h4]
      clear h h1 hb hb2
      go_enter Tryz.func141, Tryz.ntmps141
      go_wp2_with (go_at_call 179; refine (HS.out _).mono ?_; rintro e w1 ⟨rfl, rfl⟩)
      go_ret2
      exact ⟨rfl, rfl⟩
set_option maxRecDepth 100000 in
theorem ccell_yes (a b : Int) (w : World) (ha : 161 ≤ a) (ha2 : a ≤ 254) (hb : 161 ≤ b) (hb2 : b ≤ 254) :
    Calls Tryz.prog 143 #[.int .i64 a, .int .i64 b] w fun e w' => e = .returned (.tuple #[.int .i64 ((a - 161) * 94 + b - 161), .bool true]) ∧ w = w' := by
  have a1 : ¬ a < 161 := by omega
  have a2 : ¬ 254 < a := by omega
  have a3 : ¬ b < 161 := by omega
  have a4 : ¬ 254 < b := by omega
  go_enter Tryz.func143, Tryz.ntmps143
  go_wp2
  go_ret2
  exact ⟨rfl, rfl⟩
set_option maxRecDepth 100000 in
theorem ccell_no (a b : Int) (w : World) (ha : 0 ≤ a) (ha2 : a ≤ 255) (hb : 0 ≤ b) (hb2 : b ≤ 255) (h : ¬ (161 ≤ a ∧ a ≤ 254 ∧ 161 ≤ b ∧ b ≤ 254)) :
    Calls Tryz.prog 143 #[.int .i64 a, .int .i64 b] w fun e w' => e = .returned (.tuple #[.int .i64 0, .bool false]) ∧ w = w' := by
  have hh : a < 161 ∨ (¬ a < 161 ∧ 254 < a) ∨ (¬ a < 161 ∧ ¬ 254 < a ∧ b < 161) ∨ (¬ a < 161 ∧ ¬ 254 < a ∧ ¬ b < 161 ∧ 254 < b) := by omega
  clear h
  rcases hh with e1 | ⟨e1, e2⟩ | ⟨e1, e2, e3⟩ | ⟨e1, e2, e3, e4⟩
  all_goals
    go_enter Tryz.func143, Tryz.ntmps143
    go_wp2
    go_ret2
    exact ⟨rfl, rfl⟩
theorem or_i64_nat (a b : Nat) (ha : a < 256) (hb : b < 256) : bits .or .i64 ((a : Int) * 256) (b : Int) = ((a * 256 + b : Nat) : Int) := by
  have hab : a * 256 ||| b = a * 256 + b := by
    have := Nat.two_pow_add_eq_or_of_lt (i := 8) (b := b) (by omega) a
    rw [show (2 : Nat) ^ 8 = 256 from rfl, Nat.mul_comm] at this
    exact this.symm
  have h1 : (BitVec.ofInt 64 ((a * 256 : Nat) : Int)).toNat = a * 256 := by
    rw [BitVec.ofInt_natCast, BitVec.toNat_ofNat]; exact Nat.mod_eq_of_lt (by omega)
  have h2 : (BitVec.ofInt 64 (b : Int)).toNat = b := by
    rw [BitVec.ofInt_natCast, BitVec.toNat_ofNat]; exact Nat.mod_eq_of_lt (by omega)
  rw [show ((a : Int) * 256) = ((a * 256 : Nat) : Int) by omega]
  show IntKind.i64.wrap ((BitVec.ofInt 64 ((a * 256 : Nat) : Int) ||| BitVec.ofInt 64 (b : Int)).toNat : Int) = _
  rw [BitVec.toNat_or, h1, h2, hab]
  exact IntWalk.i64_in _ (by omega)
set_option maxRecDepth 100000 in
theorem ccode_cell (k : Nat) (w : World) (h : k < 8836) : Calls Tryz.prog 146 #[.int .i64 k] w fun e w' => e = .returned (.int .i64 (((161 + k / 94) * 256 + (161 + k % 94) : Nat) : Int)) ∧ w = w' := by
  have h1 : (k : Int) < 8836 := by omega
  have h2 := or_i64_nat (161 + k / 94) (161 + k % 94) (by omega) (by omega)
  have e1 : (((161 + k / 94 : Nat)) : Int) = 161 + (k : Int) / 94 := by omega
  have e2 : (((161 + k % 94 : Nat)) : Int) = 161 + (k : Int) % 94 := by omega
  rw [e1, e2] at h2
  go_enter Tryz.func146, Tryz.ntmps146
  go_wp2
  go_ret
  exact ⟨by first | rfl | (rw [← h2]; rfl) | go_num, rfl⟩
theorem csecB (t : Nat) (w : World) (h : t ≤ 177) : Calls Tryz.prog 184 #[.int .i64 t] w fun e w' => e = .returned (.int .i64 (secB t : Nat)) ∧ w = w' := by
  unfold secB
  have h0 : (t : Int) ≤ 177 := by omega
  by_cases h1 : t < 26
  · rw [if_pos h1]
    have h3 : (t : Int) < 26 := by omega
    go_enter Tryz.func184, Tryz.ntmps184
    go_wp2
    go_ret
    exact ⟨by go_num, rfl⟩
  · rw [if_neg h1]
    have h3 : ¬ (t : Int) < 26 := by omega
    by_cases h2 : t < 52
    · rw [if_pos h2]
      have h4 : (t : Int) < 52 := by omega
      go_enter Tryz.func184, Tryz.ntmps184
      go_wp2
      go_ret
      exact ⟨by go_num, rfl⟩
    · rw [if_neg h2]
      have h4 : ¬ (t : Int) < 52 := by omega
      go_enter Tryz.func184, Tryz.ntmps184
      go_wp2
      go_ret
      exact ⟨by go_num, rfl⟩
/-- The code of a number beside the rows. -/
def exC (k : Nat) : Nat := if k < 5696 then (129 + k / 178) * 256 + secB (k % 178) else (161 + (k - 5696) / 84) * 256 + secB ((k - 5696) % 84)
set_option maxRecDepth 100000 in
theorem cextra_code (k : Nat) (w : World) (h : k < 8822) : Calls Tryz.prog 147 #[.int .i64 k] w fun e w' => e = .returned (.int .i64 (exC k : Nat)) ∧ w = w' := by
  have h0 : (k : Int) < 8822 := by omega
  unfold exC
  by_cases h1 : k < 5696
  · rw [if_pos h1]
    have hb := secB_bd (k % 178) (by omega)
    have HS := Lib.hid (fun w => csecB (k % 178) w (by omega))
    have e1 : ((k % 178 : Nat) : Int) = (k : Int) % 178 := by omega
    rw [e1] at HS
    generalize secB (k % 178) = s at HS hb
    have h2 := or_i64_nat (129 + k / 178) s (by omega) (by omega)
    have e2 : ((129 + k / 178 : Nat) : Int) = 129 + (k : Int) / 178 := by omega
    rw [e2] at h2
    have h3 : (k : Int) < 5696 := by omega
    have h4 : (s : Int) ≤ 254 := by omega
    have HE : Hid ((((129 + k / 178) * 256 + s : Nat) : Int) = (129 + (k : Int) / 178) * 256 + (s : Int)) := by show _ = _; omega
    generalize (129 + k / 178) * 256 + s = z at h2 HE
    rw [HE.out] at h2
    clear hb e1 e2 h1 h
    go_enter Tryz.func147, Tryz.ntmps147
    go_wp2_with (go_at_call 184; refine (HS.out _).mono ?_; rintro e w1 ⟨rfl, rfl⟩)
    go_ret
    exact ⟨by rw [HE.out]; rfl, rfl⟩
  · rw [if_neg h1]
    obtain ⟨m, rfl⟩ : ∃ m, k = m + 5696 := ⟨k - 5696, by omega⟩
    rw [Nat.add_sub_cancel]
    have hb := secB_bd (m % 84) (by omega)
    have HS := Lib.hid (fun w => csecB (m % 84) w (by omega))
    have e1 : ((m % 84 : Nat) : Int) = (m : Int) % 84 := by omega
    rw [e1] at HS
    generalize secB (m % 84) = s at HS hb
    have h2 := or_i64_nat (161 + m / 84) s (by omega) (by omega)
    have e2 : ((161 + m / 84 : Nat) : Int) = 161 + (m : Int) / 84 := by omega
    rw [e2] at h2
    have h4 : (s : Int) ≤ 254 := by omega
    have h5 : (m : Int) < 3126 := by omega
    have HE : Hid ((((161 + m / 84) * 256 + s : Nat) : Int) = (161 + (m : Int) / 84) * 256 + (s : Int)) := by show _ = _; omega
    generalize (161 + m / 84) * 256 + s = z at h2 HE
    rw [HE.out] at h2
    obtain ⟨X, hX⟩ : ∃ X : Int, X = ((m + 5696 : Nat) : Int) := ⟨_, rfl⟩
    rw [← hX]
    have h6 : X - 5696 = (m : Int) := by omega
    have h7 : ¬ X < 5696 := by omega
    have h8 : X < 8822 := by omega
    clear hb e1 e2 h1 h hX h0
    go_enter Tryz.func147, Tryz.ntmps147
    go_wp2_with (go_at_call 184; refine (HS.out _).mono ?_; rintro e w1 ⟨rfl, rfl⟩)
    go_ret
    exact ⟨by rw [HE.out]; rfl, rfl⟩
theorem kth_ne (b : Bool) (k : Int) : kthZ b k ≠ 0 ↔ 0 ≤ k ∧ k < (rankM b 11172 : Nat) := by
  unfold kthZ
  constructor
  · intro h
    split at h
    · exact absurd rfl h
    · by_cases hk : k.toNat < rankM b 11172
      · omega
      · rw [kthM_none b _ hk] at h
        exact absurd rfl h
  · rintro ⟨h0, h1⟩
    rw [if_neg (by omega)]
    obtain ⟨i, hi⟩ := kthM_some b k.toNat (by omega)
    rw [hi]
    show 44032 + (i : Int) ≠ 0
    omega
theorem dec_true (k : Int) : decide (0 ≤ k ∧ k < 2350) = decide (kthZ true k ≠ 0) := by
  have := kth_ne true k
  rw [rows_many] at this
  by_cases h : 0 ≤ k ∧ k < 2350
  · rw [decide_eq_true h, decide_eq_true (this.2 h)]
  · rw [decide_eq_false h, decide_eq_false (fun q => h (this.1 q))]
theorem dec_false (k : Int) : decide (0 ≤ k ∧ k < 8822) = decide (kthZ false k ≠ 0) := by
  have := kth_ne false k
  rw [others_many] at this
  by_cases h : 0 ≤ k ∧ k < 8822
  · rw [decide_eq_true h, decide_eq_true (this.2 h)]
  · rw [decide_eq_false h, decide_eq_false (fun q => h (this.1 q))]
/-- Two bytes of the rows that aren't a syllable's. -/
def rowAB (a b : Nat) : Prop := 161 ≤ a ∧ a ≤ 254 ∧ 161 ≤ b ∧ b ≤ 254 ∧ ¬ (176 ≤ a ∧ a ≤ 200)
theorem exZ_sign (a b : Nat) (hb : b ≤ 255) (ha : a ≤ 255) (h : 0 ≤ exZ a b) : signW a b = kthZ false (exZ a b) := by
  unfold exZ at h ⊢
  unfold signW
  have hs := secB_Z b
  split at h
  · omega
  · rename_i h1
    rw [if_neg h1]
    obtain ⟨s1, s2, s3, s4, s5, s6⟩ := hs (by omega)
    by_cases h2 : (a : Int) < 161
    · rw [if_pos h2, if_neg (by omega), if_pos (by omega)]
    · rw [if_neg h2] at h ⊢
      by_cases h3 : secZ b < 84
      · rw [if_pos h3] at h ⊢
        have hb2 : b < 161 := by
          by_cases q : b < 161
          · exact q
          · have := s6 (by omega); omega
        by_cases h4 : a ≤ 254
        · rw [if_neg (by omega), if_neg (by omega), if_pos hb2]
        · rw [if_pos (by omega)]
          have := kth_ne false (5696 + ((a : Int) - 161) * 84 + secZ b)
          rw [others_many] at this
          by_cases q : kthZ false (5696 + ((a : Int) - 161) * 84 + secZ b) = 0
          · exact q.symm
          · have := this.1 q
            omega
      · rw [if_neg h3] at h
        omega
theorem exZ_no (a b : Nat) (hb : b ≤ 255) (ha : a ≤ 255) (h : exZ a b < 0) (h2 : ¬ (161 ≤ (a : Int) ∧ (a : Int) ≤ 254 ∧ 161 ≤ (b : Int) ∧ (b : Int) ≤ 254)) : signW a b = 0 := by
  unfold signW
  by_cases h1 : secZ b < 0 ∨ a < 129 ∨ 254 < a
  · rw [if_pos h1]
  · exfalso
    unfold exZ at h
    rw [if_neg (by omega)] at h
    obtain ⟨s1, s2, s3, s4, s5, s6⟩ := secB_Z b (by omega)
    split at h
    · omega
    · split at h
      · omega
      · rename_i q1 q2
        apply h2
        refine ⟨by omega, by omega, ?_, by omega⟩
        by_cases q : b < 161
        · have := s5 q; omega
        · omega
theorem exZ_in (a b : Nat) (hb : b ≤ 255) (ha : a ≤ 255) (h : exZ a b < 0) (h1 : 161 ≤ a) (h2 : a ≤ 254) (h3 : 161 ≤ b) (h4 : b ≤ 254) (h5 : 176 ≤ a ∧ a ≤ 200) : signW a b = kthZ true (((a : Int) - 161) * 94 + (b : Int) - 161 - 1410) := by
  unfold signW
  have hs : secZ b = (b : Int) - 129 + 52 := by unfold secZ; rw [if_neg (by omega), if_neg (by omega), if_pos (by omega)]
  rw [if_neg (by omega), if_neg (by omega), if_neg (by omega), if_pos h5]
  congr 1
  omega
set_option maxRecDepth 100000 in
set_option maxHeartbeats 1000000 in
theorem sign_syl (u v : UInt8) (w : World) (hT : Tab7 w) (h : ¬ rowAB u.toNat v.toNat) : Calls Tryz.prog 109 #[.int .u8 u.toNat, .int .u8 v.toNat] w fun e w' => e = .returned (.tuple #[.int .i32 (signW u.toNat v.toNat), .bool (decide (signW u.toNat v.toNat ≠ 0))]) ∧ Ext w w' := by
  have ha := u.toNat_lt
  have hb := v.toNat_lt
  unfold rowAB at h
  generalize u.toNat = a at ha h ⊢
  generalize v.toNat = b at hb h ⊢
  have HT := Lib.hid hT
  clear hT
  have ha2 : (a : Int) ≤ 255 := by omega
  have hb2 : (b : Int) ≤ 255 := by omega
  by_cases h1 : 0 ≤ exZ a b
  · have HX := Lib.hid (fun w => cextra_yes a b w (by omega) ha2 (by omega) hb2 h1)
    have hbd : exZ a b ≤ 100000 := by
      unfold exZ
      have := secZ_le b
      split
      · omega
      · split
        · omega
        · split <;> omega
    have HE := Lib.hid (fun w hT => extra_at (exZ a b) w hT)
    rw [exZ_sign a b (by omega) (by omega) h1, ← dec_false]
    generalize decide (0 ≤ exZ a b ∧ exZ a b < 8822) = c at HE ⊢
    generalize kthZ false (exZ a b) = r at HE ⊢
    generalize exZ a b = x at HX HE
    clear h1 h hbd
    go_enter Tryz.func109, Tryz.ntmps109
    go_wp2_with (first
      | (go_at_call 141; refine (HX.out _).mono ?_; rintro e w1 ⟨rfl, rfl⟩)
      | (go_at_call 142; refine (HE.out _ HT.out).mono ?_; rintro e w2 ⟨rfl, hb1⟩))
    go_ret2
    exact ⟨rfl, hb1⟩
  · have HX := Lib.hid (fun w => cextra_no a b w (by omega) ha2 (by omega) hb2 (by omega))
    by_cases h2 : 161 ≤ (a : Int) ∧ (a : Int) ≤ 254 ∧ 161 ≤ (b : Int) ∧ (b : Int) ≤ 254
    · obtain ⟨c1, c2, c3, c4⟩ := h2
      have h5 : 176 ≤ a ∧ a ≤ 200 := by omega
      have HC := Lib.hid (fun w => ccell_yes a b w c1 c2 c3 c4)
      rw [exZ_in a b (by omega) (by omega) (by omega) (by omega) (by omega) (by omega) (by omega) h5]
      have h6 : 1410 ≤ ((a : Int) - 161) * 94 + (b : Int) - 161 ∧ ((a : Int) - 161) * 94 + (b : Int) - 161 < 3760 := by omega
      generalize ((a : Int) - 161) * 94 + (b : Int) - 161 = x at HC h6 ⊢
      have HP := Lib.hid (fun w hT => place_at (x - 1410) w hT)
      rw [← dec_true]
      rw [decide_eq_true (show 0 ≤ x - 1410 ∧ x - 1410 < 2350 by omega)] at HP ⊢
      generalize kthZ true (x - 1410) = r at HP ⊢
      obtain ⟨h7, h8⟩ := h6
      clear h1 h h5
      go_enter Tryz.func109, Tryz.ntmps109
      go_wp2_with (first
        | (go_at_call 141; refine (HX.out _).mono ?_; rintro e w1 ⟨rfl, rfl⟩)
        | (go_at_call 143; refine (HC.out _).mono ?_; rintro e w1 ⟨rfl, rfl⟩)
        | (go_at_call 144; refine (HP.out _ HT.out).mono ?_; rintro e w2 ⟨rfl, hb1⟩))
      go_ret2
      exact ⟨rfl, hb1⟩
    · have HC := Lib.hid (fun w => ccell_no a b w (by omega) ha2 (by omega) hb2 h2)
      rw [exZ_no a b (by omega) (by omega) (by omega) h2]
      clear h1 h h2
      go_enter Tryz.func109, Tryz.ntmps109
      go_wp2_with (first
        | (go_at_call 141; refine (HX.out _).mono ?_; rintro e w1 ⟨rfl, rfl⟩)
        | (go_at_call 143; refine (HC.out _).mono ?_; rintro e w1 ⟨rfl, rfl⟩))
      go_ret2
      exact ⟨rfl, Ext.refl _⟩
theorem codeN_of (n : Nat) : codeN n = if inM n then (161 + (1410 + rankM true n) / 94) * 256 + (161 + (1410 + rankM true n) % 94) else exC (rankM false n) := by
  unfold codeN exC
  cases inM n with
  | true =>
    rw [if_pos rfl, if_pos rfl]
    omega
  | false => simp
set_option maxRecDepth 100000 in
set_option maxHeartbeats 1000000 in
theorem bytes_syl (n : Nat) (P : Int) (w : World) (hT : Tab7 w) (h : n < 11172) (hP : P - 44032 = (n : Int)) : Calls Tryz.prog 110 #[.int .i32 P] w fun e w' => e = .returned (.tuple #[.string (twoB (codeN n)), .bool true]) ∧ Ext w w' := by
  have HR := Lib.hid (fun w hT => rankof_yes P n w hT h hP)
  have HT := Lib.hid hT
  obtain ⟨_, c1, c2⟩ := codeN_sign n h
  have HB := Lib.hid (fun w => big_two (codeN n) w c2)
  have hc := codeN_of n
  clear hT
  cases hb : inM n with
  | true =>
    rw [hb] at HR hc
    rw [if_pos rfl] at hc
    have hr := rank_rows n h hb
    have HC := Lib.hid (fun w => ccode_cell (1410 + rankM true n) w (by omega))
    rw [← hc] at HC
    generalize codeN n = c at HC HB c1 c2 ⊢
    generalize rankM true n = k at HC HR hr
    rw [show ((1410 + k : Nat) : Int) = 1410 + (k : Int) by omega] at HC
    have h2 : (k : Int) < 2350 := by omega
    have h3 : (c : Int) < 65536 := by omega
    clear hc hb h hP
    go_enter Tryz.func110, Tryz.ntmps110
    go_wp2_with (first
      | (go_at_call 126; refine (HR.out _ HT.out).mono ?_; rintro e w1 ⟨rfl, hb1⟩)
      | (go_at_call 146; refine (HC.out _).mono ?_; rintro e w2 ⟨rfl, rfl⟩)
      | (go_at_call 139; refine (HB.out _).mono ?_; rintro e w3 ⟨rfl, hb2⟩))
    go_ret2
    exact ⟨rfl, hb1.trans hb2⟩
  | false =>
    rw [hb] at HR hc
    rw [if_neg (by simp)] at hc
    have hr := rank_others n h hb
    have HC := Lib.hid (fun w => cextra_code (rankM false n) w hr)
    rw [← hc] at HC
    generalize codeN n = c at HC HB c1 c2 ⊢
    generalize rankM false n = k at HC HR hr
    have h2 : (k : Int) < 8822 := by omega
    have h3 : (c : Int) < 65536 := by omega
    clear hc hb h hP
    go_enter Tryz.func110, Tryz.ntmps110
    go_wp2_with (first
      | (go_at_call 126; refine (HR.out _ HT.out).mono ?_; rintro e w1 ⟨rfl, hb1⟩)
      | (go_at_call 147; refine (HC.out _).mono ?_; rintro e w2 ⟨rfl, rfl⟩)
      | (go_at_call 139; refine (HB.out _).mono ?_; rintro e w3 ⟨rfl, hb2⟩))
    go_ret2
    exact ⟨rfl, hb1.trans hb2⟩
end Go.Proofs.YtndopjmdpmkgeaaGreatDoor

namespace Go.Proofs.YtndopjmdpmkgeaaGreatDoor
open Go Go.ChangeShapes Go.WideShapes Go.ChangeAt Go.RowKit
set_option linter.unusedSimpArgs false
set_option linter.unusedVariables false

theorem cseq (f t n : Int) (w : World) : Calls Tryz.prog 71 #[.int .i64 f, .int .i32 t, .int .i64 n] w fun e w' => e = .returned (.agg #[.int .i64 f, .int .i32 t, .int .i64 n, .string ⟨#[]⟩]) ∧ Ext w w' := by
  go_enter Tryz.func71, Tryz.ntmps71
  go_wp2
  refine bodyPost_ret (v := .agg #[.int .i64 f, .int .i32 t, .int .i64 n, .string ⟨#[]⟩]) (by simp [results, Tryz.results71, go_sem]) rfl ?_
  exact ⟨rfl, (by repeat (first | exact Ext.refl _ | refine Ext.alloc ?_ _ | refine Ext.setCell ?_ (Nat.le_refl _) _))⟩
theorem clist (f : Int) (x : ByteArray) (w : World) : Calls Tryz.prog 121 #[.int .i64 f, .string x] w fun e w' => e = .returned (.agg #[.int .i64 f, .int .i32 0, .int .i64 0, .string x]) ∧ Ext w w' := by
  go_enter Tryz.func121, Tryz.ntmps121
  go_wp2
  refine bodyPost_ret (v := .agg #[.int .i64 f, .int .i32 0, .int .i64 0, .string x]) (by simp [results, Tryz.results121, go_sem]) rfl ?_
  exact ⟨rfl, (by repeat (first | exact Ext.refl _ | refine Ext.alloc ?_ _ | refine Ext.setCell ?_ (Nat.le_refl _) _))⟩
/-- The spans: the first code, the first sign, how many. -/
def spL : List (Nat × Nat × Nat) := [(41889, 65281, 59), (41948, 65510, 1), (41949, 65341, 33), (41982, 65507, 1), (42145, 12593, 94), (42401, 8560, 10), (42416, 8544, 10), (42433, 913, 17), (42450, 931, 7), (42465, 945, 17), (42482, 963, 7), (43681, 12353, 83), (43937, 12449, 86), (44193, 1040, 6), (44199, 1025, 1), (44200, 1046, 26), (44241, 1072, 6), (44247, 1105, 1), (44248, 1078, 26)]
def spF (i : Nat) : Nat := (spL.getD i (0, 0, 0)).1
def spT (i : Nat) : Nat := (spL.getD i (0, 0, 0)).2.1
def spN (i : Nat) : Nat := (spL.getD i (0, 0, 0)).2.2
def spC : Array Value := (spL.flatMap fun p => [Value.int .i64 (p.1 : Int), .int .i32 (p.2.1 : Int), .int .i64 (p.2.2 : Int), .string ⟨#[]⟩]).toArray
theorem put_spans (w : World) (g : Nat) (Z : Array Value) (hz : Z.size = 76) (hg : w.heap[g]? = some (.cells Z 200 (0, 0))) (L : List Value) (hL : L = spC.toList) :
    (storeCells ⟨g, 0, none⟩ L 0).run Tryz.prog w = .ok () (w.setRow g spC) := by
  subst hL
  have hs : spC.size = 76 := by kernel_rfl
  have h1 : spC.all (·.oneCell') = true := by kernel_rfl
  have := run_storeCells_from (P := Tryz.prog) g 200 spC.toList 0 Z w hg (by simp; omega) (fun v hv => (Array.all_eq_true_iff_forall_mem.1 h1) v (by simpa using hv))
  simpa using this
set_option maxRecDepth 100000 in
set_option maxHeartbeats 4000000 in
theorem cspans (w : World) : Calls Tryz.prog 181 #[] w fun e w' => e = .returned (.agg spC) ∧ Ext w w' := by
  have HS := Lib.hid (fun (f t n : Int) w => cseq f t n w)
  go_enter Tryz.func181, Tryz.ntmps181
  go_wp2_with (go_at_call 71; refine (HS.out _ _ _ _).mono ?_; first
    | (rintro e w1 ⟨rfl, hb1⟩; have hC' := hC.trans hb1; clear hC hb1; have hC := hC'; clear hC')
    | rintro e w1 ⟨rfl, hC⟩)
  have hX := ((Ext.refl w).alloc _).trans hC
  have hg := (hC.block w.heap.size (by simp)).trans (heap_alloc_new w _)
  rw [put_spans _ w.heap.size _ (by simp) hg _ (by kernel_rfl)]
  have hg2 := setRow_heap w1 w.heap.size _ spC _ _ hg
  have hX2 : Ext w (w1.setRow w.heap.size spC) := ⟨hX.os, hX.tape, hX.output, by rw [size_setRow]; exact hX.size, fun k hk => (setRow_other w1 w.heap.size k spC (by omega)).trans (hX.block k hk)⟩
  simp only [Result.andThen]
  rw [Oper.upon_skip]
  clear hC hX hg HS
  generalize w1.setRow w.heap.size spC = w2 at hg2 hX2 ⊢
  go_wp2
  refine bodyPost_ret (v := .agg spC) ?_ rfl ⟨rfl, hX2⟩
  exact results_cell_row rfl _ _ _ _ _ _ _ rfl hg2 Tryz.underlying200 rfl (by kernel_rfl)
end Go.Proofs.YtndopjmdpmkgeaaGreatDoor

namespace Go.Proofs.YtndopjmdpmkgeaaGreatDoor
open Go Go.ChangeShapes Go.WideShapes Go.ChangeAt Go.RowKit
set_option linter.unusedSimpArgs false
set_option linter.unusedVariables false

theorem not_row (a b : Nat) (h : ¬ (161 ≤ a ∧ a ≤ 254 ∧ 161 ≤ b ∧ b ≤ 254 ∧ ¬ (176 ≤ a ∧ a ≤ 200))) : ¬ rowAB a b := h
set_option maxRecDepth 100000 in
theorem ex_sign7 (w : World) (hT : Tab7 w) : Calls Tryz.prog 109 #[.int .u8 176, .int .u8 162] w fun e w' => e = .returned (.tuple #[.int .i32 44033, .bool true]) ∧ Ext w w' := by
  have h := sign_syl 176 162 w hT (not_row _ _ (by decide))
  have e1 : signW (176 : UInt8).toNat (162 : UInt8).toNat = 44033 := by decide +kernel
  rw [e1] at h
  exact h
set_option maxRecDepth 100000 in
theorem ex_bytes7 (w : World) (hT : Tab7 w) : Calls Tryz.prog 110 #[.int .i32 55203] w fun e w' => e = .returned (.tuple #[.string ⟨#[198, 82]⟩, .bool true]) ∧ Ext w w' := by
  have h := bytes_syl 11171 55203 w hT (by decide) (by decide)
  have e1 : codeN 11171 = 50770 := by decide +kernel
  rw [e1] at h
  exact h
theorem awake7_any (w : World) (hT : Tab7 w) : Calls Tryz.prog 63 #[] w fun e w' => e = .returned (.bool true) ∧ Ext w w' := by
  have HT := Lib.hid hT
  go_enter Tryz.func63, Tryz.ntmps63
  go_wp2_with (first
    | (go_at_call 109; refine (ex_sign7 _ HT.out).mono ?_; rintro e w1 ⟨rfl, hb1⟩)
    | (go_at_call 110; refine (ex_bytes7 _ (HT.out.ext hb1)).mono ?_; rintro e w2 ⟨rfl, hb2⟩))
  go_ret
  exact ⟨rfl, hb1.trans hb2⟩
end Go.Proofs.YtndopjmdpmkgeaaGreatDoor

