/-
  What the proof of this claim leans on (S7).
-/
import Derived.Test.YtndopjmdpmkgeaaGreatDoorS0
import Derived.Test.YtndopjmdpmkgeaaGreatDoorS1
import Derived.IntWalk
namespace Go.Proofs.YtndopjmdpmkgeaaGreatDoor
open Go Go.ChangeShapes Go.WideShapes Go.ChangeAt Go.RowKit
set_option linter.unusedSimpArgs false
set_option linter.unusedVariables false

/-- A digit of the members; its byte; all of them. -/
def digM (j : Nat) : Nat := memM / 16 ^ (j / 7 * 7 + 6 - j % 7) % 16
def digB (d : Nat) : UInt8 := if d < 10 then (48 + d).toUInt8 else (87 + d).toUInt8
def memT (n : Nat) : ByteArray := ⟨⟨(List.range n).map fun j => digB (digM j)⟩⟩
def digU (u : UInt8) : Int := if 97 ≤ (u.toNat : Int) then (u.toNat : Int) - 97 + 10 else (u.toNat : Int) - 48
theorem digU_B : ∀ d : Fin 16, digU (digB d.val) = (d.val : Int) := by decide +kernel
theorem memT_at (n j : Nat) (h : j < (memT n).size) : digU ((memT n)[j]'h) = (digM j : Int) := by
  have e : (memT n)[j]'h = digB (digM j) := by
    simp only [memT, ByteArray.getElem_eq_getElem_data, List.getElem_toArray, List.getElem_map, List.getElem_range]
  rw [e]
  exact digU_B ⟨digM j, Nat.mod_lt _ (by decide)⟩
theorem rdigit (u : UInt8) (w : World) : Calls Tryz.prog 84 #[.int .u8 u.toNat] w fun e w' => e = .returned (.int .i64 (digU u)) ∧ w = w' := by
  have h1 : (u.toNat : Int) < 256 := by have := u.toNat_lt; omega
  unfold digU
  by_cases h : 97 ≤ (u.toNat : Int)
  · rw [if_pos h]
    go_enter Tryz.func84, Tryz.ntmps84
    go_wp2
    go_ret
    exact ⟨rfl, rfl⟩
  · rw [if_neg h]
    go_enter Tryz.func84, Tryz.ntmps84
    go_wp2
    go_ret
    exact ⟨rfl, rfl⟩
theorem rdigit_in (n : Nat) (x : ByteArray) (hx : x = memT n) (i : Nat) (h : i < x.size) (w : World) : Calls Tryz.prog 84 #[.int .u8 (x[i]'h).toNat] w fun e w' => e = .returned (.int .i64 (digM i)) ∧ w = w' := by
  subst hx
  have h2 := rdigit ((memT n)[i]'h) w
  rw [memT_at n i h] at h2
  exact h2
set_option maxRecDepth 100000 in
theorem inM_dig (n : Nat) (h : n < 11172) : inM n = (digM (n / 28 * 7 + 6 - n % 28 / 4) / 2 ^ (n % 4) % 2 == 1) := by
  unfold inM digM
  have e1 : (n / 28 * 7 + 6 - n % 28 / 4) / 7 * 7 + 6 - (n / 28 * 7 + 6 - n % 28 / 4) % 7 = n / 4 := by omega
  rw [e1]
  have e2 : 2 ^ n = 16 ^ (n / 4) * 2 ^ (n % 4) := by
    rw [show (16 : Nat) = 2 ^ 4 from rfl, ← Nat.pow_mul, ← Nat.pow_add]
    congr 1
    omega
  rw [e2, ← Nat.div_div_eq_div_mul]
  generalize memM / 16 ^ (n / 4) = q
  have hk : n % 4 < 4 := Nat.mod_lt _ (by decide)
  have e3 : q / 2 ^ (n % 4) % 2 = q % 16 / 2 ^ (n % 4) % 2 := by
    have : n % 4 = 0 ∨ n % 4 = 1 ∨ n % 4 = 2 ∨ n % 4 = 3 := by omega
    rcases this with h | h | h | h <;> rw [h] <;> omega
  rw [e3]
set_option maxRecDepth 100000 in
set_option maxHeartbeats 4000000 in
theorem rin (n : Nat) (w : World) (h : n < 11172) : Calls Tryz.prog 47 #[.int .i64 n] w fun e w' => e = .returned (.bool (inM n)) ∧ w = w' := by
  have HD := Lib.hid (fun (n : Nat) (x : ByteArray) (hx : x = memT n) (i : Nat) (h : i < x.size) w => rdigit_in n x hx i h w)
  have HI := Lib.hid (inM_dig n h)
  have hnn : (n : Int) < 11172 := by omega
  have hD : digM (n / 28 * 7 + 6 - n % 28 / 4) < 16 := Nat.mod_lt _ (by decide)
  go_enter Tryz.func47, Tryz.ntmps47
  go_wp2_with fail
  refine (HD.out 2793 _ ?hh _ _ _).mono ?_
  case hh => kernel_rfl
  rintro e w1 ⟨rfl, rfl⟩
  generalize digM (n / 28 * 7 + 6 - n % 28 / 4) = D at HI hD
  clear HD
  go_wp2
  go_loop [4, 5] (fun d i => ∃ k : Nat, k ≤ n % 4 ∧ i = .int .i64 k ∧ d = .int .i64 ((D / 2 ^ k : Nat) : Int)) (fun _ i => n % 4 - (intOf i).toNat)
  case atStart => exact ⟨0, by omega, rfl, by rw [Nat.pow_zero, Nat.div_one]⟩
  case round =>
    obtain ⟨k, hk, rfl, rfl⟩ := hrel
    have hq : D / 2 ^ k < 16 := Nat.lt_of_le_of_lt (Nat.div_le_self _ _) hD
    have HQ : Hid (D / 2 ^ k / 2 = D / 2 ^ (k + 1)) := by
      show _ = _
      rw [Nat.pow_succ, Nat.div_div_eq_div_mul]
    by_cases hlt : k < n % 4
    · generalize D / 2 ^ k = q at HQ hq
      have h5 : (k : Int) < (n : Int) % 28 % 4 := by omega
      have hk4 : (k : Int) < 4 := by omega
      go_wp2
      go_round
      case rel => exact ⟨k + 1, by omega, by go_num, by rw [← HQ.out]; go_num⟩
      case measure => simp [intOf]; omega
    · have hkk : k = n % 4 := by omega
      subst hkk
      have HE := Lib.hid HI.out
      generalize D / 2 ^ (n % 4) = q at HE hq
      have h5 : ¬ ((n % 4 : Nat) : Int) < (n : Int) % 28 % 4 := by omega
      have hr : q % 2 = 0 ∨ q % 2 = 1 := by omega
      have h6 : ((q : Int) % 2 == 1) = inM n := by
        rw [HE.out]
        rcases hr with hr | hr
        · rw [hr, beq_false_of_ne (show (q : Int) % 2 ≠ 1 by omega)]; rfl
        · rw [hr, show (q : Int) % 2 = 1 by omega]; rfl
      have H6 := Lib.hid h6
      clear h6 hr HE HI
      go_wp2
      go_ret
      exact ⟨by rw [← H6.out]; rfl, rfl⟩
end Go.Proofs.YtndopjmdpmkgeaaGreatDoor

namespace Go.Proofs.YtndopjmdpmkgeaaGreatDoor
open Go Go.ChangeShapes Go.WideShapes Go.ChangeAt Go.RowKit
set_option linter.unusedSimpArgs false
set_option linter.unusedVariables false

theorem kthZ_some {b : Bool} {k i : Nat} (h : kthM b k = some i) : kthZ b k = 44032 + (i : Int) := by
  unfold kthZ
  rw [if_neg (by omega), Int.toNat_natCast, h]
theorem kthZ_none {b : Bool} {k : Nat} (h : kthM b k = none) : kthZ b k = 0 := by
  unfold kthZ
  rw [if_neg (by omega), Int.toNat_natCast, h]
theorem kthZ_neg {b : Bool} {k : Int} (h : k < 0) : kthZ b k = 0 := if_pos h
set_option maxRecDepth 100000 in
set_option maxHeartbeats 1000000 in
theorem rkth_nat (k : Nat) (b : Bool) (w : World) (hk : k ≤ 1000000) : Calls Tryz.prog 99 #[.int .i64 k, .bool b] w fun e w' => e = .returned (.int .i32 (kthZ b k)) ∧ w = w' := by
  have HIN := Lib.hid (fun (n : Nat) (h : n < 11172) w => rin n w h)
  obtain ⟨r, hr⟩ : ∃ r, kthZ b k = r := ⟨_, rfl⟩
  rw [hr]
  have HR := Lib.hid hr
  have hk1 : (k : Int) ≤ 1000000 := by omega
  clear hr
  go_enter Tryz.func99, Tryz.ntmps99
  go_wp2
  go_loop [0, 5] (fun a i => ∃ m n : Nat, n ≤ 11172 ∧ m ≤ 1000000 ∧ a = .int .i64 m ∧ i = .int .i64 n ∧ Hid (rankM b n + m = k)) (fun _ i => 11172 - (intOf i).toNat)
  case atStart => exact ⟨k, 0, by omega, hk, rfl, rfl, by show rankM b 0 + k = k; rw [show rankM b 0 = 0 from rfl, Nat.zero_add]⟩
  case round =>
    obtain ⟨m, n, hn, hm, rfl, rfl, HM⟩ := hrel
    by_cases hlt : n < 11172
    · have h8 : (n : Int) < 11172 := by omega
      have HB := Lib.hid (fun w => HIN.out n hlt w)
      have HSU := Lib.hid (rankM_succ b n)
      have HI : Hid (m = 0 → inM n = b → r = 44032 + (n : Int)) := fun h0 hb => by
        rw [← HR.out]
        exact kthZ_some ((kthM_iff b k n).2 ⟨hlt, hb, by have := HM.out; omega⟩)
      by_cases hb : inM n = b
      · rw [hb] at HB HSU
        have hbb : (b == b) = true := by simp
        by_cases h0 : m = 0
        · have HF := Lib.hid (HI.out h0 hb)
          subst h0
          clear hb HI
          go_wp2_with (go_at_call 47; refine (HB.out _).mono ?_; rintro e w1 ⟨rfl, rfl⟩)
          go_ret
          exact ⟨by rw [HF.out]; rfl, rfl⟩
        · have h1 : ((m : Int) == 0) = false := beq_false_of_ne (by omega)
          obtain ⟨q, rfl⟩ : ∃ q, m = q + 1 := ⟨m - 1, by omega⟩
          clear hb HI h0
          go_wp2_with (go_at_call 47; refine (HB.out _).mono ?_; rintro e w1 ⟨rfl, rfl⟩)
          go_round
          case rel => exact ⟨q, n + 1, by omega, by omega, by go_num, by go_num, by show _ = _; rw [HSU.out, if_pos (by simp)]; have := HM.out; omega⟩
          case measure => simp [intOf]; omega
      · have hbb : (inM n == b) = false := by simpa using hb
        rw [hbb] at HSU
        generalize inM n = c at HB hbb
        clear hb HI
        go_wp2_with (go_at_call 47; refine (HB.out _).mono ?_; rintro e w1 ⟨rfl, rfl⟩)
        go_round
        case rel => exact ⟨m, n + 1, by omega, by omega, rfl, by go_num, by show _ = _; rw [HSU.out]; have := HM.out; simpa using this⟩
        case measure => simp [intOf]; omega
    · have hn2 : n = 11172 := by omega
      subst hn2
      have HF : Hid (r = 0) := by
        show _ = _
        rw [← HR.out]
        exact kthZ_none (kthM_none b k (by have := HM.out; omega))
      go_wp2
      go_ret
      exact ⟨by rw [HF.out]; rfl, rfl⟩
theorem rsecond (b : Int) (w : World) (h0 : -1000 ≤ b) (h1 : b ≤ 1000) : Calls Tryz.prog 98 #[.int .i64 b] w fun e w' => e = .returned (.int .i64 (secZ b)) ∧ w = w' := by
  unfold secZ
  by_cases a : 65 ≤ b ∧ b ≤ 90
  · rw [if_pos a]
    obtain ⟨a1, a2⟩ := a
    go_enter Tryz.func98, Tryz.ntmps98
    go_wp2
    go_ret
    exact ⟨rfl, rfl⟩
  rw [if_neg a]
  by_cases c : 97 ≤ b ∧ b ≤ 122
  · rw [if_pos c]
    obtain ⟨c1, c2⟩ := c
    have a1 : 65 ≤ b := by omega
    have a2 : ¬ b ≤ 90 := by omega
    clear a
    go_enter Tryz.func98, Tryz.ntmps98
    go_wp2
    go_ret
    exact ⟨rfl, rfl⟩
  rw [if_neg c]
  by_cases d : 129 ≤ b ∧ b ≤ 254
  · rw [if_pos d]
    obtain ⟨d1, d2⟩ := d
    have a1 : 65 ≤ b := by omega
    have a2 : ¬ b ≤ 90 := by omega
    have c1 : 97 ≤ b := by omega
    have c2 : ¬ b ≤ 122 := by omega
    clear a c
    go_enter Tryz.func98, Tryz.ntmps98
    go_wp2
    go_ret
    exact ⟨rfl, rfl⟩
  rw [if_neg d]
  have hh : b < 65 ∨ (65 ≤ b ∧ ¬ b ≤ 90 ∧ b < 97) ∨ (65 ≤ b ∧ ¬ b ≤ 90 ∧ 97 ≤ b ∧ ¬ b ≤ 122 ∧ b < 129) ∨ (65 ≤ b ∧ ¬ b ≤ 90 ∧ 97 ≤ b ∧ ¬ b ≤ 122 ∧ 129 ≤ b ∧ ¬ b ≤ 254) := by omega
  clear a c d
  rcases hh with e1 | ⟨e1, e2, e3⟩ | ⟨e1, e2, e3, e4, e5⟩ | ⟨e1, e2, e3, e4, e5, e6⟩
  · have e2 : ¬ 65 ≤ b := by omega
    have e3 : ¬ 97 ≤ b := by omega
    have e4 : ¬ 129 ≤ b := by omega
    go_enter Tryz.func98, Tryz.ntmps98
    go_wp2
    go_ret
    exact ⟨rfl, rfl⟩
  · have e4 : ¬ 97 ≤ b := by omega
    have e5 : ¬ 129 ≤ b := by omega
    go_enter Tryz.func98, Tryz.ntmps98
    go_wp2
    go_ret
    exact ⟨rfl, rfl⟩
  · have e6 : ¬ 129 ≤ b := by omega
    go_enter Tryz.func98, Tryz.ntmps98
    go_wp2
    go_ret
    exact ⟨rfl, rfl⟩
  · go_enter Tryz.func98, Tryz.ntmps98
    go_wp2
    go_ret
    exact ⟨rfl, rfl⟩
end Go.Proofs.YtndopjmdpmkgeaaGreatDoor

