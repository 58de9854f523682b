/-
  What the proof of this claim leans on (S27).
-/
import Derived.Test.YtdomjahijchanaaGreatDoorS0
import Derived.Lib.TrailingZeros
namespace Go.Proofs.YtdomjahijchanaaGreatDoor
open Go Go.RowKit
set_option linter.unusedSimpArgs false
set_option linter.unusedVariables false

/-- A word of 28 bits; those that are in the rows, or that aren't. -/
def wordM (n : Nat) : Nat := memM / 2 ^ (28 * n) % 268435456
def selW (b : Bool) (n : Nat) : Nat := if b then wordM n else 268435455 - wordM n
theorem wordM_lt (n : Nat) : wordM n < 268435456 := Nat.mod_lt _ (by decide)
theorem selW_lt (b : Bool) (n : Nat) : selW b n < 268435456 := by
  have := wordM_lt n
  unfold selW
  split <;> omega
/-- How many of the lowest bits are set. -/
def pcl (x : Nat) : Nat → Nat
  | 0 => 0
  | j + 1 => pcl x j + x / 2 ^ j % 2
theorem pcl_le (x : Nat) : ∀ j, pcl x j ≤ j
  | 0 => Nat.le_refl _
  | j + 1 => by
    have := pcl_le x j
    unfold pcl
    omega
theorem pcl_mono (x : Nat) {i : Nat} : ∀ {j : Nat}, i ≤ j → pcl x i ≤ pcl x j
  | 0, h => by
    obtain rfl : i = 0 := by omega
    exact Nat.le_refl _
  | j + 1, h => by
    by_cases e : i = j + 1
    · subst e; exact Nat.le_refl _
    · have := pcl_mono x (i := i) (j := j) (by omega)
      rw [pcl]
      omega
theorem wordM_bit (n j : Nat) (hj : j < 28) : wordM n / 2 ^ j % 2 = memM / 2 ^ (28 * n + j) % 2 := by
  unfold wordM
  rw [Nat.pow_add, ← Nat.div_div_eq_div_mul]
  generalize memM / 2 ^ (28 * n) = q
  rw [show (268435456 : Nat) = 2 ^ j * 2 ^ (28 - j) by rw [← Nat.pow_add, show j + (28 - j) = 28 by omega], Nat.mod_mul_right_div_self]
  obtain ⟨d, hd⟩ : ∃ d, 28 - j = d + 1 := ⟨28 - j - 1, by omega⟩
  rw [hd, Nat.pow_succ, Nat.mod_mul_left_mod]
theorem bit_test (x j : Nat) : x / 2 ^ j % 2 = if x.testBit j then 1 else 0 := by
  rw [Nat.testBit_eq_decide_div_mod_eq]
  by_cases h : x / 2 ^ j % 2 = 1
  · simp [h]
  · simp [h]; omega
theorem selW_bit (b : Bool) (n j : Nat) (hj : j < 28) : selW b n / 2 ^ j % 2 = if inM (28 * n + j) == b then 1 else 0 := by
  have h1 := wordM_bit n j hj
  have h3 : inM (28 * n + j) = (wordM n / 2 ^ j % 2 == 1) := by unfold inM; rw [h1]
  rw [h3]
  have hlt := wordM_lt n
  cases b with
  | true =>
    rw [show selW true n = wordM n from rfl]
    rcases (show wordM n / 2 ^ j % 2 = 0 ∨ wordM n / 2 ^ j % 2 = 1 by omega) with h | h <;> rw [h] <;> rfl
  | false =>
    rw [show selW false n = 268435455 - wordM n from rfl]
    have h2 : (268435455 - wordM n) / 2 ^ j % 2 = 1 - wordM n / 2 ^ j % 2 := by
      rw [bit_test, bit_test, show 268435455 - wordM n = 2 ^ 28 - (wordM n + 1) by omega, Nat.testBit_two_pow_sub_succ (by omega)]
      cases (wordM n).testBit j <;> simp [hj]
    rw [h2]
    rcases (show wordM n / 2 ^ j % 2 = 0 ∨ wordM n / 2 ^ j % 2 = 1 by omega) with h | h <;> rw [h] <;> rfl
/-- A rank, by the word that the place lies in. -/
theorem rank_word (b : Bool) (n : Nat) : ∀ (j : Nat), j ≤ 28 → rankM b (28 * n + j) = rankM b (28 * n) + pcl (selW b n) j
  | 0, _ => rfl
  | j + 1, h => by
    rw [← Nat.add_assoc, rankM_succ, rank_word b n j (by omega), pcl, selW_bit b n j (by omega)]
    omega
theorem rank_next (b : Bool) (n : Nat) : rankM b (28 * (n + 1)) = rankM b (28 * n) + pcl (selW b n) 28 := rank_word b n 28 (Nat.le_refl _)

def mk0 : Nat → Nat
  | 0 => 0
  | n + 1 => 85 + 256 * mk0 n
def mk1 : Nat → Nat
  | 0 => 0
  | n + 1 => 51 + 256 * mk1 n
def mk2 : Nat → Nat
  | 0 => 0
  | n + 1 => 15 + 256 * mk2 n
theorem land_byte (x m M : Nat) (hm : m < 256) : x &&& (m + 256 * M) = (x % 256 &&& m) + 256 * (x / 256 &&& M) := by
  have h1 : (x &&& (m + 256 * M)) % 256 = x % 256 &&& m := by
    have := Nat.and_mod_two_pow (a := x) (b := m + 256 * M) (n := 8)
    rw [show (2 : Nat) ^ 8 = 256 from rfl] at this
    rw [this, show (m + 256 * M) % 256 = m by omega]
  have h2 : (x &&& (m + 256 * M)) / 256 = x / 256 &&& M := by
    have := Nat.and_div_two_pow (a := x) (b := m + 256 * M) (n := 8)
    rw [show (2 : Nat) ^ 8 = 256 from rfl] at this
    rw [this, show (m + 256 * M) / 256 = M by omega]
  have := Nat.mod_add_div (x &&& (m + 256 * M)) 256
  rw [h1, h2] at this
  exact this.symm
def st0 (n x : Nat) : Nat := (x / 2 &&& mk0 n) + (x &&& mk0 n)
def st1 (n x : Nat) : Nat := (x / 4 &&& mk1 n) + (x &&& mk1 n)
def st2 (n x : Nat) : Nat := (x / 16 + x) &&& mk2 n
def by0 (v : Nat) : Nat := (v / 2 &&& 85) + (v &&& 85)
def by1 (v : Nat) : Nat := (v / 4 &&& 51) + (v &&& 51)
theorem by0_any : ∀ v : Fin 512, (v.val / 2 &&& 85) + (v.val % 256 &&& 85) = by0 (v.val % 256) := by decide +kernel
theorem by1_any : ∀ v : Fin 1024, (v.val / 4 &&& 51) + (v.val % 256 &&& 51) = by1 (v.val % 256) := by decide +kernel
theorem by_all : ∀ v : Fin 256, by0 v.val < 256 ∧ by1 (by0 v.val) % 16 + by1 (by0 v.val) / 16 = pcl v.val 8 ∧ by1 (by0 v.val) % 16 ≤ 4 ∧ by1 (by0 v.val) / 16 ≤ 4 ∧ by1 (by0 v.val) < 256 := by decide +kernel
theorem st0_succ (n x : Nat) : st0 (n + 1) x = by0 (x % 256) + 256 * st0 n (x / 256) := by
  unfold st0
  rw [mk0, land_byte _ _ _ (by decide), land_byte _ _ _ (by decide)]
  have h := by0_any ⟨x % 512, Nat.mod_lt _ (by decide)⟩
  simp only at h
  rw [show x % 512 % 256 = x % 256 by omega, show x % 512 / 2 = x / 2 % 256 by omega] at h
  rw [show x / 2 / 256 = x / 256 / 2 by omega]
  omega
theorem st1_succ (n x : Nat) : st1 (n + 1) x = by1 (x % 256) + 256 * st1 n (x / 256) := by
  unfold st1
  rw [mk1, land_byte _ _ _ (by decide), land_byte _ _ _ (by decide)]
  have h := by1_any ⟨x % 1024, Nat.mod_lt _ (by decide)⟩
  simp only at h
  rw [show x % 1024 % 256 = x % 256 by omega, show x % 1024 / 4 = x / 4 % 256 by omega] at h
  rw [show x / 4 / 256 = x / 256 / 4 by omega]
  omega
/-- The counts of the bytes, a byte each. -/
def byP : Nat → Nat → Nat
  | 0, _ => 0
  | n + 1, x => pcl (x % 256) 8 + 256 * byP n (x / 256)
theorem st_all : ∀ (n x : Nat), st2 n (st1 n (st0 n x)) = byP n x ∧ st1 n (st0 n x) % 16 ≤ 4
  | 0, x => by simp [st0, st1, st2, mk0, mk1, mk2, byP]
  | n + 1, x => by
    obtain ⟨h1, h2, h3, h4, h5⟩ := by_all ⟨x % 256, Nat.mod_lt _ (by decide)⟩
    simp only at h1 h2 h3 h4 h5
    obtain ⟨i1, i2⟩ := st_all n (x / 256)
    have e0 := st0_succ n x
    have e1 := st1_succ n (st0 (n + 1) x)
    rw [e0] at e1
    rw [show (by0 (x % 256) + 256 * st0 n (x / 256)) % 256 = by0 (x % 256) by omega, show (by0 (x % 256) + 256 * st0 n (x / 256)) / 256 = st0 n (x / 256) by omega, ← e0] at e1
    have e2 : st2 (n + 1) (st1 (n + 1) (st0 (n + 1) x)) = pcl (x % 256) 8 + 256 * byP n (x / 256) := by
      rw [e1, ← i1]
      unfold st2
      generalize st1 n (st0 n (x / 256)) = z at i2 ⊢
      generalize by1 (by0 (x % 256)) = y at h2 h3 h4 h5 ⊢
      rw [mk2, land_byte _ _ _ (by decide)]
      have a1 : ((y + 256 * z) / 16 + (y + 256 * z)) / 256 = z / 16 + z := by omega
      have a2 : ((y + 256 * z) / 16 + (y + 256 * z)) % 256 &&& 15 = pcl (x % 256) 8 := by
        rw [show (15 : Nat) = 2 ^ 4 - 1 from rfl, Nat.and_two_pow_sub_one_eq_mod]
        omega
      rw [a1, a2]
    exact ⟨by rw [e2]; rfl, by rw [e1]; omega⟩
theorem pcl_byte (x : Nat) : ∀ j, j ≤ 8 → pcl x j = pcl (x % 256) j
  | 0, _ => rfl
  | j + 1, h => by
    rw [pcl, pcl, pcl_byte x j (by omega)]
    congr 1
    have : j = 0 ∨ j = 1 ∨ j = 2 ∨ j = 3 ∨ j = 4 ∨ j = 5 ∨ j = 6 ∨ j = 7 := by omega
    rcases this with h | h | h | h | h | h | h | h <;> subst h <;> simp <;> omega
theorem pcl_add (x : Nat) (i : Nat) : ∀ j, pcl x (i + j) = pcl x i + pcl (x / 2 ^ i) j
  | 0 => rfl
  | j + 1 => by
    rw [← Nat.add_assoc, pcl, pcl_add x i j, pcl, Nat.pow_add, ← Nat.div_div_eq_div_mul]
    omega
theorem pcl_zero (j : Nat) : pcl 0 j = 0 := by
  induction j with
  | zero => rfl
  | succ j ih => rw [pcl, ih]; simp
theorem pcl_high (x i j : Nat) (h : x < 2 ^ i) : pcl x (i + j) = pcl x i := by
  rw [pcl_add, Nat.div_eq_of_lt h, pcl_zero]
  rfl
theorem pcl_bytes (x : Nat) (h : x < 4294967296) : pcl x 32 = pcl (x % 256) 8 + pcl (x / 256 % 256) 8 + pcl (x / 65536 % 256) 8 + pcl (x / 16777216 % 256) 8 := by
  have h1 := pcl_add x 8 24
  have h2 := pcl_add (x / 2 ^ 8) 8 16
  have h3 := pcl_add (x / 2 ^ 8 / 2 ^ 8) 8 8
  rw [Nat.div_div_eq_div_mul, Nat.div_div_eq_div_mul] at h3
  rw [Nat.div_div_eq_div_mul] at h2
  rw [show (8 + 24 : Nat) = 32 from rfl, show (2 : Nat) ^ 8 = 256 from rfl] at h1
  rw [show (8 + 16 : Nat) = 24 from rfl, show (2 : Nat) ^ 8 * 2 ^ 8 = 65536 from rfl, show (2 : Nat) ^ 8 = 256 from rfl] at h2
  rw [show (8 + 8 : Nat) = 16 from rfl, show (2 : Nat) ^ 8 * 2 ^ 8 * 2 ^ 8 = 16777216 from rfl, show (2 : Nat) ^ 8 * 2 ^ 8 = 65536 from rfl] at h3
  rw [pcl_byte x 8 (by omega)] at h1
  rw [pcl_byte (x / 256) 8 (by omega)] at h2
  rw [pcl_byte (x / 65536) 8 (by omega), pcl_byte (x / 16777216) 8 (by omega)] at h3
  omega
/-- The whole reckoning: of a number below 2^32. -/
theorem ones_32 (x : Nat) (h : x < 4294967296) :
    let y := st2 8 (st1 8 (st0 8 x))
    let y1 := y + y / 256
    let y2 := y1 + y1 / 65536
    let y3 := y2 + y2 / 4294967296
    y3 % 128 = pcl x 32 ∧ y1 < 4294967296 ∧ y2 < 4294967296 ∧ y < 4294967296 := by
  intro y y1 y2 y3
  have e : y = byP 8 x := (st_all 8 x).1
  have z : pcl (x / 4294967296 % 256) 8 = 0 := by rw [Nat.div_eq_of_lt h]; rfl
  have e2 : byP 8 x = pcl (x % 256) 8 + 256 * (pcl (x / 256 % 256) 8 + 256 * (pcl (x / 65536 % 256) 8 + 256 * (pcl (x / 16777216 % 256) 8))) := by
    have hz : ∀ n, byP n 0 = 0 := by
      intro n
      induction n with
      | zero => rfl
      | succ n ih => rw [byP, show (0 : Nat) / 256 = 0 from rfl, ih]; rfl
    have e3 : byP 8 x = pcl (x % 256) 8 + 256 * (pcl (x / 256 % 256) 8 + 256 * (pcl (x / 256 / 256 % 256) 8 + 256 * (pcl (x / 256 / 256 / 256 % 256) 8 + 256 * byP 4 (x / 256 / 256 / 256 / 256)))) := rfl
    rw [e3, show x / 256 / 256 / 256 / 256 = 0 by omega, hz, show x / 256 / 256 = x / 65536 by omega, show x / 65536 / 256 = x / 16777216 by omega]
    omega
  rw [e2] at e
  rw [pcl_bytes x h]
  have b0 := pcl_le (x % 256) 8
  have b1 := pcl_le (x / 256 % 256) 8
  have b2 := pcl_le (x / 65536 % 256) 8
  have b3 := pcl_le (x / 16777216 % 256) 8
  generalize pcl (x % 256) 8 = p0 at e b0 ⊢
  generalize pcl (x / 256 % 256) 8 = p1 at e b1 ⊢
  generalize pcl (x / 65536 % 256) 8 = p2 at e b2 ⊢
  generalize pcl (x / 16777216 % 256) 8 = p3 at e b3 ⊢
  have f1 : y1 = (p0 + p1) + 256 * ((p1 + p2) + 256 * ((p2 + p3) + 256 * p3)) := by show y + y / 256 = _; omega
  have f2 : y2 = (p0 + p1 + p2 + p3) + 256 * ((p1 + p2 + p3) + 256 * ((p2 + p3) + 256 * p3)) := by show y1 + y1 / 65536 = _; omega
  have f3 : y3 = y2 := by show y2 + y2 / 4294967296 = _; omega
  refine ⟨?_, by omega, by omega, by omega⟩
  rw [f3, f2]
  omega
/-- What lies below a bit. -/
theorem pcl_mod (x : Nat) (j : Nat) : ∀ i, i ≤ j → pcl (x % 2 ^ j) i = pcl x i
  | 0, _ => rfl
  | i + 1, h => by
    rw [pcl, pcl, pcl_mod x j i (by omega)]
    congr 1
    obtain ⟨d, rfl⟩ : ∃ d, j = i + (d + 1) := ⟨j - i - 1, by omega⟩
    rw [Nat.pow_add, Nat.mod_mul_right_div_self, Nat.pow_succ, Nat.mod_mul_left_mod]
theorem pcl_below (x j : Nat) (h : j ≤ 28) : pcl (x % 2 ^ j) 32 = pcl x j := by
  obtain ⟨d, hd⟩ : ∃ d, 32 = j + d := ⟨32 - j, by omega⟩
  rw [hd, pcl_high _ j d (Nat.mod_lt _ (Nat.two_pow_pos j)), pcl_mod x j j (Nat.le_refl _)]
theorem pcl_28 (x : Nat) (h : x < 268435456) : pcl x 32 = pcl x 28 := pcl_high x 28 4 h

/-- The lowest bit that is set from one on. -/
theorem low_next (x t0 : Nat) (hx : x < 268435456) (hne : pcl x t0 < pcl x 28) :
    ∃ t, t0 ≤ t ∧ t < 28 ∧ x / 2 ^ t % 2 = 1 ∧ pcl x t = pcl x t0 ∧ x / 2 ^ t0 * 2 ^ t0 ≠ 0 ∧ (x / 2 ^ t0 * 2 ^ t0) &&& (x / 2 ^ t0 * 2 ^ t0 - 1) = x / 2 ^ (t + 1) * 2 ^ (t + 1) ∧ Lib.ctz 64 (x / 2 ^ t0 * 2 ^ t0) = t := by
  have ht0 : t0 < 28 := by
    by_cases h : t0 < 28
    · exact h
    · have := pcl_mono x (i := 28) (j := t0) (by omega)
      omega
  have hu : x / 2 ^ t0 ≠ 0 := by
    intro h0
    have e := pcl_add x t0 (28 - t0)
    rw [h0, pcl_zero, show t0 + (28 - t0) = 28 by omega] at e
    omega
  have hult : x / 2 ^ t0 < 2 ^ 28 := Nat.lt_of_le_of_lt (Nat.div_le_self _ _) hx
  obtain ⟨m, hm, hk⟩ := Lib.ctzFrom_spec 28 (x / 2 ^ t0) (Nat.pos_of_ne_zero hu) hult
  generalize Lib.ctzFrom 28 (x / 2 ^ t0) = s at hm hk
  have hxt : x / 2 ^ (t0 + s) = 2 * m + 1 := by
    rw [Nat.pow_add, ← Nat.div_div_eq_div_mul, hm, Nat.mul_div_cancel_left _ (Nat.two_pow_pos s)]
  have hxt1 : x / 2 ^ (t0 + s + 1) = m := by
    rw [Nat.pow_succ, ← Nat.div_div_eq_div_mul, hxt]
    omega
  have hE : x / 2 ^ t0 * 2 ^ t0 = 2 ^ (t0 + s) * (2 * m + 1) := by
    rw [hm, Nat.pow_add, Nat.mul_comm (2 ^ s * (2 * m + 1)), Nat.mul_assoc]
  have hts : t0 + s < 28 := by
    apply Nat.lt_of_not_le
    intro h
    have h1 : x / 2 ^ (t0 + s) = 0 := Nat.div_eq_of_lt (Nat.lt_of_lt_of_le hx (by rw [show (268435456 : Nat) = 2 ^ 28 from rfl]; exact Nat.pow_le_pow_right (by decide) h))
    omega
  have hz : ∀ i, i ≤ s → pcl x (t0 + i) = pcl x t0 := by
    intro i
    induction i with
    | zero => intro _; rfl
    | succ i ih =>
      intro hi
      rw [← Nat.add_assoc, pcl, ih (by omega)]
      have : x / 2 ^ (t0 + i) % 2 = 0 := by
        rw [Nat.pow_add, ← Nat.div_div_eq_div_mul, hm]
        obtain ⟨d, rfl⟩ : ∃ d, s = i + (d + 1) := ⟨s - i - 1, by omega⟩
        rw [Nat.pow_add, Nat.mul_assoc, Nat.mul_div_cancel_left _ (Nat.two_pow_pos i), Nat.pow_succ, Nat.mul_comm (2 ^ d) 2, Nat.mul_assoc]
        omega
      omega
  refine ⟨t0 + s, by omega, hts, by rw [hxt]; omega, hz s (Nat.le_refl _), ?_, ?_, ?_⟩
  · rw [hE]
    have := Nat.two_pow_pos (t0 + s)
    have : 0 < 2 ^ (t0 + s) * (2 * m + 1) := Nat.mul_pos this (by omega)
    omega
  · rw [hE, hxt1]
    generalize t0 + s = t
    apply Nat.eq_of_testBit_eq
    intro i
    have hp := Nat.two_pow_pos t
    have e1 : 2 ^ t * (2 * m + 1) - 1 = 2 ^ t * (2 * m) + (2 ^ t - 1) := by rw [Nat.mul_add, Nat.mul_one]; omega
    rw [Nat.testBit_and, e1, Nat.testBit_two_pow_mul_add _ (by omega), Nat.testBit_two_pow_mul, Nat.testBit_two_pow_sub_one, Nat.mul_comm m, Nat.testBit_two_pow_mul]
    by_cases hi : i < t
    · have h1 : ¬ t ≤ i := by omega
      have h2 : ¬ t + 1 ≤ i := by omega
      simp [h1, h2]
    · rw [if_neg hi]
      by_cases he : i = t
      · subst he
        have h2 : ¬ i + 1 ≤ i := by omega
        simp [Nat.testBit_zero, h2]
      · obtain ⟨j, rfl⟩ : ∃ j, i = t + (j + 1) := ⟨i - t - 1, by omega⟩
        have h1 : t ≤ t + (j + 1) := by omega
        have h2 : t + 1 ≤ t + (j + 1) := by omega
        rw [show t + (j + 1) - t = j + 1 by omega, show t + (j + 1) - (t + 1) = j by omega, Nat.testBit_succ, Nat.testBit_succ, show (2 * m + 1) / 2 = m by omega, show 2 * m / 2 = m by omega]
        simp [h2]
  · rw [hE]
    have hp := Nat.two_pow_pos (t0 + s)
    have h0 : 0 < 2 ^ (t0 + s) * (2 * m + 1) := Nat.mul_pos hp (by omega)
    have hlt : 2 ^ (t0 + s) * (2 * m + 1) < 2 ^ 64 := by
      rw [← hE]
      exact Nat.lt_of_le_of_lt (Nat.div_mul_le_self x _) (Nat.lt_trans hx (by decide))
    unfold Lib.ctz
    rw [if_neg (by omega)]
    obtain ⟨m', hm', hk'⟩ := Lib.ctzFrom_spec 64 _ h0 hlt
    generalize Lib.ctzFrom 64 (2 ^ (t0 + s) * (2 * m + 1)) = q at hm' hk' ⊢
    generalize t0 + s = t at hm'
    rcases Nat.lt_trichotomy q t with h | h | h
    · exfalso
      obtain ⟨d, rfl⟩ : ∃ d, t = q + (d + 1) := ⟨t - q - 1, by omega⟩
      rw [Nat.pow_add, Nat.mul_assoc] at hm'
      have := Nat.eq_of_mul_eq_mul_left (Nat.two_pow_pos q) hm'
      rw [Nat.pow_succ, Nat.mul_comm (2 ^ d) 2, Nat.mul_assoc] at this
      omega
    · exact h
    · exfalso
      obtain ⟨d, rfl⟩ : ∃ d, q = t + (d + 1) := ⟨q - t - 1, by omega⟩
      rw [Nat.pow_add, Nat.mul_assoc] at hm'
      have := Nat.eq_of_mul_eq_mul_left (Nat.two_pow_pos t) hm'
      rw [Nat.pow_succ, Nat.mul_comm (2 ^ d) 2, Nat.mul_assoc] at this
      omega
/-- The syllable of a bit of a word. -/
theorem kth_bit (b : Bool) (n t : Nat) (hn : n < 399) (ht : t < 28) (h : selW b n / 2 ^ t % 2 = 1) : kthM b (rankM b (28 * n) + pcl (selW b n) t) = some (28 * n + t) := by
  rw [kthM_iff]
  refine ⟨by omega, ?_, rank_word b n t (by omega)⟩
  rw [selW_bit b n t ht] at h
  by_cases e : (inM (28 * n + t) == b) = true
  · simpa using e
  · rw [if_neg e] at h
    omega
end Go.Proofs.YtdomjahijchanaaGreatDoor

