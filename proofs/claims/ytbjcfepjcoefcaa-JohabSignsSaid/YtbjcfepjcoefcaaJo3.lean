/-
  Layer 6, plainly: each sign of a code leads back to it; how many codes have a sign, and what the signs come to.
-/
import Derived.Test.YtbjcfepjcoefcaaJo2
namespace Go.Proofs.Ytbjcfepjcoefcaa
open Go Go.RowKit
set_option linter.unusedSimpArgs false
set_option linter.unusedVariables false

/-- Does something hold of all of 2^d numbers from b on? -/
def chk (f : Nat → Bool) : Nat → Nat → Bool
  | 0, b => f b
  | d + 1, b => chk f d b && chk f d (b + 2 ^ d)
theorem chk_all (f : Nat → Bool) : ∀ (d b : Nat), chk f d b = true → ∀ k, k < 2 ^ d → f (b + k) = true
  | 0, b, h, k, hk => by
    obtain rfl : k = 0 := by simpa using hk
    exact h
  | d + 1, b, h, k, hk => by
    unfold chk at h
    simp only [Bool.and_eq_true] at h
    rw [Nat.pow_succ] at hk
    rcases Nat.lt_or_ge k (2 ^ d) with h2 | h2
    · exact chk_all f d b h.1 k h2
    · have := chk_all f d (b + 2 ^ d) h.2 (k - 2 ^ d) (by omega)
      rwa [show b + 2 ^ d + (k - 2 ^ d) = b + k from by omega] at this
def medC : List Nat := [3, 4, 5, 6, 7, 10, 11, 12, 13, 14, 15, 18, 19, 20, 21, 22, 23, 26, 27, 28, 29]
def finC (f : Nat) : Nat := if f < 17 then f + 1 else f + 2
/-- The code of a sign, reckoned. -/
def backJ (p : Int) : Nat :=
  if 44032 ≤ p then
    let s := (p - 44032).toNat
    32768 + (s / 588 + 2) * 1024 + medC.getD (s / 28 % 21) 0 * 32 + finC (s % 28)
  else if 12623 ≤ p then 32768 + 1024 + medC.getD (p - 12623).toNat 0 * 32 + 1
  else
    let x := (aloneL.getD (p - 12593).toNat 0).toNat
    if x < 100 then 32768 + (x + 2) * 1024 + 64 + 1 else 32768 + 1024 + 64 + finC (x - 100)
def okJ (c : Nat) : Bool := signJ c == 0 || (backJ (signJ c) == c && decide (12593 ≤ signJ c) && decide (signJ c ≤ 55203) && !(decide (12643 < signJ c) && decide (signJ c < 44032)))
set_option maxRecDepth 100000 in
theorem okJ_all : chk okJ 15 32768 = true := by decide +kernel
theorem okJ_at (c : Nat) (h : c < 65536) (hs : signJ c ≠ 0) : backJ (signJ c) = c ∧ 12593 ≤ signJ c ∧ signJ c ≤ 55203 ∧ ¬ (12643 < signJ c ∧ signJ c < 44032) ∧ 32768 ≤ c := by
  have hc : 32768 ≤ c := by
    rcases Nat.lt_or_ge c 32768 with h2 | h2
    · exact absurd (if_pos h2) hs
    · exact h2
  have h1 := chk_all okJ 15 32768 okJ_all (c - 32768) (by omega)
  rw [show 32768 + (c - 32768) = c from by omega] at h1
  unfold okJ at h1
  have h0 : (signJ c == 0) = false := beq_false_of_ne hs
  rw [h0, Bool.false_or] at h1
  simp only [Bool.and_eq_true, Bool.not_eq_true', beq_iff_eq, decide_eq_true_eq] at h1
  obtain ⟨⟨⟨g1, g2⟩, g3⟩, g4⟩ := h1
  refine ⟨g1, g2, g3, fun k => ?_, hc⟩
  rw [decide_eq_true k.1, decide_eq_true k.2] at g4
  cases g4
/-- No two codes have one sign. -/
theorem signJ_inj {c d : Nat} (hc : c < 65536) (hd : d < 65536) (h : signJ c = signJ d) (hs : signJ c ≠ 0) : c = d := by
  have h1 := (okJ_at c hc hs).1
  have h2 := (okJ_at d hd (by rw [← h]; exact hs)).1
  rw [← h1, ← h2, h]
theorem code_sign (c : Nat) (h : c < 65536) (hs : signJ c ≠ 0) : codeJ (signJ c) = c := by
  obtain ⟨h1, h2, h3, h4, h5⟩ := okJ_at c h hs
  have e : codeJ (signJ c) = seekGo signJ (signJ c) 32768 32768 := if_neg (fun k => by
    rcases k with k | k | k
    · omega
    · omega
    · exact h4 k)
  rw [e, seekGo_at signJ (signJ c) 32768 32768 (c - 32768) (by omega) (fun i hi e2 => by
    have := signJ_inj (c := 32768 + i) (d := c) (by omega) h e2 (by rw [e2]; exact hs)
    omega) (by rw [show 32768 + (c - 32768) = c from by omega])]
  omega
theorem seekGo_get (g : Nat → Int) (p : Int) : ∀ (k n : Nat), 0 ≤ seekGo g p k n → g (seekGo g p k n).toNat = p ∧ (n : Int) ≤ seekGo g p k n ∧ seekGo g p k n < n + k
  | 0, _, h => by simp [seekGo] at h
  | k + 1, n, h => by
    unfold seekGo at h ⊢
    split
    · rename_i e
      exact ⟨by simpa using e, by omega, by omega⟩
    · rename_i e
      rw [if_neg e] at h
      obtain ⟨h1, h2, h3⟩ := seekGo_get g p k (n + 1) h
      exact ⟨h1, by omega, by omega⟩
theorem sign_code (p : Int) (h : 0 ≤ codeJ p) : signJ (codeJ p).toNat = p ∧ 32768 ≤ codeJ p ∧ codeJ p < 65536 := by
  unfold codeJ at h ⊢
  split
  · rename_i hn
    rw [if_pos hn] at h
    omega
  · rename_i hn
    rw [if_neg hn] at h
    obtain ⟨h1, h2, h3⟩ := seekGo_get signJ p 32768 32768 h
    exact ⟨h1, by omega, by omega⟩
/-- What so many numbers' values come to, from b on. -/
def sumR (g : Nat → Int) : Nat → Nat → Int
  | 0, _ => 0
  | k + 1, b => sumR g k b + g (b + k)
def sumB (g : Nat → Int) : Nat → Nat → Int
  | 0, b => g b
  | d + 1, b => sumB g d b + sumB g d (b + 2 ^ d)
theorem sumR_add (g : Nat → Int) (m b : Nat) : ∀ n, sumR g (m + n) b = sumR g m b + sumR g n (b + m)
  | 0 => by simp [sumR]
  | n + 1 => by
    rw [show m + (n + 1) = (m + n) + 1 from rfl, sumR, sumR, sumR_add g m b n, Int.add_assoc, Nat.add_assoc]
theorem sumB_eq (g : Nat → Int) : ∀ (d b : Nat), sumB g d b = sumR g (2 ^ d) b
  | 0, b => by simp [sumB, sumR]
  | d + 1, b => by
    rw [sumB, sumB_eq g d b, sumB_eq g d, Nat.pow_succ, Nat.mul_two, sumR_add]
def oneJ (c : Nat) : Int := if signJ c = 0 then 0 else 1
set_option maxRecDepth 100000 in
theorem count_all : sumB oneJ 15 32768 = 11223 := by decide +kernel
set_option maxRecDepth 100000 in
theorem sum_all : sumB signJ 15 32768 = 554970228 := by decide +kernel
theorem count_J : sumR oneJ 32768 32768 = 11223 := (sumB_eq oneJ 15 32768).symm.trans count_all
theorem sum_J : sumR signJ 32768 32768 = 554970228 := (sumB_eq signJ 15 32768).symm.trans sum_all
end Go.Proofs.Ytbjcfepjcoefcaa
