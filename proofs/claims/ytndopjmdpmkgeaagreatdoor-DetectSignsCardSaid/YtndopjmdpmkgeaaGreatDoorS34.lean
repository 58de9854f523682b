/-
  What the proof of this claim leans on (S34).
-/
import Derived.Test.YtndopjmdpmkgeaaGreatDoorS1
import Derived.Laws.Bits128
import Derived.Laws.BitsLemmas
import Derived.Lib.Bytealg
namespace Go.Proofs.YtndopjmdpmkgeaaGreatDoor
open Go Go.RowKit
set_option linter.unusedSimpArgs false
set_option linter.unusedVariables false

theorem wraps_i64 (n : Int) (h₀ : 0 ≤ n) (h₁ : n < 2 ^ 63) : IntKind.i64.wrap n = n := by rw [IntKind.wrap_i64]; omega
theorem i64_and31 (x : Int) (h0 : 0 ≤ x) (h1 : x < 9223372036854775808) : bits .and .i64 x 31 = x % 32 := bits_mask .i64 63 (by decide) wraps_i64 5 (by decide) x h0 (by omega)
theorem i64_or8 (x y : Int) (h0 : 0 ≤ x) (h1 : x < 36028797018963968) (h2 : 0 ≤ y) (h3 : y < 256) : bits .or .i64 (x * 256) y = x * 256 + y := bits_join .i64 63 (by decide) wraps_i64 8 (x * 256) y (by omega) (by omega) (by omega) h2 (by omega) (by omega)
theorem i64_or5 (x y : Int) (h0 : 0 ≤ x) (h1 : x < 9223372036854775808) (hx : x % 32 = 0) (h2 : 0 ≤ y) (h3 : y < 32) : bits .or .i64 x y = x + y := bits_join .i64 63 (by decide) wraps_i64 5 x y h0 (by omega) (by omega) h2 (by omega) (by omega)
theorem i64_or10 (x y : Int) (h0 : 0 ≤ x) (h1 : x < 9223372036854775808) (hx : x % 1024 = 0) (h2 : 0 ≤ y) (h3 : y < 1024) : bits .or .i64 x y = x + y := bits_join .i64 63 (by decide) wraps_i64 10 x y h0 (by omega) (by omega) h2 (by omega) (by omega)
theorem i64_or15 (y : Int) (h2 : 0 ≤ y) (h3 : y < 32768) : bits .or .i64 32768 y = 32768 + y := bits_join .i64 63 (by decide) wraps_i64 15 32768 y (by omega) (by omega) (by omega) h2 (by omega) (by omega)
def iniB (c : Nat) : Bool := decide (1 ≤ c ∧ c ≤ 20)
def medB (c : Nat) : Bool := decide (2 ≤ c % 8 ∧ c ≤ 29)
def medV (c : Nat) : Int := (c : Int) / 8 * 6 + (c : Int) % 8 - 3
def finB (c : Nat) : Bool := decide ((1 ≤ c ∧ c ≤ 17) ∨ (19 ≤ c ∧ c ≤ 29))
def finV (c : Nat) : Int := if 1 ≤ c ∧ c ≤ 17 then (c : Int) - 1 else if 19 ≤ c ∧ c ≤ 29 then (c : Int) - 2 else 0
theorem med_all : ∀ c : Fin 32, (medB c.val = true → medZ c.val = medV c.val ∧ -1 ≤ medV c.val ∧ medV c.val ≤ 20) ∧ (medB c.val = false → medZ c.val = -2) := by decide +kernel
theorem fin_all : ∀ c : Fin 32, (finB c.val = true → finZ c.val = finV c.val ∧ 0 ≤ finV c.val ∧ finV c.val ≤ 27) ∧ (finB c.val = false → finZ c.val = -2) := by decide +kernel
def okC (c : Nat) : Bool := decide (32768 ≤ c) && iniB (c / 1024 % 32) && medB (c / 32 % 32) && finB (c % 32)
def iniC (c : Nat) : Int := ((c / 1024 % 32 : Nat) : Int) - 2
theorem okC_yes (c : Nat) (h : okC c = true) : signJ c = partsJ (iniC c) (medV (c / 32 % 32)) (finV (c % 32)) ∧ -1 ≤ iniC c ∧ iniC c ≤ 18 ∧ -1 ≤ medV (c / 32 % 32) ∧ medV (c / 32 % 32) ≤ 20 ∧ 0 ≤ finV (c % 32) ∧ finV (c % 32) ≤ 27 := by
  unfold okC at h
  simp only [Bool.and_eq_true, decide_eq_true_eq] at h
  obtain ⟨⟨⟨h1, h2⟩, h3⟩, h4⟩ := h
  obtain ⟨m1, m2, m3⟩ := (med_all ⟨c / 32 % 32, by omega⟩).1 h3
  obtain ⟨f1, f2, f3⟩ := (fin_all ⟨c % 32, by omega⟩).1 h4
  simp only at m1 m2 m3 f1 f2 f3
  have h2 : 1 ≤ c / 1024 % 32 ∧ c / 1024 % 32 ≤ 20 := by simpa [iniB] using h2
  refine ⟨?_, ?_, ?_, m2, m3, f2, f3⟩
  · unfold signJ
    rw [if_neg (by omega), m1, f1]
    rfl
  · unfold iniC; omega
  · unfold iniC; omega
theorem okC_no (c : Nat) (h : okC c = false) : signJ c = 0 := by
  unfold signJ
  split
  · rfl
  · rename_i hlo
    unfold partsJ
    rw [if_pos]
    by_cases h2 : iniB (c / 1024 % 32) = true
    · by_cases h3 : medB (c / 32 % 32) = true
      · by_cases h4 : finB (c % 32) = true
        · exfalso
          unfold okC at h
          rw [h2, h3, h4, decide_eq_true (by omega)] at h
          cases h
        · exact .inr (.inr (.inr ((fin_all ⟨c % 32, by omega⟩).2 (by simpa using h4))))
      · exact .inr (.inr (.inl ((med_all ⟨c / 32 % 32, by omega⟩).2 (by simpa using h3))))
    · have : ¬ (1 ≤ c / 1024 % 32 ∧ c / 1024 % 32 ≤ 20) := by simpa [iniB] using h2
      omega
def aloneB : List UInt8 := [65, 66, 100, 67, 102, 103, 68, 69, 70, 106, 107, 108, 109, 110, 111, 112, 71, 72, 73, 115, 74, 75, 76, 77, 78, 79, 80, 81, 82, 83]
theorem alone_ini : ∀ i : Fin 19, aloneZ (i.val : Int) = 12593 + Lib.indexByte aloneB (65 + i.val).toUInt8 ∧ 0 ≤ Lib.indexByte aloneB (65 + i.val).toUInt8 ∧ Lib.indexByte aloneB (65 + i.val).toUInt8 < 30 := by decide +kernel
theorem alone_fin : ∀ f : Fin 28, f.val ≠ 0 → aloneZ (100 + (f.val : Int)) = (if Lib.indexByte aloneB (97 + f.val).toUInt8 < 0 then 0 else 12593 + Lib.indexByte aloneB (97 + f.val).toUInt8) ∧ Lib.indexByte aloneB (97 + f.val).toUInt8 < 30 := by decide +kernel
def medC' (m : Int) : Int := (m + 1) / 6 * 8 + (m + 1) % 6 + 2
def finC' (f : Int) : Int := if f ≤ 16 then f + 1 else f + 2
def codeP (i m f : Int) : Int := 32768 + (i + 2) * 1024 + medC' m * 32 + finC' f
theorem codeP_bd (i m f : Int) (h1 : -1 ≤ i) (h2 : i ≤ 18) (h3 : -1 ≤ m) (h4 : m ≤ 20) (h5 : 0 ≤ f) (h6 : f ≤ 27) : 0 ≤ medC' m ∧ medC' m < 32 ∧ 0 ≤ finC' f ∧ finC' f < 32 ∧ 32768 ≤ codeP i m f ∧ codeP i m f < 65536 := by
  unfold codeP medC' finC'
  split <;> omega
/-- Has a sign parts? -/
def inB (p : Int) : Bool := (decide (44032 ≤ p) && decide (p < 55204)) || (decide (12593 ≤ p) && decide (p < 12644))
def letP (p : Int) : Int := ((aloneB.getD (p - 12593).toNat 0).toNat : Int)
def ptsI (p : Int) : Int := if 44032 ≤ p then (p - 44032) / 28 / 21 else if 12623 ≤ p then -1 else if 97 ≤ letP p then -1 else letP p - 65
def ptsM (p : Int) : Int := if 44032 ≤ p then (p - 44032) / 28 % 21 else if 12623 ≤ p then p - 12623 else -1
def ptsF (p : Int) : Int := if 44032 ≤ p then (p - 44032) % 28 else if 12623 ≤ p then 0 else if 97 ≤ letP p then letP p - 97 else 0
def backP (p : Int) : Int := codeP (ptsI p) (ptsM p) (ptsF p)
theorem inB_iff (p : Int) : inB p = true ↔ (44032 ≤ p ∧ p < 55204) ∨ (12593 ≤ p ∧ p < 12644) := by simp [inB]
theorem let_all : ∀ i : Fin 30, (97 ≤ letP (12593 + (i.val : Int)) → letP (12593 + (i.val : Int)) ≤ 124) ∧ 65 ≤ letP (12593 + (i.val : Int)) ∧ (letP (12593 + (i.val : Int)) < 97 → letP (12593 + (i.val : Int)) ≤ 83) := by decide +kernel
theorem pts_bd (p : Int) (h : inB p = true) : -1 ≤ ptsI p ∧ ptsI p ≤ 18 ∧ -1 ≤ ptsM p ∧ ptsM p ≤ 20 ∧ 0 ≤ ptsF p ∧ ptsF p ≤ 27 := by
  have hp := (inB_iff p).1 h
  unfold ptsI ptsM ptsF
  by_cases h1 : 44032 ≤ p
  · simp only [if_pos h1]; omega
  · simp only [if_neg h1]
    by_cases h2 : 12623 ≤ p
    · simp only [if_pos h2]; omega
    · simp only [if_neg h2]
      have hl := let_all ⟨(p - 12593).toNat, by omega⟩
      have e : 12593 + (((p - 12593).toNat : Nat) : Int) = p := by omega
      simp only [e] at hl
      obtain ⟨l1, l2, l3⟩ := hl
      split <;> omega
end Go.Proofs.YtndopjmdpmkgeaaGreatDoor

