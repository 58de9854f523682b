/-
  Layer 7, plainly: the code of a sign; a sign's code leads back to it, and a code's sign to the code.
-/
import Derived.Test.YtmfafdgmggcoiaaGreatDoorWn1
namespace Go.Proofs.YtmfafdgmggcoiaaGreatDoor
open Go Go.RowKit
set_option linter.unusedSimpArgs false
set_option linter.unusedVariables false

/-- The second byte of a number. -/
def secB (t : Nat) : Nat := if t < 26 then 65 + t else if t < 52 then 71 + t else 77 + t
theorem secZ_B (t : Nat) (h : t ≤ 177) : secZ (secB t : Nat) = t := by
  unfold secZ secB
  by_cases h1 : t < 26
  · rw [if_pos h1, if_pos (by omega)]; omega
  · rw [if_neg h1]
    by_cases h2 : t < 52
    · rw [if_pos h2, if_neg (by omega), if_pos (by omega)]; omega
    · rw [if_neg h2, if_neg (by omega), if_neg (by omega), if_pos (by omega)]; omega
theorem secB_Z (b : Nat) (h : 0 ≤ secZ b) : secB (secZ b).toNat = b ∧ secZ b ≤ 177 ∧ 65 ≤ b ∧ b ≤ 254 ∧ (b < 161 → secZ b ≤ 83) ∧ (161 ≤ b → 84 ≤ secZ b) := by
  unfold secZ at h ⊢
  unfold secB
  split at h
  · rename_i h1
    rw [if_pos h1]
    refine ⟨?_, by omega, by omega, by omega, by omega, by omega⟩
    rw [if_pos (by omega)]; omega
  · rename_i h1
    rw [if_neg h1]
    split at h
    · rename_i h2
      rw [if_pos h2]
      refine ⟨?_, by omega, by omega, by omega, by omega, by omega⟩
      rw [if_neg (by omega), if_pos (by omega)]; omega
    · rename_i h2
      rw [if_neg h2]
      split at h
      · rename_i h3
        rw [if_pos h3]
        refine ⟨?_, by omega, by omega, by omega, by omega, by omega⟩
        rw [if_neg (by omega), if_neg (by omega)]; omega
      · omega
theorem secB_bd (t : Nat) (h : t ≤ 177) : 65 ≤ secB t ∧ secB t ≤ 254 ∧ (t ≤ 83 → secB t < 161) := by
  unfold secB
  split
  · omega
  · split <;> omega
/-- The code of the n-th syllable. -/
def codeN (n : Nat) : Nat :=
  if inM n then (176 + rankM true n / 94) * 256 + (161 + rankM true n % 94)
  else if rankM false n < 5696 then (129 + rankM false n / 178) * 256 + secB (rankM false n % 178)
  else (161 + (rankM false n - 5696) / 84) * 256 + secB ((rankM false n - 5696) % 84)
/-- The code of a sign; -1: there is none. -/
def codeW (p : Int) : Int := if 44032 ≤ p ∧ p ≤ 55203 then (codeN (p - 44032).toNat : Int) else if 0 < p then rowCodeZ p else -1
theorem rank_lt (n : Nat) (h : n < 11172) : rankM (inM n) n < rankM (inM n) 11172 := by
  have h1 := rankM_mono (inM n) (show n + 1 ≤ 11172 by omega)
  rw [rankM_succ, if_pos (by simp)] at h1
  omega
theorem rank_rows (n : Nat) (h : n < 11172) (hb : inM n = true) : rankM true n < 2350 := by
  have := rank_lt n h
  rwa [hb, rows_many] at this
theorem rank_others (n : Nat) (h : n < 11172) (hb : inM n = false) : rankM false n < 8822 := by
  have := rank_lt n h
  rwa [hb, others_many] at this
theorem kthZ_rank (n : Nat) (h : n < 11172) : kthZ (inM n) (rankM (inM n) n : Nat) = 44032 + (n : Int) := by
  unfold kthZ
  rw [if_neg (by omega), Int.toNat_natCast, kthM_rank n h]
/-- Each syllable has two bytes, which lead back to it. -/
theorem codeN_sign (n : Nat) (h : n < 11172) : signW (codeN n / 256) (codeN n % 256) = 44032 + (n : Int) ∧ 33024 ≤ codeN n ∧ codeN n < 65536 := by
  have hk := kthZ_rank n h
  unfold codeN
  cases hb : inM n with
  | true =>
    rw [hb] at hk
    have h1 := rank_rows n h hb
    rw [if_pos rfl]
    generalize rankM true n = k at hk h1 ⊢
    have e1 : ((176 + k / 94) * 256 + (161 + k % 94)) / 256 = 176 + k / 94 := by omega
    have e2 : ((176 + k / 94) * 256 + (161 + k % 94)) % 256 = 161 + k % 94 := by omega
    refine ⟨?_, by omega, by omega⟩
    rw [e1, e2]
    unfold signW
    have hs : 0 ≤ secZ (161 + k % 94 : Nat) := by unfold secZ; rw [if_neg (by omega), if_neg (by omega), if_pos (by omega)]; omega
    rw [if_neg (by omega), if_neg (by omega), if_neg (by omega), if_pos (by omega)]
    rw [show (((176 + k / 94 : Nat) : Int) - 176) * 94 + ((161 + k % 94 : Nat) : Int) - 161 = (k : Int) from by omega]
    exact hk
  | false =>
    rw [hb] at hk
    have h1 := rank_others n h hb
    rw [if_neg (by simp)]
    generalize rankM false n = k at hk h1 ⊢
    by_cases h2 : k < 5696
    · rw [if_pos h2]
      have hs := secZ_B (k % 178) (by omega)
      have hsb := secB_bd (k % 178) (by omega)
      generalize secB (k % 178) = s at hs hsb ⊢
      have e1 : ((129 + k / 178) * 256 + s) / 256 = 129 + k / 178 := by omega
      have e2 : ((129 + k / 178) * 256 + s) % 256 = s := by omega
      refine ⟨?_, by omega, by omega⟩
      rw [e1, e2]
      unfold signW
      rw [if_neg (by omega), if_pos (by omega), hs]
      rw [show (((129 + k / 178 : Nat) : Int) - 129) * 178 + ((k % 178 : Nat) : Int) = (k : Int) from by omega]
      exact hk
    · rw [if_neg h2]
      have hs := secZ_B ((k - 5696) % 84) (by omega)
      have hsb := secB_bd ((k - 5696) % 84) (by omega)
      generalize secB ((k - 5696) % 84) = s at hs hsb ⊢
      have hs161 : s < 161 := hsb.2.2 (by omega)
      have e1 : ((161 + (k - 5696) / 84) * 256 + s) / 256 = 161 + (k - 5696) / 84 := by omega
      have e2 : ((161 + (k - 5696) / 84) * 256 + s) % 256 = s := by omega
      refine ⟨?_, by omega, by omega⟩
      rw [e1, e2]
      unfold signW
      rw [if_neg (by omega), if_neg (by omega), if_pos hs161, hs]
      rw [show 5696 + (((161 + (k - 5696) / 84 : Nat) : Int) - 161) * 84 + (((k - 5696) % 84 : Nat) : Int) = (k : Int) from by omega]
      exact hk
theorem kthZ_get {b : Bool} {k : Int} (h : kthZ b k ≠ 0) : ∃ n : Nat, n < 11172 ∧ inM n = b ∧ (rankM b n : Int) = k ∧ kthZ b k = 44032 + (n : Int) := by
  unfold kthZ at h ⊢
  split at h
  · exact absurd rfl h
  · rename_i hk
    rw [if_neg hk]
    cases hm : kthM b k.toNat with
    | none => rw [hm] at h; exact absurd rfl h
    | some n =>
      obtain ⟨h1, h2, h3⟩ := (kthM_iff b k.toNat n).1 hm
      exact ⟨n, h1, h2, by omega, rfl⟩
theorem rowGo_at (p : Int) : ∀ (k i j : Nat), j < k → (∀ q, q < j → atZ (i + q) ≠ p) → atZ (i + j) = p → rowGo p k i = (((161 + (i + j) / 94) * 256 + (161 + (i + j) % 94) : Nat) : Int)
  | 0, _, _, h, _, _ => by omega
  | k + 1, i, 0, _, _, e => by rw [rowGo, if_pos (by simpa using e)]; rfl
  | k + 1, i, j + 1, h, hn, e => by
    have h0 := hn 0 (by omega)
    rw [rowGo, if_neg (by simpa using h0), rowGo_at p k (i + 1) j (by omega) (fun q hq => by
      have := hn (q + 1) (by omega)
      rwa [show i + 1 + q = i + (q + 1) from by omega]) (by rwa [show i + 1 + j = i + (j + 1) from by omega])]
    rw [show i + 1 + j = i + (j + 1) from by omega]
theorem rowGo_get (p : Int) : ∀ (k i : Nat), 0 ≤ rowGo p k i → ∃ j : Nat, j < k ∧ atZ (i + j) = p ∧ rowGo p k i = (((161 + (i + j) / 94) * 256 + (161 + (i + j) % 94) : Nat) : Int)
  | 0, _, h => by simp [rowGo] at h
  | k + 1, i, h => by
    unfold rowGo at h ⊢
    split
    · rename_i e
      exact ⟨0, by omega, by simpa using e, rfl⟩
    · rename_i e
      rw [if_neg e] at h
      obtain ⟨j, h1, h2, h3⟩ := rowGo_get p k (i + 1) h
      exact ⟨j + 1, by omega, by rwa [show i + (j + 1) = i + 1 + j from by omega], by rw [h3, show i + 1 + j = i + (j + 1) from by omega]⟩
theorem rowGo_no (p : Int) : ∀ (k i : Nat), (∀ q, q < k → atZ (i + q) ≠ p) → rowGo p k i = -1
  | 0, _, _ => rfl
  | k + 1, i, hn => by
    have h0 := hn 0 (by omega)
    rw [rowGo, if_neg (by simpa using h0), rowGo_no p k (i + 1) (fun q hq => by
      have := hn (q + 1) (by omega)
      rwa [show i + 1 + q = i + (q + 1) from by omega])]
/-- The code of a sign of the rows. -/
theorem rowGo_at0 (k i : Nat) (h : i < k) (hf : ∀ q, q < i → atZ q ≠ atZ i) : rowGo (atZ i) k 0 = (((161 + i / 94) * 256 + (161 + i % 94) : Nat) : Int) := by
  have := rowGo_at (atZ i) k 0 i h (fun q hq e => by
    rw [Nat.zero_add] at e
    exact hf q hq e) (by rw [Nat.zero_add])
  rw [Nat.zero_add] at this
  exact this
theorem rowCode_at (i : Nat) (h : i < 1128) (hz : atZ i ≠ 0) : rowCodeZ (atZ i) = (((161 + i / 94) * 256 + (161 + i % 94) : Nat) : Int) := by
  unfold rowCodeZ
  exact rowGo_at0 1128 i h (fun q hq e => by
    have := atZ_inj (i := q) (j := i) (by omega) h e (by rw [e]; exact hz)
    omega)
theorem rowZ_out (a b : Nat) (h : rowZ a b ≠ 0) : 161 ≤ a ∧ a ≤ 172 := by
  unfold rowZ at h
  by_cases c : 161 ≤ a ∧ a ≤ 172
  · exact c
  · exfalso
    apply h
    rw [if_neg (by omega), if_neg (by omega), if_neg (by omega), if_neg (by omega), if_neg (by omega), if_neg (by omega), if_neg (by omega), if_neg (by omega), if_neg (by omega)]
theorem atZ_of (a b : Nat) (ha : 161 ≤ a) (hb : 161 ≤ b) (hb2 : b ≤ 254) : atZ ((a - 161) * 94 + (b - 161)) = rowZ a b := by
  unfold atZ
  rw [show 161 + ((a - 161) * 94 + (b - 161)) / 94 = a from by omega, show 161 + ((a - 161) * 94 + (b - 161)) % 94 = b from by omega]
/-- What has a sign is that sign's code. -/
theorem sign_codeW (a b : Nat) (ha : a < 256) (hb : b < 256) (h : signW a b ≠ 0) : codeW (signW a b) = ((a * 256 + b : Nat) : Int) := by
  unfold signW at h ⊢
  split at h
  · exact absurd rfl h
  · rename_i c1
    rw [if_neg c1]
    have hs := secB_Z b (by omega)
    obtain ⟨s1, s2, s3, s4, s5, s6⟩ := hs
    split at h
    · rename_i c2
      rw [if_pos c2]
      obtain ⟨n, h1, h2, h3, h4⟩ := kthZ_get h
      rw [h4]
      unfold codeW
      rw [if_pos (by omega), show (44032 + (n : Int) - 44032).toNat = n from by omega]
      unfold codeN
      rw [if_neg (by simp [h2]), if_pos (by omega)]
      have e1 : rankM false n / 178 = a - 129 := by omega
      have e2 : rankM false n % 178 = (secZ b).toNat := by omega
      rw [e1, e2, s1]
      omega
    · rename_i c2
      rw [if_neg c2]
      split at h
      · rename_i c3
        rw [if_pos c3]
        obtain ⟨n, h1, h2, h3, h4⟩ := kthZ_get h
        rw [h4]
        unfold codeW
        rw [if_pos (by omega), show (44032 + (n : Int) - 44032).toNat = n from by omega]
        unfold codeN
        have s7 := s5 c3
        rw [if_neg (by simp [h2]), if_neg (by omega)]
        have e1 : (rankM false n - 5696) / 84 = a - 161 := by omega
        have e2 : (rankM false n - 5696) % 84 = (secZ b).toNat := by omega
        rw [e1, e2, s1]
        omega
      · rename_i c3
        rw [if_neg c3]
        split at h
        · rename_i c4
          rw [if_pos c4]
          obtain ⟨n, h1, h2, h3, h4⟩ := kthZ_get h
          rw [h4]
          unfold codeW
          rw [if_pos (by omega), show (44032 + (n : Int) - 44032).toNat = n from by omega]
          unfold codeN
          rw [if_pos h2]
          omega
        · rename_i c4
          rw [if_neg c4]
          obtain ⟨a1, a2⟩ := rowZ_out a b h
          have he := atZ_of a b a1 (by omega) (by omega)
          have hbd := atZ_bd ((a - 161) * 94 + (b - 161)) (by omega)
          have hc := rowCode_at ((a - 161) * 94 + (b - 161)) (by omega) (by rw [he]; exact h)
          rw [he] at hbd hc
          unfold codeW
          rw [if_neg hbd.2.2, if_pos (by omega), hc]
          omega
/-- A code of a sign has that sign. -/
theorem code_signW (p : Int) (h : 0 ≤ codeW p) : signW ((codeW p).toNat / 256) ((codeW p).toNat % 256) = p ∧ 33024 ≤ codeW p ∧ codeW p < 65536 := by
  unfold codeW at h ⊢
  by_cases c1 : 44032 ≤ p ∧ p ≤ 55203
  · rw [if_pos c1]
    obtain ⟨h1, h2, h3⟩ := codeN_sign (p - 44032).toNat (by omega)
    rw [Int.toNat_natCast]
    exact ⟨by rw [h1]; omega, by omega, by omega⟩
  · rw [if_neg c1] at h ⊢
    by_cases c2 : 0 < p
    · rw [if_pos c2] at h ⊢
      obtain ⟨j, h1, h2, h3⟩ := rowGo_get p 1128 0 h
      rw [Nat.zero_add] at h2 h3
      have h4 : rowCodeZ p = (((161 + j / 94) * 256 + (161 + j % 94) : Nat) : Int) := h3
      have hj := rowZ_out (161 + j / 94) (161 + j % 94) (by show atZ j ≠ 0; omega)
      rw [h4, Int.toNat_natCast]
      have e1 : ((161 + j / 94) * 256 + (161 + j % 94)) / 256 = 161 + j / 94 := by omega
      have e2 : ((161 + j / 94) * 256 + (161 + j % 94)) % 256 = 161 + j % 94 := by omega
      refine ⟨?_, by omega, by omega⟩
      rw [e1, e2]
      unfold signW
      have hs : 0 ≤ secZ (161 + j % 94 : Nat) := by unfold secZ; rw [if_neg (by omega), if_neg (by omega), if_pos (by omega)]; omega
      rw [if_neg (by omega), if_neg (by omega), if_neg (by omega), if_neg (by omega)]
      exact h2
    · rw [if_neg c2] at h
      omega
end Go.Proofs.YtmfafdgmggcoiaaGreatDoor
