/-
  Layer 8, plainly (2): cells and codes; the code of a sign, or of two; there and back.
-/
import Derived.Test.YtabcneomeemnpaaDoorBg0
namespace Go.Proofs.YtabcneomeemnpaaDoor
open Go Go.RowKit
set_option linter.unusedSimpArgs false
set_option linter.unusedVariables false

theorem leadB_lt (k : Nat) : 136 ≤ leadB k ∧ leadB k ≤ 165 := by
  unfold leadB
  split
  · omega
  · split
    · omega
    · split
      · omega
      · split <;> omega
theorem secB8_lt (c : Nat) (h : c < 157) : 64 ≤ secB8 c ∧ secB8 c ≤ 254 := by
  unfold secB8
  split <;> omega
theorem cell_sec (c : Nat) (h : c < 157) : cellB (secB8 c) = c := by
  unfold cellB secB8
  by_cases h1 : c < 63
  · rw [if_pos h1, if_pos (by omega)]; omega
  · rw [if_neg h1, if_neg (by omega), if_pos (by omega)]; omega
theorem sec_cell (b : Nat) (h : 0 ≤ cellB b) : secB8 (cellB b).toNat = b ∧ (cellB b).toNat < 157 := by
  unfold cellB at h ⊢
  unfold secB8
  by_cases h1 : 64 ≤ (b : Int) ∧ (b : Int) ≤ 126
  · rw [if_pos h1, if_pos (by omega)]; omega
  · rw [if_neg h1] at h ⊢
    by_cases h2 : 161 ≤ (b : Int) ∧ (b : Int) ≤ 254
    · rw [if_pos h2, if_neg (by omega)]; omega
    · rw [if_neg h2] at h; omega
/-- The sign of a cell is that of its code's two bytes. -/
theorem one_at (k c : Nat) (hc : c < 157) : oneB (leadB k) (secB8 c) = cellAt (157 * k + c) := by
  unfold oneB cellAt
  rw [cell_sec c hc, show (157 * k + c) / 157 = k from by omega, show (157 * k + c) % 157 = c from by omega]
  have hc0 : ¬ (c : Int) < 0 := by omega
  unfold nthB
  rw [if_neg hc0, Int.toNat_natCast]
theorem code_at (k c : Nat) (hc : c < 157) : codeB (157 * k + c) = leadB k * 256 + secB8 c := by
  unfold codeB
  rw [show (157 * k + c) / 157 = k from by omega, show (157 * k + c) % 157 = c from by omega]
theorem rowB_lead (a : Nat) (c : Int) (h : nthB (rowB a) c ≠ 0) : ∃ k, k < 5 ∧ leadB k = a := by
  by_cases c1 : a = 136
  · exact ⟨0, by omega, c1.symm⟩
  by_cases c2 : a = 161
  · exact ⟨1, by omega, c2.symm⟩
  by_cases c3 : a = 163
  · exact ⟨2, by omega, c3.symm⟩
  by_cases c4 : a = 164
  · exact ⟨3, by omega, c4.symm⟩
  by_cases c5 : a = 165
  · exact ⟨4, by omega, c5.symm⟩
  exfalso
  apply h
  unfold rowB
  rw [if_neg c1, if_neg c2, if_neg c3, if_neg c4, if_neg c5]
  unfold nthB
  split <;> rfl
/-- Two bytes that have one sign are a cell's. -/
theorem one_cell (a b : Nat) (h : oneB a b ≠ 0) : ∃ i, i < 785 ∧ cellAt i = oneB a b ∧ codeB i = a * 256 + b := by
  have h1 : nthB (rowB a) (cellB b) ≠ 0 := fun e => by
    apply h
    unfold oneB
    rw [e, if_neg (by decide)]
  obtain ⟨k, hk, rfl⟩ := rowB_lead a _ h1
  have h2 : 0 ≤ cellB b := by
    rcases Int.lt_or_le (cellB b) 0 with hn | hn
    · exfalso
      apply h1
      unfold nthB
      rw [if_pos hn]
    · exact hn
  obtain ⟨h3, h4⟩ := sec_cell b h2
  refine ⟨157 * k + (cellB b).toNat, by omega, ?_, ?_⟩
  · rw [← one_at k _ h4, h3]
  · rw [code_at k _ h4, h3]
theorem oneB_bd (a b : Nat) : 0 ≤ oneB a b ∧ oneB a b ≤ 65535 ∧ ¬ (55296 ≤ oneB a b ∧ oneB a b ≤ 57343) ∧ oneB a b ≠ 63 ∧ oneB a b ≠ 772 ∧ oneB a b ≠ 780 := by
  by_cases h : oneB a b = 0
  · rw [h]; omega
  · obtain ⟨i, h1, h2, h3⟩ := one_cell a b h
    rw [← h2]
    exact cellAt_bd i h1
/-- No two pairs of bytes have one sign. -/
theorem one_inj (a b a' b' : Nat) (h : oneB a b = oneB a' b') (hz : oneB a b ≠ 0) : a * 256 + b = a' * 256 + b' := by
  obtain ⟨i, h1, h2, h3⟩ := one_cell a b hz
  obtain ⟨j, k1, k2, k3⟩ := one_cell a' b' (by rw [← h]; exact hz)
  have := cellAt_inj h1 k1 (by rw [h2, k2, h]) (by rw [h2]; exact hz)
  rw [← h3, ← k3, this]
theorem cellGo_at (p : Int) : ∀ (k i j : Nat), j < k → (∀ q, q < j → cellAt (i + q) ≠ p) → cellAt (i + j) = p → cellGo p k i = (codeB (i + j) : Nat)
  | 0, _, _, h, _, _ => by omega
  | k + 1, i, 0, _, _, e => by rw [cellGo, if_pos (by simpa using e)]; rfl
  | k + 1, i, j + 1, h, hn, e => by
    have h0 := hn 0 (by omega)
    rw [cellGo, if_neg (by simpa using h0), cellGo_at p k (i + 1) j (by omega) (fun q hq => by
      have := hn (q + 1) (by omega)
      rwa [show i + 1 + q = i + (q + 1) from by omega]) (by rwa [show i + 1 + j = i + (j + 1) from by omega])]
    rw [show i + 1 + j = i + (j + 1) from by omega]
theorem cellGo_no (p : Int) : ∀ (k i : Nat), (∀ q, q < k → cellAt (i + q) ≠ p) → cellGo p k i = -1
  | 0, _, _ => rfl
  | k + 1, i, hn => by
    have h0 := hn 0 (by omega)
    rw [cellGo, if_neg (by simpa using h0), cellGo_no p k (i + 1) (fun q hq => by
      have := hn (q + 1) (by omega)
      rwa [show i + 1 + q = i + (q + 1) from by omega])]
theorem cellGo_get (p : Int) : ∀ (k i : Nat), 0 ≤ cellGo p k i → ∃ j : Nat, j < k ∧ cellAt (i + j) = p ∧ cellGo p k i = (codeB (i + j) : Nat)
  | 0, _, h => by simp [cellGo] at h
  | k + 1, i, h => by
    unfold cellGo at h ⊢
    split
    · rename_i e
      exact ⟨0, by omega, e, rfl⟩
    · rename_i e
      rw [if_neg e] at h
      obtain ⟨j, h1, h2, h3⟩ := cellGo_get p k (i + 1) h
      exact ⟨j + 1, by omega, by rwa [show i + (j + 1) = i + 1 + j from by omega], by rw [h3, show i + 1 + j = i + (j + 1) from by omega]⟩
/-- No cell ahead of one has a sign. -/
def NoB (p : Int) (n : Nat) : Prop := ∀ j, j < n → cellAt j = p → p = 0
theorem only_no (p : Int) (h : NoB p 785) : onlyB p = -1 := by
  unfold onlyB
  by_cases hp : p = 0
  · rw [if_pos hp]
  · rw [if_neg hp]
    exact cellGo_no p 785 0 fun q hq e => hp (h q hq (by rwa [Nat.zero_add] at e))
theorem only_at0 (p : Int) (k i : Nat) (h : NoB p i) (hi : i < k) (he : cellAt i = p) (hz : p ≠ 0) : cellGo p k 0 = (codeB i : Nat) := by
  have := cellGo_at p k 0 i hi (fun q hq e => hz (h q hq (by rwa [Nat.zero_add] at e))) (by rwa [Nat.zero_add])
  rw [Nat.zero_add] at this
  exact this
theorem only_at (p : Int) (i : Nat) (h : NoB p i) (hi : i < 785) (he : cellAt i = p) (hz : p ≠ 0) : onlyB p = (codeB i : Nat) := by
  unfold onlyB
  rw [if_neg hz]
  exact only_at0 p 785 i h hi he hz
theorem only_cell (i : Nat) (hi : i < 785) (hz : cellAt i ≠ 0) : onlyB (cellAt i) = (codeB i : Nat) :=
  only_at _ i (fun j hj e => by
    by_cases h0 : cellAt i = 0
    · exact h0
    · have := cellAt_inj (i := j) (j := i) (by omega) hi e (by rw [e]; exact h0)
      omega) hi rfl hz
/-- The one sign of two bytes leads back to them. -/
theorem only_one (a b : Nat) (h : oneB a b ≠ 0) : onlyB (oneB a b) = ((a * 256 + b : Nat) : Int) := by
  obtain ⟨i, h1, h2, h3⟩ := one_cell a b h
  rw [← h2, only_cell i h1 (by rw [h2]; exact h), h3]
theorem only_get0 (p : Int) (k : Nat) (h : 0 ≤ cellGo p k 0) : ∃ i, i < k ∧ cellAt i = p ∧ cellGo p k 0 = (codeB i : Nat) := by
  obtain ⟨j, h1, h2, h3⟩ := cellGo_get p k 0 h
  rw [Nat.zero_add] at h2 h3
  exact ⟨j, h1, h2, h3⟩
theorem only_get (p : Int) (h : 0 ≤ onlyB p) : p ≠ 0 ∧ ∃ i, i < 785 ∧ cellAt i = p ∧ onlyB p = (codeB i : Nat) := by
  unfold onlyB at h ⊢
  by_cases hp : p = 0
  · rw [if_pos hp] at h; omega
  · rw [if_neg hp] at h ⊢
    exact ⟨hp, only_get0 p 785 h⟩
theorem codeB_bd (i : Nat) (h : i < 785) : 34880 ≤ codeB i ∧ codeB i ≤ 42494 := by
  unfold codeB
  have h1 := leadB_lt (i / 157)
  have h2 := secB8_lt (i % 157) (by omega)
  omega
theorem codeB_parts (i : Nat) (h : i < 785) : codeB i / 256 = leadB (i / 157) ∧ codeB i % 256 = secB8 (i % 157) := by
  unfold codeB
  have h2 := secB8_lt (i % 157) (by omega)
  omega
/-- A sign's code has that one sign. -/
theorem one_only (p : Int) (h : 0 ≤ onlyB p) : ∃ c : Nat, onlyB p = (c : Int) ∧ 34880 ≤ c ∧ c ≤ 42494 ∧ oneB (c / 256) (c % 256 : Nat) = p := by
  obtain ⟨hp, i, h1, h2, h3⟩ := only_get p h
  have h4 := codeB_bd i h1
  obtain ⟨e1, e2⟩ := codeB_parts i h1
  refine ⟨codeB i, h3, h4.1, h4.2, ?_⟩
  rw [e1, e2, one_at _ _ (by omega), show 157 * (i / 157) + i % 157 = i from by omega, h2]
theorem two_pair (c : Int) (h : (twoS c).1 ≠ 0) : pairB (twoS c).1 (twoS c).2 = c ∧ 34816 ≤ c ∧ c < 35072 := by
  unfold twoS at h ⊢
  by_cases c1 : c = 34914
  · subst c1; decide
  rw [if_neg c1] at h ⊢
  by_cases c2 : c = 34916
  · subst c2; decide
  rw [if_neg c2] at h ⊢
  by_cases c3 : c = 34979
  · subst c3; decide
  rw [if_neg c3] at h ⊢
  by_cases c4 : c = 34981
  · subst c4; decide
  rw [if_neg c4] at h
  exact absurd rfl h
theorem pair_cases (p q : Int) : pairB p q = -1 ∨ (p = 202 ∧ q = 772 ∧ pairB p q = 34914) ∨ (p = 202 ∧ q = 780 ∧ pairB p q = 34916) ∨ (p = 234 ∧ q = 772 ∧ pairB p q = 34979) ∨ (p = 234 ∧ q = 780 ∧ pairB p q = 34981) := by
  unfold pairB
  by_cases h1 : p = 202
  · rw [if_pos h1]
    by_cases h2 : q = 772
    · rw [if_pos h2]; omega
    · rw [if_neg h2]
      by_cases h3 : q = 780
      · rw [if_pos h3]; omega
      · rw [if_neg h3]; omega
  · rw [if_neg h1]
    by_cases h2 : p = 234
    · rw [if_pos h2]
      by_cases h3 : q = 772
      · rw [if_pos h3]; omega
      · rw [if_neg h3]
        by_cases h4 : q = 780
        · rw [if_pos h4]; omega
        · rw [if_neg h4]; omega
    · rw [if_neg h2]; omega
theorem pair_two (p q : Int) (h : 0 ≤ pairB p q) : twoS (pairB p q) = (p, q) ∧ 34880 ≤ pairB p q ∧ pairB p q < 35071 ∧ p ≠ 0 := by
  rcases pair_cases p q with e | ⟨rfl, rfl, e⟩ | ⟨rfl, rfl, e⟩ | ⟨rfl, rfl, e⟩ | ⟨rfl, rfl, e⟩
  · omega
  all_goals
    rw [e]
    decide
theorem pair_not (p q c : Int) (h : pairB p q ≠ c) : (twoS c).1 = 0 ∨ ((twoS c).1 ≠ 0 ∧ (twoS c).1 ≠ p) ∨ ((twoS c).1 ≠ 0 ∧ (twoS c).1 = p ∧ (twoS c).2 ≠ q) := by
  by_cases h1 : (twoS c).1 = 0
  · exact .inl h1
  by_cases h2 : (twoS c).1 = p
  · by_cases h3 : (twoS c).2 = q
    · exfalso
      apply h
      have := (two_pair c h1).1
      rwa [h2, h3] at this
    · exact .inr (.inr ⟨h1, h2, h3⟩)
  · exact .inr (.inl ⟨h1, h2⟩)
/-- The signs of two bytes. -/
def signsB (a b : Nat) : List Int := if (twoS ((a * 256 + b : Nat) : Int)).1 ≠ 0 then [(twoS ((a * 256 + b : Nat) : Int)).1, (twoS ((a * 256 + b : Nat) : Int)).2] else if oneB a b ≠ 0 then [oneB a b] else []
theorem two_cases (c : Int) : twoS c = (0, 0) ∨ (c = 34914 ∧ twoS c = (202, 772)) ∨ (c = 34916 ∧ twoS c = (202, 780)) ∨ (c = 34979 ∧ twoS c = (234, 772)) ∨ (c = 34981 ∧ twoS c = (234, 780)) := by
  unfold twoS
  by_cases c1 : c = 34914
  · subst c1; decide
  rw [if_neg c1]
  by_cases c2 : c = 34916
  · subst c2; decide
  rw [if_neg c2]
  by_cases c3 : c = 34979
  · subst c3; decide
  rw [if_neg c3]
  by_cases c4 : c = 34981
  · subst c4; decide
  rw [if_neg c4]
  exact .inl rfl
/-- What two bytes' signs lead back to: the bytes, whole. -/
theorem bytes_signs (a b : Nat) (h : signsB a b ≠ []) : bytesB (signsB a b) = (((a * 256 + b : Nat) : Int), ((signsB a b).length : Int)) := by
  unfold signsB at h ⊢
  by_cases c1 : (twoS ((a * 256 + b : Nat) : Int)).1 ≠ 0
  · rw [if_pos c1]
    have h2 := two_pair _ c1
    show (if pairB _ _ < 0 then _ else _) = _
    rw [if_neg (by rw [h2.1]; omega), h2.1]
    rfl
  · rw [if_neg c1] at h ⊢
    by_cases c2 : oneB a b ≠ 0
    · rw [if_pos c2]
      have h3 := only_one a b c2
      show (if onlyB _ < 0 then _ else _) = _
      rw [if_neg (by rw [h3]; omega), h3]
      rfl
    · rw [if_neg c2] at h
      exact absurd rfl h
/-- The bytes of the first signs don't depend on what stands behind two. -/
theorem bytes_more (p q : Int) (l : List Int) : bytesB (p :: q :: l) = bytesB [p, q] := rfl
theorem bytes_first (p q : Int) (h : (bytesB [p, q]).2 ≠ 2) : bytesB [p, q] = bytesB [p] := by
  show (if pairB p q < 0 then _ else _) = _
  by_cases c1 : pairB p q < 0
  · rw [if_pos c1]; rfl
  · exfalso
    apply h
    show (if pairB p q < 0 then _ else (pairB p q, 2) : Int × Int).2 = 2
    rw [if_neg c1]
theorem bytes_bd (l : List Int) : ((bytesB l).2 = 0 ∧ (bytesB l).1 = -1) ∨ (((bytesB l).2 = 1 ∨ (bytesB l).2 = 2) ∧ (bytesB l).2 ≤ l.length ∧ 34880 ≤ (bytesB l).1 ∧ (bytesB l).1 ≤ 42494) := by
  have ho : ∀ p, ((if onlyB p < 0 then (-1, 0) else (onlyB p, 1) : Int × Int) = (-1, 0)) ∨ ((if onlyB p < 0 then (-1, 0) else (onlyB p, 1) : Int × Int) = (onlyB p, 1) ∧ 34880 ≤ onlyB p ∧ onlyB p ≤ 42494) := fun p => by
    by_cases h : onlyB p < 0
    · rw [if_pos h]; exact .inl rfl
    · rw [if_neg h]
      obtain ⟨c, h1, h2, h3, h4⟩ := one_only p (by omega)
      exact .inr ⟨rfl, by omega, by omega⟩
  match l with
  | [] => exact .inl ⟨rfl, rfl⟩
  | [p] =>
    show ((if onlyB p < 0 then (-1, 0) else (onlyB p, 1) : Int × Int).2 = 0 ∧ (if onlyB p < 0 then (-1, 0) else (onlyB p, 1) : Int × Int).1 = -1) ∨ (((if onlyB p < 0 then (-1, 0) else (onlyB p, 1) : Int × Int).2 = 1 ∨ (if onlyB p < 0 then (-1, 0) else (onlyB p, 1) : Int × Int).2 = 2) ∧ (if onlyB p < 0 then (-1, 0) else (onlyB p, 1) : Int × Int).2 ≤ _ ∧ 34880 ≤ (if onlyB p < 0 then (-1, 0) else (onlyB p, 1) : Int × Int).1 ∧ (if onlyB p < 0 then (-1, 0) else (onlyB p, 1) : Int × Int).1 ≤ 42494)
    rcases ho p with e | ⟨e, h1, h2⟩
    · rw [e]; exact .inl ⟨rfl, rfl⟩
    · rw [e]; exact .inr ⟨.inl rfl, by simp, h1, h2⟩
  | p :: q :: l =>
    have hb : bytesB (p :: q :: l) = if pairB p q < 0 then (if onlyB p < 0 then (-1, 0) else (onlyB p, 1)) else (pairB p q, 2) := rfl
    rw [hb]
    by_cases c1 : pairB p q < 0
    · rw [if_pos c1]
      rcases ho p with e | ⟨e, h1, h2⟩
      · rw [e]; exact .inl ⟨rfl, rfl⟩
      · rw [e]; exact .inr ⟨.inl rfl, by simp; omega, h1, h2⟩
    · rw [if_neg c1]
      have h := pair_two p q (by omega)
      exact .inr ⟨.inr rfl, by simp; omega, h.2.1, by omega⟩
end Go.Proofs.YtabcneomeemnpaaDoor
