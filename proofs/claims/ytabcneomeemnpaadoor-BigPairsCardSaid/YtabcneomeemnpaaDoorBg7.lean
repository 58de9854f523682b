/-
  Layer 8, plainly (3): all pairs of bytes that have one sign: they rise by their codes, and no two have one sign.
-/
import Derived.Test.YtabcneomeemnpaaDoorBg5
namespace Go.Proofs.YtabcneomeemnpaaDoor
open Go Go.RowKit
set_option linter.unusedSimpArgs false
set_option linter.unusedVariables false

theorem pairsGo_mem : ∀ (k i : Nat) (x : Pr), x ∈ pairsGo k i ↔ ∃ j, i ≤ j ∧ j < i + k ∧ cellAt j ≠ 0 ∧ x = (((codeB j : Nat) : Int), cellAt j)
  | 0, i, x => by
    constructor
    · intro h; simp [pairsGo] at h
    · rintro ⟨j, h1, h2, _⟩; omega
  | k + 1, i, x => by
    unfold pairsGo
    by_cases h : cellAt i = 0
    · rw [if_pos h, pairsGo_mem k (i + 1) x]
      constructor
      · rintro ⟨j, h1, h2, h3, h4⟩
        exact ⟨j, by omega, by omega, h3, h4⟩
      · rintro ⟨j, h1, h2, h3, h4⟩
        by_cases e : j = i
        · subst e; exact absurd h h3
        · exact ⟨j, by omega, by omega, h3, h4⟩
    · rw [if_neg h, List.mem_cons, pairsGo_mem k (i + 1) x]
      constructor
      · rintro (h1 | ⟨j, h1, h2, h3, h4⟩)
        · exact ⟨i, by omega, by omega, h, h1⟩
        · exact ⟨j, by omega, by omega, h3, h4⟩
      · rintro ⟨j, h1, h2, h3, h4⟩
        by_cases e : j = i
        · subst e; exact .inl h4
        · exact .inr ⟨j, by omega, by omega, h3, h4⟩
theorem codeB_lt {i j : Nat} (h : i < j) (hj : j < 785) : codeB i < codeB j := by
  unfold codeB
  have h1 := secB8_lt (i % 157) (by omega)
  have h2 := secB8_lt (j % 157) (by omega)
  by_cases e : i / 157 = j / 157
  · rw [e]
    have : secB8 (i % 157) < secB8 (j % 157) := by
      unfold secB8
      split <;> split <;> omega
    omega
  · have : leadB (i / 157) < leadB (j / 157) := by
      have a1 : j / 157 < 5 := by omega
      have a2 : i / 157 < j / 157 := by omega
      generalize i / 157 = x at *
      generalize j / 157 = y at *
      unfold leadB
      repeat' split
      all_goals omega
    omega
theorem pairsGo_rise : ∀ (k i : Nat), i + k ≤ 785 → (pairsGo k i).Pairwise fun x y => x.1 < y.1
  | 0, _, _ => List.Pairwise.nil
  | k + 1, i, h => by
    unfold pairsGo
    by_cases hz : cellAt i = 0
    · rw [if_pos hz]
      exact pairsGo_rise k (i + 1) (by omega)
    · rw [if_neg hz]
      refine List.Pairwise.cons (fun y hy => ?_) (pairsGo_rise k (i + 1) (by omega))
      obtain ⟨j, h1, h2, h3, rfl⟩ := (pairsGo_mem k (i + 1) y).1 hy
      have := codeB_lt (i := i) (j := j) (by omega) (by omega)
      show ((codeB i : Nat) : Int) < ((codeB j : Nat) : Int)
      omega
theorem bigPairs_rise : bigPairs.Pairwise fun x y => x.1 < y.1 := pairsGo_rise 785 0 (by omega)
theorem bigPairs_mem (x : Pr) : x ∈ bigPairs ↔ ∃ j, j < 785 ∧ cellAt j ≠ 0 ∧ x = (((codeB j : Nat) : Int), cellAt j) := by
  unfold bigPairs
  rw [pairsGo_mem 785 0 x]
  constructor
  · rintro ⟨j, _, h2, h3⟩; exact ⟨j, by omega, h3⟩
  · rintro ⟨j, h2, h3⟩; exact ⟨j, by omega, by omega, h3⟩
set_option maxRecDepth 100000 in
theorem bigPairs_len : bigPairs.length = 610 := by decide +kernel
/-- Two bytes' one sign is a pair; a pair is two bytes' one sign. -/
theorem bigPairs_one (a b : Nat) (h : oneB a b ≠ 0) : (((a * 256 + b : Nat) : Int), oneB a b) ∈ bigPairs := by
  obtain ⟨i, h1, h2, h3⟩ := one_cell a b h
  exact (bigPairs_mem _).2 ⟨i, h1, by rw [h2]; exact h, by rw [h2, h3]⟩
theorem bigPairs_get {x : Pr} (h : x ∈ bigPairs) : ∃ c : Nat, x.1 = (c : Int) ∧ 34880 ≤ c ∧ c ≤ 42494 ∧ 64 ≤ c % 256 ∧ c % 256 ≤ 254 ∧ oneB (c / 256) (c % 256 : Nat) = x.2 ∧ x.2 ≠ 0 := by
  obtain ⟨i, h1, h2, rfl⟩ := (bigPairs_mem x).1 h
  have h4 := codeB_bd i h1
  obtain ⟨e1, e2⟩ := codeB_parts i h1
  have h5 := secB8_lt (i % 157) (by omega)
  refine ⟨codeB i, rfl, h4.1, h4.2, by omega, by omega, ?_, h2⟩
  rw [e1, e2, one_at _ _ (by omega), show 157 * (i / 157) + i % 157 = i from by omega]
/-- So many pairs have a lesser code; all others don't. -/
def Upto (c : Int) (k : Nat) : Prop := k ≤ 610 ∧ (∀ j x, bigPairs[j]? = some x → (j < k ↔ x.1 < c))
theorem upto_first : Upto (129 * 256 + 64) 0 := by
  refine ⟨by omega, fun j x h => ?_⟩
  obtain ⟨c, h1, h2, _⟩ := bigPairs_get (List.mem_of_getElem? h)
  omega
theorem upto_hit {a b k : Nat} (h : Upto (((a * 256 + b : Nat)) : Int) k) (hz : oneB a b ≠ 0) : k < 610 ∧ bigPairs[k]? = some (((a * 256 + b : Nat) : Int), oneB a b) ∧ Upto ((((a * 256 + b : Nat)) : Int) + 1) (k + 1) := by
  obtain ⟨i, hi⟩ := List.mem_iff_getElem?.1 (bigPairs_one a b hz)
  have hlen := bigPairs_len
  have hil : i < 610 := by have := (List.getElem?_eq_some_iff.1 hi).1; omega
  have h1 := (h.2 i _ hi)
  have hik : ¬ i < k := fun e => by have := h1.1 e; simp at this
  have hk : k < 610 := by omega
  obtain ⟨y, hy⟩ : ∃ y, bigPairs[k]? = some y := ⟨_, List.getElem?_eq_getElem (by rw [hlen]; exact hk)⟩
  have hrise : ∀ {m n : Nat} {x y : Pr}, m < n → bigPairs[m]? = some x → bigPairs[n]? = some y → x.1 < y.1 := by
    intro m n x y hmn hx hy
    obtain ⟨hm, rfl⟩ := List.getElem?_eq_some_iff.1 hx
    obtain ⟨hn, rfl⟩ := List.getElem?_eq_some_iff.1 hy
    exact List.pairwise_iff_getElem.1 bigPairs_rise m n hm hn hmn
  have e : i = k := by
    rcases Nat.lt_or_ge k i with hlt | hge
    · have h2 := hrise hlt hy hi
      have h3 := (h.2 k y hy).2 h2
      omega
    · omega
  subst e
  refine ⟨hk, hi, by omega, fun j x hx => ?_⟩
  constructor
  · intro hj
    by_cases e : j = i
    · subst e; rw [hi] at hx; cases hx; simp; omega
    · have := hrise (show j < i by omega) hx hi
      simp at this ⊢
      omega
  · intro hx2
    rcases Nat.lt_or_ge j (i + 1) with hlt | hge
    · exact hlt
    · have := hrise (show i < j by omega) hi hx
      simp at this
      omega
theorem upto_miss {a b k : Nat} (hb : b < 256) (h : Upto (((a * 256 + b : Nat)) : Int) k) (hz : oneB a b = 0) : Upto ((((a * 256 + b : Nat)) : Int) + 1) k := by
  refine ⟨h.1, fun j x hx => ?_⟩
  have h1 := h.2 j x hx
  obtain ⟨c, h2, h3, h4, h5, h6, h7, h8⟩ := bigPairs_get (List.mem_of_getElem? hx)
  have hne : x.1 ≠ ((a * 256 + b : Nat) : Int) := fun e => by
    have : c = a * 256 + b := by omega
    subst this
    rw [show (a * 256 + b) / 256 = a from by omega, show (a * 256 + b) % 256 = b from by omega, hz] at h7
    exact h8 h7.symm
  omega
theorem upto_row {a k : Nat} (h : Upto (((a * 256 + 255 : Nat)) : Int) k) : Upto ((((a + 1) * 256 + 64 : Nat)) : Int) k := by
  refine ⟨h.1, fun j x hx => ?_⟩
  have h1 := h.2 j x hx
  obtain ⟨c, h2, h3, h4, h5, h6, h7, h8⟩ := bigPairs_get (List.mem_of_getElem? hx)
  omega
theorem upto_last {k : Nat} (h : Upto (((255 * 256 + 64 : Nat)) : Int) k) : k = 610 := by
  have hlen := bigPairs_len
  rcases Nat.lt_or_ge k 610 with hlt | hge
  · exfalso
    obtain ⟨y, hy⟩ : ∃ y, bigPairs[k]? = some y := ⟨_, List.getElem?_eq_getElem (by rw [hlen]; exact hlt)⟩
    obtain ⟨c, h2, h3, h4, _⟩ := bigPairs_get (List.mem_of_getElem? hy)
    have := (h.2 k y hy).2 (by omega)
    omega
  · have := h.1
    omega
/-- Of two pairs, one ahead of the other, the signs differ. -/
theorem bigPairs_far {i j : Nat} {x y : Pr} (h : i ≠ j) (hx : bigPairs[i]? = some x) (hy : bigPairs[j]? = some y) : x.2 ≠ y.2 := by
  intro e
  obtain ⟨m, m1, m2, rfl⟩ := (bigPairs_mem x).1 (List.mem_of_getElem? hx)
  obtain ⟨n, n1, n2, rfl⟩ := (bigPairs_mem y).1 (List.mem_of_getElem? hy)
  have := cellAt_inj m1 n1 e m2
  subst this
  obtain ⟨hi, e1⟩ := List.getElem?_eq_some_iff.1 hx
  obtain ⟨hj, e2⟩ := List.getElem?_eq_some_iff.1 hy
  have hr := List.pairwise_iff_getElem.1 bigPairs_rise
  rcases Nat.lt_or_ge i j with hlt | hge
  · have := hr i j hi hj hlt
    rw [e1, e2] at this
    omega
  · have := hr j i hj hi (by omega)
    rw [e1, e2] at this
    omega
end Go.Proofs.YtabcneomeemnpaaDoor
