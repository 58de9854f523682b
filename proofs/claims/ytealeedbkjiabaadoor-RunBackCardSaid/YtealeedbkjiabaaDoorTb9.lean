/-
  Signs and their least codes, plainly: pairs as numbers, in order; of each sign the first.
-/
import Derived.Test.YtealeedbkjiabaaDoorTb0
namespace Go.Proofs.YtealeedbkjiabaaDoor
open Go Go.RowKit
set_option linter.unusedSimpArgs false
set_option linter.unusedVariables false

/-- A sign and its code, as a number. -/
def numZ (q : Pr) : Int := q.2 * 1048576 + q.1
/-- What one of numbers in order leaves: its sign and code, if its sign is another one than ahead of it. -/
def keepAt (zs : List Int) (i : Nat) : List Pr :=
  if i = 0 ∨ zs.getD (i - 1) 0 / 1048576 < zs.getD i 0 / 1048576 then [(zs.getD i 0 / 1048576, zs.getD i 0 % 1048576)] else []
def keepN (zs : List Int) (k : Nat) : List Pr := (List.range k).flatMap (keepAt zs)
theorem keepN_succ (zs : List Int) (k : Nat) : keepN zs (k + 1) = keepN zs k ++ keepAt zs k := by simp [keepN, List.range_succ]
/-- The signs of pairs, by rising signs, and the least code of each. -/
def RevOf (l g : List Pr) : Prop := Rising g ∧ ∀ p c : Int, (p, c) ∈ g ↔ (c, p) ∈ l ∧ ∀ c' : Int, (c', p) ∈ l → c ≤ c'
/-- All codes are below 2^20 and from 0 on, all signs from 0 on. -/
def Fit (l : List Pr) : Prop := ∀ q ∈ l, 0 ≤ q.1 ∧ q.1 < 1048576 ∧ 0 ≤ q.2 ∧ q.2 ≤ 1114111
theorem numZ_div {q : Pr} (h : 0 ≤ q.1 ∧ q.1 < 1048576) : numZ q / 1048576 = q.2 ∧ numZ q % 1048576 = q.1 := by
  unfold numZ
  omega
theorem mem_keepN {zs : List Int} {k : Nat} {q : Pr} : q ∈ keepN zs k ↔ ∃ i, i < k ∧ (i = 0 ∨ zs.getD (i - 1) 0 / 1048576 < zs.getD i 0 / 1048576) ∧ q = (zs.getD i 0 / 1048576, zs.getD i 0 % 1048576) := by
  unfold keepN
  rw [List.mem_flatMap]
  constructor
  · rintro ⟨i, hi, h⟩
    unfold keepAt at h
    split at h
    · exact ⟨i, List.mem_range.1 hi, by assumption, List.mem_singleton.1 h⟩
    · simp at h
  · rintro ⟨i, hi, h, rfl⟩
    refine ⟨i, List.mem_range.2 hi, ?_⟩
    unfold keepAt
    rw [if_pos h]
    simp
theorem getD_at {zs : List Int} {i : Nat} (h : i < zs.length) : zs.getD i 0 = zs[i] := by simp [List.getD, h]
theorem div_mono {a b : Int} (h : a ≤ b) : a / 1048576 ≤ b / 1048576 := by omega
theorem sorted_le {zs : List Int} (h : zs.Pairwise (· ≤ ·)) {i j : Nat} (hij : i ≤ j) (hj : j < zs.length) : zs.getD i 0 ≤ zs.getD j 0 := by
  rcases Nat.lt_or_eq_of_le hij with hlt | rfl
  · rw [getD_at hj, getD_at (by omega)]
    exact List.pairwise_iff_getElem.1 h i j (by omega) hj hlt
  · exact Int.le_refl _
theorem keep_rising {zs : List Int} (h : zs.Pairwise (· ≤ ·)) : ∀ k, k ≤ zs.length → Rising (keepN zs k)
  | 0, _ => Rising.nil
  | k + 1, hk => by
    rw [keepN_succ]
    refine List.pairwise_append.2 ⟨keep_rising h k (by omega), ?_, ?_⟩
    · unfold keepAt
      split
      · exact List.pairwise_singleton _ _
      · exact List.Pairwise.nil
    · intro a ha b hb
      obtain ⟨i, hi, _, rfl⟩ := mem_keepN.1 ha
      unfold keepAt at hb
      split at hb
      · rename_i hc
        obtain rfl := List.mem_singleton.1 hb
        show zs.getD i 0 / 1048576 < zs.getD k 0 / 1048576
        have h1 := div_mono (sorted_le h (i := i) (j := k - 1) (by omega) (by omega))
        rcases hc with hc | hc
        · omega
        · omega
      · simp at hb
/-- Of numbers in order that are the pairs', what is kept is the signs with their least codes. -/
theorem keep_rev {l : List Pr} {zs : List Int} (hf : Fit l) (hs : zs.Pairwise (· ≤ ·)) (hm : ∀ z, z ∈ zs ↔ ∃ q ∈ l, z = numZ q) : RevOf l (keepN zs zs.length) := by
  refine ⟨keep_rising hs _ (Nat.le_refl _), fun p c => ?_⟩
  rw [mem_keepN]
  constructor
  · rintro ⟨i, hi, hc, e⟩
    obtain ⟨q, hq, eq⟩ := (hm _).1 (List.getElem_mem hi)
    rw [← getD_at hi] at eq
    have hb := hf q hq
    have hd := numZ_div ⟨hb.1, hb.2.1⟩
    rw [eq, hd.1, hd.2] at e
    obtain ⟨rfl, rfl⟩ := Prod.mk.inj e
    refine ⟨hq, fun c' hc' => ?_⟩
    obtain ⟨j, hj, ej⟩ := List.getElem_of_mem ((hm _).2 ⟨(c', q.2), hc', rfl⟩)
    rw [← getD_at hj] at ej
    have hb2 := hf _ hc'
    simp only at hb2
    have hd2 := numZ_div (q := (c', q.2)) ⟨hb2.1, hb2.2.1⟩
    simp only at hd2
    by_cases hji : i ≤ j
    · have := sorted_le hs hji hj
      rw [ej, eq] at this
      unfold numZ at this
      simp only at this
      omega
    · exfalso
      rcases hc with hc | hc
      · omega
      · have h1 := div_mono (sorted_le hs (i := j) (j := i - 1) (by omega) (by omega))
        rw [ej, hd2.1] at h1
        rw [eq, hd.1] at hc
        omega
  · rintro ⟨hq, hle⟩
    have hb := hf _ hq
    simp only at hb
    have hd := numZ_div (q := (c, p)) ⟨hb.1, hb.2.1⟩
    simp only at hd
    -- the first place whose sign is p
    have hex : ∃ i, i < zs.length ∧ zs.getD i 0 / 1048576 = p := by
      obtain ⟨j, hj, ej⟩ := List.getElem_of_mem ((hm _).2 ⟨(c, p), hq, rfl⟩)
      exact ⟨j, hj, by rw [getD_at hj, ej]; exact hd.1⟩
    have hmin : ∀ n, (∃ i, i < n ∧ i < zs.length ∧ zs.getD i 0 / 1048576 = p) → ∃ i, i < zs.length ∧ zs.getD i 0 / 1048576 = p ∧ ∀ j, j < i → zs.getD j 0 / 1048576 ≠ p := by
      intro n
      induction n with
      | zero => rintro ⟨i, hi, _⟩; omega
      | succ n ih =>
        rintro ⟨i, hi, h1, h2⟩
        by_cases hh : ∃ i, i < n ∧ i < zs.length ∧ zs.getD i 0 / 1048576 = p
        · exact ih hh
        · have : i = n := by
            by_cases e : i = n
            · exact e
            · exact absurd ⟨i, by omega, h1, h2⟩ hh
          subst this
          exact ⟨i, h1, h2, fun j hj e => hh ⟨j, hj, by omega, e⟩⟩
    obtain ⟨i0, hi0, e0⟩ := hex
    obtain ⟨i, hi, h1, h2⟩ := hmin (i0 + 1) ⟨i0, by omega, hi0, e0⟩
    refine ⟨i, hi, ?_, ?_⟩
    · by_cases hz : i = 0
      · exact .inl hz
      · right
        have := div_mono (sorted_le hs (i := i - 1) (j := i) (by omega) hi)
        have := h2 (i - 1) (by omega)
        omega
    · obtain ⟨q, hql, eq⟩ := (hm _).1 (List.getElem_mem hi)
      rw [← getD_at hi] at eq
      have hb2 := hf q hql
      have hd2 := numZ_div ⟨hb2.1, hb2.2.1⟩
      have ep : q.2 = p := by rw [← h1, eq]; exact hd2.1.symm
      obtain ⟨j, hj, ej⟩ := List.getElem_of_mem ((hm _).2 ⟨(c, p), hq, rfl⟩)
      rw [← getD_at hj] at ej
      have hij : i ≤ j := by
        by_cases hh : i ≤ j
        · exact hh
        · exact absurd (by rw [ej]; exact hd.1) (h2 j (by omega))
      have hle2 := sorted_le hs hij hj
      rw [ej, eq] at hle2
      have h3 := hle q.1 (by rw [← ep]; exact hql)
      have h4 : c = q.1 := by
        unfold numZ at hle2
        simp only at hle2
        rw [ep] at hle2
        omega
      rw [eq, hd2.1, hd2.2, ep, h4]
theorem rev_fit {l g : List Pr} (h : RevOf l g) (hf : Fit l) : ∀ q ∈ g, 0 ≤ q.1 ∧ q.1 ≤ 1114111 ∧ 0 ≤ q.2 ∧ q.2 < 1048576 := by
  intro q hq
  have := hf _ ((h.2 q.1 q.2).1 hq).1
  simp only at this
  omega
end Go.Proofs.YtealeedbkjiabaaDoor
