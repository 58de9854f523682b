/-
  Layer 7, plainly: the signs of the rows by rising codes; those of the lists and those of the spans.
-/
import Derived.Test.YtmfafdgmggcoiaaGreatDoorWn6
import Derived.Test.YtmfafdgmggcoiaaGreatDoorRnA
namespace Go.Proofs.YtmfafdgmggcoiaaGreatDoor
open Go Go.RowKit
set_option linter.unusedSimpArgs false
set_option linter.unusedVariables false

def codeR (i : Nat) : Nat := (161 + i / 94) * 256 + (161 + i % 94)
def rprGo : Nat → Nat → List Pr
  | 0, _ => []
  | k + 1, i => if atZ i = 0 then rprGo k (i + 1) else (((codeR i : Nat) : Int), atZ i) :: rprGo k (i + 1)
/-- All signs of the rows. -/
def rowPairs : List Pr := rprGo 1128 0
theorem rprGo_mem : ∀ (k i : Nat) (x : Pr), x ∈ rprGo k i ↔ ∃ j, i ≤ j ∧ j < i + k ∧ atZ j ≠ 0 ∧ x = (((codeR j : Nat) : Int), atZ j)
  | 0, i, x => by
    constructor
    · intro h; simp [rprGo] at h
    · rintro ⟨j, h1, h2, _⟩; omega
  | k + 1, i, x => by
    unfold rprGo
    by_cases h : atZ i = 0
    · rw [if_pos h, rprGo_mem k (i + 1) x]
      constructor
      · rintro ⟨j, h1, h2, h3, h4⟩
        exact ⟨j, by omega, by omega, h3, h4⟩
      · rintro ⟨j, h1, h2, h3, h4⟩
        by_cases e : j = i
        · subst e; exact absurd h h3
        · exact ⟨j, by omega, by omega, h3, h4⟩
    · rw [if_neg h, List.mem_cons, rprGo_mem k (i + 1) x]
      constructor
      · rintro (h1 | ⟨j, h1, h2, h3, h4⟩)
        · exact ⟨i, by omega, by omega, h, h1⟩
        · exact ⟨j, by omega, by omega, h3, h4⟩
      · rintro ⟨j, h1, h2, h3, h4⟩
        by_cases e : j = i
        · subst e; exact .inl h4
        · exact .inr ⟨j, by omega, by omega, h3, h4⟩
theorem codeR_lt {i j : Nat} (h : i < j) : codeR i < codeR j := by
  unfold codeR
  by_cases e : i / 94 = j / 94
  · rw [e]; omega
  · have : i / 94 < j / 94 := by omega
    omega
theorem rprGo_rise : ∀ (k i : Nat), (rprGo k i).Pairwise fun x y => x.1 < y.1
  | 0, _ => List.Pairwise.nil
  | k + 1, i => by
    unfold rprGo
    by_cases hz : atZ i = 0
    · rw [if_pos hz]
      exact rprGo_rise k (i + 1)
    · rw [if_neg hz]
      refine List.Pairwise.cons (fun y hy => ?_) (rprGo_rise k (i + 1))
      obtain ⟨j, h1, h2, h3, rfl⟩ := (rprGo_mem k (i + 1) y).1 hy
      have := codeR_lt (i := i) (j := j) (by omega)
      show ((codeR i : Nat) : Int) < ((codeR j : Nat) : Int)
      omega
theorem rowPairs_rise : rowPairs.Pairwise fun x y => x.1 < y.1 := rprGo_rise 1128 0
theorem rowPairs_mem (x : Pr) : x ∈ rowPairs ↔ ∃ j, j < 1128 ∧ atZ j ≠ 0 ∧ x = (((codeR j : Nat) : Int), atZ j) := by
  unfold rowPairs
  rw [rprGo_mem 1128 0 x]
  constructor
  · rintro ⟨j, _, h2, h3⟩; exact ⟨j, by omega, h3⟩
  · rintro ⟨j, h2, h3⟩; exact ⟨j, by omega, by omega, h3⟩
set_option maxRecDepth 100000 in
theorem rowPairs_len : rowPairs.length = 724 := by decide +kernel
theorem codeR_parts (i : Nat) : codeR i / 256 = 161 + i / 94 ∧ codeR i % 256 = 161 + i % 94 := by
  unfold codeR
  omega
theorem rowPairs_one (a b : Nat) (ha : 161 ≤ a) (ha2 : a ≤ 172) (hb : 161 ≤ b) (hb2 : b ≤ 254) (h : rowZ a b ≠ 0) : (((a * 256 + b : Nat) : Int), rowZ a b) ∈ rowPairs := by
  have he := atZ_of a b ha hb hb2
  refine (rowPairs_mem _).2 ⟨(a - 161) * 94 + (b - 161), by omega, by rw [he]; exact h, ?_⟩
  have e : (((a * 256 + b : Nat)) : Int) = ((codeR ((a - 161) * 94 + (b - 161)) : Nat) : Int) := by unfold codeR; omega
  rw [he, e]
theorem rowPairs_get {x : Pr} (h : x ∈ rowPairs) : ∃ c : Nat, x.1 = (c : Int) ∧ 41377 ≤ c ∧ c < 44287 ∧ 161 ≤ c % 256 ∧ c % 256 ≤ 254 ∧ rowZ (c / 256) (c % 256) = x.2 ∧ x.2 ≠ 0 := by
  obtain ⟨i, h1, h2, rfl⟩ := (rowPairs_mem x).1 h
  obtain ⟨e1, e2⟩ := codeR_parts i
  have hc : codeR i = (161 + i / 94) * 256 + (161 + i % 94) := rfl
  refine ⟨codeR i, rfl, by omega, by omega, by omega, by omega, ?_, h2⟩
  rw [e1, e2]
  rfl
/-- So many pairs have a lesser code; all others don't. -/
def Rpto (c : Int) (k : Nat) : Prop := k ≤ 724 ∧ (∀ j x, rowPairs[j]? = some x → (j < k ↔ x.1 < c))
theorem rpto_first : Rpto (161 * 256 + 161) 0 := by
  refine ⟨by omega, fun j x h => ?_⟩
  obtain ⟨c, h1, h2, _⟩ := rowPairs_get (List.mem_of_getElem? h)
  omega
theorem rpto_hit {a b k : Nat} (ha : 161 ≤ a) (ha2 : a ≤ 172) (hb : 161 ≤ b) (hb2 : b ≤ 254) (h : Rpto (((a * 256 + b : Nat)) : Int) k) (hz : rowZ a b ≠ 0) : k < 724 ∧ rowPairs[k]? = some (((a * 256 + b : Nat) : Int), rowZ a b) ∧ Rpto ((((a * 256 + b : Nat)) : Int) + 1) (k + 1) := by
  obtain ⟨i, hi⟩ := List.mem_iff_getElem?.1 (rowPairs_one a b ha ha2 hb hb2 hz)
  have hlen := rowPairs_len
  have hil : i < 724 := by have := (List.getElem?_eq_some_iff.1 hi).1; omega
  have h1 := (h.2 i _ hi)
  have hik : ¬ i < k := fun e => by have := h1.1 e; simp at this
  have hk : k < 724 := by omega
  obtain ⟨y, hy⟩ : ∃ y, rowPairs[k]? = some y := ⟨_, List.getElem?_eq_getElem (by rw [hlen]; exact hk)⟩
  have hrise : ∀ {m n : Nat} {x y : Pr}, m < n → rowPairs[m]? = some x → rowPairs[n]? = some y → x.1 < y.1 := by
    intro m n x y hmn hx hy
    obtain ⟨hm, rfl⟩ := List.getElem?_eq_some_iff.1 hx
    obtain ⟨hn, rfl⟩ := List.getElem?_eq_some_iff.1 hy
    exact List.pairwise_iff_getElem.1 rowPairs_rise m n hm hn hmn
  have e : i = k := by
    rcases Nat.lt_or_ge k i with hlt | hge
    · have h2 := hrise hlt hy hi
      have h3 := (h.2 k y hy).2 h2
      omega
    · omega
  subst e
  refine ⟨hk, hi, by omega, fun j x hx => ?_⟩
  constructor
  · intro hj
    by_cases e : j = i
    · subst e; rw [hi] at hx; cases hx; simp; omega
    · have := hrise (show j < i by omega) hx hi
      simp at this ⊢
      omega
  · intro hx2
    rcases Nat.lt_or_ge j (i + 1) with hlt | hge
    · exact hlt
    · have := hrise (show i < j by omega) hi hx
      simp at this
      omega
theorem rpto_miss {a b k : Nat} (hb : b < 256) (h : Rpto (((a * 256 + b : Nat)) : Int) k) (hz : rowZ a b = 0) : Rpto ((((a * 256 + b : Nat)) : Int) + 1) k := by
  refine ⟨h.1, fun j x hx => ?_⟩
  have h1 := h.2 j x hx
  obtain ⟨c, h2, h3, h4, h5, h6, h7, h8⟩ := rowPairs_get (List.mem_of_getElem? hx)
  have hne : x.1 ≠ ((a * 256 + b : Nat) : Int) := fun e => by
    have : c = a * 256 + b := by omega
    subst this
    rw [show (a * 256 + b) / 256 = a from by omega, show (a * 256 + b) % 256 = b from by omega, hz] at h7
    exact h8 h7.symm
  omega
theorem rpto_row {a k : Nat} (h : Rpto (((a * 256 + 255 : Nat)) : Int) k) : Rpto ((((a + 1) * 256 + 161 : Nat)) : Int) k := by
  refine ⟨h.1, fun j x hx => ?_⟩
  have h1 := h.2 j x hx
  obtain ⟨c, h2, h3, h4, h5, h6, h7, h8⟩ := rowPairs_get (List.mem_of_getElem? hx)
  omega
theorem rpto_last {k : Nat} (h : Rpto (((173 * 256 + 161 : Nat)) : Int) k) : k = 724 := by
  have hlen := rowPairs_len
  rcases Nat.lt_or_ge k 724 with hlt | hge
  · exfalso
    obtain ⟨y, hy⟩ : ∃ y, rowPairs[k]? = some y := ⟨_, List.getElem?_eq_getElem (by rw [hlen]; exact hlt)⟩
    obtain ⟨c, h2, h3, h4, _⟩ := rowPairs_get (List.mem_of_getElem? hy)
    have := (h.2 k y hy).2 (by omega)
    omega
  · have := h.1
    omega
/-- Of two pairs, one ahead of the other, the signs differ. -/
theorem rowPairs_far {i j : Nat} {x y : Pr} (h : i ≠ j) (hx : rowPairs[i]? = some x) (hy : rowPairs[j]? = some y) : x.2 ≠ y.2 := by
  intro e
  obtain ⟨m, m1, m2, rfl⟩ := (rowPairs_mem x).1 (List.mem_of_getElem? hx)
  obtain ⟨n, n1, n2, rfl⟩ := (rowPairs_mem y).1 (List.mem_of_getElem? hy)
  have := atZ_inj m1 n1 e m2
  subst this
  obtain ⟨hi, e1⟩ := List.getElem?_eq_some_iff.1 hx
  obtain ⟨hj, e2⟩ := List.getElem?_eq_some_iff.1 hy
  have hr := List.pairwise_iff_getElem.1 rowPairs_rise
  rcases Nat.lt_or_ge i j with hlt | hge
  · have := hr i j hi hj hlt
    rw [e1, e2] at this
    omega
  · have := hr j i hj hi (by omega)
    rw [e1, e2] at this
    omega
/-- Those whose first byte's row is told sign by sign; the others. -/
def inList (x : Pr) : Bool := decide (x.1 < 41728) || (decide (42496 ≤ x.1) && decide (x.1 < 42752))
def rowLs : List Pr := rowPairs.filter inList
def rowSp : List Pr := rowPairs.filter fun x => !inList x
theorem rows_both : (rowLs ++ rowSp).Perm rowPairs := List.filter_append_perm inList rowPairs
/-- The pieces. -/
def lsV : List Pv := [⟨41377, 0, 0, txt rowL1⟩, ⟨41633, 0, 0, txt rowL2⟩, ⟨42657, 0, 0, txt rowL6⟩]
def spV : List Pv := [⟨41889, 65281, 59, ⟨#[]⟩⟩, ⟨41948, 65510, 1, ⟨#[]⟩⟩, ⟨41949, 65341, 33, ⟨#[]⟩⟩, ⟨41982, 65507, 1, ⟨#[]⟩⟩, ⟨42145, 12593, 94, ⟨#[]⟩⟩, ⟨42401, 8560, 10, ⟨#[]⟩⟩, ⟨42416, 8544, 10, ⟨#[]⟩⟩, ⟨42433, 913, 17, ⟨#[]⟩⟩, ⟨42450, 931, 7, ⟨#[]⟩⟩, ⟨42465, 945, 17, ⟨#[]⟩⟩, ⟨42482, 963, 7, ⟨#[]⟩⟩, ⟨43681, 12353, 83, ⟨#[]⟩⟩, ⟨43937, 12449, 86, ⟨#[]⟩⟩, ⟨44193, 1040, 6, ⟨#[]⟩⟩, ⟨44199, 1025, 1, ⟨#[]⟩⟩, ⟨44200, 1046, 26, ⟨#[]⟩⟩, ⟨44241, 1072, 6, ⟨#[]⟩⟩, ⟨44247, 1105, 1, ⟨#[]⟩⟩, ⟨44248, 1078, 26, ⟨#[]⟩⟩]
set_option maxRecDepth 1000000 in
theorem ls_made : madeP lsV = (rowLs, -1) := by decide +kernel
set_option maxRecDepth 1000000 in
theorem sp_made : madeP spV = (rowSp, -1) := by decide +kernel
theorem ls_len : rowLs.length = 233 := by decide +kernel
theorem sp_len : rowSp.length = 491 := by decide +kernel
/-- What is put in order is the rows' signs. -/
theorem rows_sorted (ss : List Pr) (h : ss.Perm (rowLs ++ rowSp)) (hs : ss.Pairwise fun x y => x.1 ≤ y.1) : ss = rowPairs := by
  have hp : ss.Perm rowPairs := h.trans rows_both
  have hinj : ∀ x ∈ rowPairs, ∀ y ∈ rowPairs, x.1 = y.1 → x = y := by
    intro x hx y hy e
    obtain ⟨m, m1, m2, rfl⟩ := (rowPairs_mem x).1 hx
    obtain ⟨n, n1, n2, rfl⟩ := (rowPairs_mem y).1 hy
    simp only at e
    rcases Nat.lt_trichotomy m n with h | h | h
    · have := codeR_lt h; omega
    · rw [h]
    · have := codeR_lt h; omega
  have hr : rowPairs.Pairwise fun x y => x.1 ≤ y.1 := rowPairs_rise.imp (fun h => by omega)
  refine List.Perm.eq_of_pairwise (fun x y hx hy h1 h2 => ?_) hs hr hp
  exact hinj x (hp.mem_iff.1 hx) y hy (by omega)
end Go.Proofs.YtmfafdgmggcoiaaGreatDoor
