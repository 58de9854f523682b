/-
  Layer 11, plainly: bytes that look like sound; what is put behind them, what is dropped.
-/
import Derived.RowKit
namespace Go.Proofs.Ytbdjncnofpbkkaa
open Go Go.RowKit
set_option linter.unusedSimpArgs false
set_option linter.unusedVariables false

/-- Does the first of some bytes look like the beginning of sound? -/
def looksU : List UInt8 → Bool
  | [] => false
  | [x] => decide (x.toNat = 255)
  | x :: y :: _ => decide (x.toNat = 255 ∧ (y.toNat = 0 ∨ 224 ≤ y.toNat))
def putU : List UInt8 → List UInt8
  | [] => []
  | x :: l => x :: (if looksU (x :: l) then 0 :: putU l else putU l)
theorem putU_cons (x : UInt8) (l : List UInt8) : putU (x :: l) = x :: (if looksU (x :: l) then 0 :: putU l else putU l) := rfl
def extraU : List UInt8 → Nat
  | [] => 0
  | x :: l => (if looksU (x :: l) then 1 else 0) + extraU l
theorem extraU_cons (x : UInt8) (l : List UInt8) : extraU (x :: l) = (if looksU (x :: l) then 1 else 0) + extraU l := rfl
def dropGo : Nat → List UInt8 → List UInt8
  | _, [] => []
  | 0, _ => []
  | n + 1, x :: l => x :: (if x.toNat = 255 ∧ l.head? = some 0 then dropGo n (l.drop 1) else dropGo n l)
def dropU (l : List UInt8) : List UInt8 := dropGo l.length l
theorem dropGo_fuel : ∀ (n m : Nat) (l : List UInt8), l.length ≤ n → l.length ≤ m → dropGo n l = dropGo m l
  | 0, 0, l, _, _ => rfl
  | 0, m + 1, l, h, _ => by
    obtain rfl : l = [] := List.eq_nil_of_length_eq_zero (by omega)
    simp [dropGo]
  | n + 1, 0, l, _, h => by
    obtain rfl : l = [] := List.eq_nil_of_length_eq_zero (by omega)
    simp [dropGo]
  | n + 1, m + 1, [], _, _ => by simp [dropGo]
  | n + 1, m + 1, x :: l, h, k => by
    simp only [List.length_cons] at h k
    have e1 := dropGo_fuel n m l (by omega) (by omega)
    have e2 := dropGo_fuel n m (l.drop 1) (by rw [List.length_drop]; omega) (by rw [List.length_drop]; omega)
    unfold dropGo
    rw [e1, e2]
theorem dropU_nil : dropU [] = [] := rfl
theorem dropU_two (x y : UInt8) (l : List UInt8) (hx : x.toNat = 255) (hy : y = 0) : dropU (x :: y :: l) = x :: dropU l := by
  show dropGo (l.length + 1 + 1) (x :: y :: l) = _
  unfold dropGo
  rw [if_pos ⟨hx, by rw [hy]; rfl⟩]
  congr 1
  exact dropGo_fuel _ _ _ (by simp) (Nat.le_refl _)
theorem dropU_one (x : UInt8) (l : List UInt8) (h : ¬ (x.toNat = 255 ∧ l.head? = some 0)) : dropU (x :: l) = x :: dropU l := by
  show dropGo (l.length + 1) (x :: l) = _
  unfold dropGo
  rw [if_neg h]
  rfl
theorem putU_head (l : List UInt8) : (putU l).head? = l.head? := by
  cases l with
  | nil => rfl
  | cons x l => rfl
/-- What was put is dropped as it was. -/
theorem drop_put : ∀ l : List UInt8, dropU (putU l) = l
  | [] => rfl
  | x :: l => by
    have ih := drop_put l
    unfold putU
    by_cases h : looksU (x :: l) = true
    · rw [if_pos h]
      have hx : x.toNat = 255 := by
        match l, h with
        | [], h => simpa [looksU] using h
        | y :: r, h => simp [looksU] at h; exact h.1
      rw [dropU_two x 0 _ hx rfl, ih]
    · rw [if_neg h]
      rw [dropU_one, ih]
      rintro ⟨hx, h0⟩
      rw [putU_head] at h0
      match l, h, h0 with
      | y :: r, h, h0 =>
        apply h
        have : y = 0 := Option.some.inj h0
        subst this
        simp [looksU, hx]
theorem put_len : ∀ l : List UInt8, (putU l).length = l.length + extraU l
  | [] => rfl
  | x :: l => by
    have ih := put_len l
    unfold putU extraU
    split <;> simp <;> omega
/-- Nothing looks so: nothing is put. -/
theorem put_clean : ∀ l : List UInt8, extraU l = 0 → putU l = l
  | [], _ => rfl
  | x :: l, h => by
    unfold extraU at h
    unfold putU
    by_cases hl : looksU (x :: l) = true
    · rw [if_pos hl] at h; omega
    · rw [if_neg hl]
      rw [if_neg hl] at h
      rw [put_clean l (by omega)]
theorem looks_app (x : UInt8) (a b : List UInt8) (h : ∀ y, (x :: a).getLast? = some y → y.toNat ≠ 255) : looksU (x :: (a ++ b)) = looksU (x :: a) := by
  match a, h with
  | [], h =>
    have hx := h x rfl
    match b with
    | [] => rfl
    | y :: r => simp [looksU, hx]
  | y :: r, h => rfl
/-- Where the first doesn't end in FF, what is put into both is put into each. -/
theorem put_app : ∀ a b : List UInt8, (∀ y, a.getLast? = some y → y.toNat ≠ 255) → putU (a ++ b) = putU a ++ putU b ∧ extraU (a ++ b) = extraU a + extraU b
  | [], b, _ => ⟨rfl, by simp [extraU]⟩
  | x :: a, b, h => by
    have ha : ∀ y, a.getLast? = some y → y.toNat ≠ 255 := fun y hy => h y (by
      cases a with
      | nil => simp at hy
      | cons z r => simpa using hy)
    obtain ⟨h1, h2⟩ := put_app a b ha
    have e := looks_app x a b h
    refine ⟨?_, ?_⟩
    · show putU (x :: (a ++ b)) = _
      rw [putU_cons, putU_cons, e, h1]
      split <;> simp
    · show extraU (x :: (a ++ b)) = _
      rw [extraU_cons, extraU_cons, e, h2]
      omega
theorem drop_app : ∀ (n : Nat) (a b : List UInt8), a.length ≤ n → (∀ y, a.getLast? = some y → y.toNat ≠ 255) → dropU (a ++ b) = dropU a ++ dropU b
  | _, [], b, _, _ => rfl
  | 0, x :: a, b, hn, _ => by simp at hn
  | n + 1, x :: a, b, hn, h => by
    simp only [List.length_cons] at hn
    by_cases hx : x.toNat = 255 ∧ a.head? = some 0
    · obtain ⟨h1, h2⟩ := hx
      match a, h2, hn, h with
      | y :: r, h2, hn, h =>
        simp only [List.length_cons] at hn
        have hy : y = 0 := Option.some.inj h2
        show dropU (x :: y :: (r ++ b)) = _
        rw [dropU_two x y _ h1 hy, dropU_two x y _ h1 hy, drop_app n r b (by omega) (fun z hz => h z (by
          cases r with
          | nil => simp at hz
          | cons q r => simpa using hz))]
        rfl
    · have hb : ¬ (x.toNat = 255 ∧ (a ++ b).head? = some 0) := by
        rintro ⟨h1, h2⟩
        match a, hx, h, h2 with
        | [], hx, h, h2 => exact h x rfl h1
        | y :: r, hx, h, h2 => exact hx ⟨h1, h2⟩
      show dropU (x :: (a ++ b)) = _
      rw [dropU_one x _ hb, dropU_one x _ hx, drop_app n a b (by omega) (fun z hz => h z (by
        cases a with
        | nil => simp at hz
        | cons q r => simpa using hz))]
      rfl
/-- Behind each FF of what was put stands a byte below E0. -/
theorem put_below : ∀ (l : List UInt8) (i : Nat) (x : UInt8), (putU l)[i]? = some x → x.toNat = 255 → ∃ y, (putU l)[i + 1]? = some y ∧ y.toNat < 224
  | [], i, x, h, _ => by simp [putU] at h
  | z :: l, i, x, h, hx => by
    have ih := put_below l
    unfold putU at h ⊢
    by_cases hl : looksU (z :: l) = true
    · rw [if_pos hl] at h ⊢
      match i, h with
      | 0, h => exact ⟨0, rfl, by decide⟩
      | 1, h =>
        simp at h
        subst h
        exact absurd hx (by decide)
      | i + 2, h => exact ih i x (by simpa using h) hx
    · rw [if_neg hl] at h ⊢
      match i, h with
      | 0, h =>
        simp at h
        subst h
        match l, hl with
        | [], hl => exact absurd (by simp [looksU, hx]) hl
        | y :: r, hl =>
          refine ⟨y, by simp [putU], ?_⟩
          simp [looksU, hx] at hl
          omega
      | i + 1, h => exact ih i x (by simpa using h) hx
theorem extra_le11 : ∀ l : List UInt8, extraU l ≤ l.length
  | [] => Nat.le_refl _
  | x :: l => by
    have := extra_le11 l
    rw [extraU_cons]
    split <;> simp <;> omega
theorem dropGo_le : ∀ (n : Nat) (l : List UInt8), (dropGo n l).length ≤ l.length
  | _, [] => by simp [dropGo]
  | 0, x :: l => by simp [dropGo]
  | n + 1, x :: l => by
    have h1 := dropGo_le n l
    have h2 := dropGo_le n (l.drop 1)
    rw [List.length_drop] at h2
    unfold dropGo
    split <;> simp only [List.length_cons] <;> omega
theorem drop_le11 (l : List UInt8) : (dropU l).length ≤ l.length := dropGo_le _ l
end Go.Proofs.Ytbdjncnofpbkkaa
