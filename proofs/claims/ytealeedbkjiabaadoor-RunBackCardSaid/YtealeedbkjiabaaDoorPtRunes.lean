/-
  Plain facts: the signs of a text.
-/
import Derived.Test.YtealeedbkjiabaaDoorPtRow
namespace Go.Proofs.YtealeedbkjiabaaDoor
open Go
set_option linter.unusedSimpArgs false
set_option linter.unusedVariables false

/-- The signs of some bytes, by the decoder. -/
def runesGo : Nat → List UInt8 → List Int
  | 0, _ => []
  | n + 1, l => if l = [] then [] else ((Lib.decodeL l).1 : Int) :: runesGo n (l.drop (Lib.decodeL l).2)
def runesL (l : List UInt8) : List Int := runesGo l.length l
theorem runesGo_nil : ∀ n, runesGo n [] = []
  | 0 => rfl
  | _ + 1 => by rw [runesGo, if_pos rfl]
theorem runesGo_fuel : ∀ (n m : Nat) (l : List UInt8), l.length ≤ n → l.length ≤ m → runesGo n l = runesGo m l
  | 0, m, l, h, _ => by
    have e : l = [] := List.eq_nil_of_length_eq_zero (by omega)
    subst e
    rw [runesGo_nil, runesGo_nil]
  | n + 1, 0, l, _, h => by
    have e : l = [] := List.eq_nil_of_length_eq_zero (by omega)
    subst e
    rw [runesGo_nil, runesGo_nil]
  | n + 1, m + 1, l, h, h2 => by
    rw [runesGo, runesGo]
    by_cases e : l = []
    · rw [if_pos e, if_pos e]
    · rw [if_neg e, if_neg e]
      have h1 := Lib.decodeL_width l
      have h3 : 0 < l.length := List.length_pos_iff.2 e
      rw [runesGo_fuel n m (l.drop _) (by rw [List.length_drop]; omega) (by rw [List.length_drop]; omega)]
theorem runesL_nil : runesL [] = [] := rfl
theorem runesL_step (l : List UInt8) (h : l ≠ []) : runesL l = ((Lib.decodeL l).1 : Int) :: runesL (l.drop (Lib.decodeL l).2) := by
  have h1 := Lib.decodeL_width l
  have h3 : 0 < l.length := List.length_pos_iff.2 h
  unfold runesL
  obtain ⟨n, hn⟩ : ∃ n, l.length = n + 1 := ⟨l.length - 1, by omega⟩
  rw [hn, runesGo, if_neg h, runesGo_fuel n (l.drop _).length _ (by rw [List.length_drop]; omega) (Nat.le_refl _)]
theorem runesL_enc (p : Int) (h : isSign p = true) (t : List UInt8) : runesL (Lib.encodeRune p ++ t) = p :: runesL t := by
  have hp := (isSign_iff p).1 h
  rw [runesL_step _ (enc_ne p t), dec_enc p h t]
  simp only
  rw [List.drop_left, Int.toNat_of_nonneg (by omega)]
theorem runesL_encs : ∀ (l : List Int), allSigns l = true → runesL (encs l) = l
  | [], _ => rfl
  | p :: l, h => by
    unfold allSigns at h
    rw [List.all_cons, Bool.and_eq_true] at h
    rw [encs_cons, runesL_enc p h.1, runesL_encs l h.2]
theorem dec_sign (l : List UInt8) : isSign ((Lib.decodeL l).1 : Int) = true := by
  have h0 := (l.getD 0 0).toNat_lt
  rw [isSign_iff, Lib.decodeL_N]
  unfold Lib.decodeN
  split
  · simp only; omega
  · split
    · split
      · simp only; omega
      · simp only; omega
    · split
      · split
        · simp only; omega
        · simp only; omega
      · split
        · split
          · simp only; omega
          · simp only; omega
        · simp only; omega
theorem runesL_signs : ∀ (n : Nat) (l : List UInt8), l.length ≤ n → allSigns (runesL l) = true
  | _, [], _ => rfl
  | 0, x :: l, h => by simp at h
  | n + 1, x :: l, h => by
    have hne : x :: l ≠ [] := by simp
    have hw := Lib.decodeL_width (x :: l)
    rw [runesL_step _ hne]
    unfold allSigns
    rw [List.all_cons, dec_sign]
    exact runesL_signs n _ (by rw [List.length_drop]; omega)
theorem runesL_back : ∀ (n a : Nat) (l : List UInt8), l.length ≤ n → badL a l < 0 → encs (runesL l) = l
  | _, _, [], _, _ => rfl
  | 0, _, x :: l, h, _ => by simp at h
  | n + 1, a, x :: l, h, hb => by
    have hne : x :: l ≠ [] := by simp
    have hw := Lib.decodeL_width (x :: l)
    rw [badL_step a _ hne] at hb
    by_cases hx : (Lib.decodeL (x :: l)).1 = 65533 ∧ (Lib.decodeL (x :: l)).2 = 1
    · rw [if_pos hx] at hb; omega
    · rw [if_neg hx] at hb
      rw [runesL_step _ hne, encs_cons, Lib.encode_decode _ hne hx, runesL_back n _ _ (by rw [List.length_drop]; omega) hb, List.take_append_drop]
theorem valid_bad : ∀ (n a : Nat) (l : List UInt8), l.length ≤ n → Lib.validD l = decide (badL a l < 0)
  | _, _, [], _ => rfl
  | 0, _, x :: l, h => by simp at h
  | n + 1, a, x :: l, h => by
    have hne : x :: l ≠ [] := by simp
    have hw := Lib.decodeL_width (x :: l)
    rw [badL_step a _ hne, Lib.validD_step _ hne]
    by_cases hx : (Lib.decodeL (x :: l)).1 = 65533 ∧ (Lib.decodeL (x :: l)).2 = 1
    · rw [if_pos hx, if_pos hx]
      exact (decide_eq_false (by omega)).symm
    · rw [if_neg hx, if_neg hx]
      exact valid_bad n _ _ (by rw [List.length_drop]; omega)
theorem validS_eq (s : ByteArray) : validS s = decide (badS s < 0) := valid_bad _ 0 _ (Nat.le_refl _)
theorem count_from (s : ByteArray) : ∀ (f pos : Nat), s.size ≤ pos + f → Lib.runeCountFrom s f pos = (runesL (s.data.toList.drop pos)).length
  | f, pos, h => by
    have hsz : s.data.toList.length = s.size := rfl
    by_cases hp : pos < s.size
    · cases f with
      | zero => omega
      | succ f =>
        have hne : s.data.toList.drop pos ≠ [] := by
          intro e
          have h1 := congrArg List.length e
          rw [List.length_drop, hsz, List.length_nil] at h1
          omega
        have hw := Lib.decodeL_width (s.data.toList.drop pos)
        rw [runesL_step _ hne, List.length_cons, List.drop_drop, Lib.decodeL_drop]
        rw [Lib.decodeL_drop] at hw
        rw [← count_from s f (pos + (Utf8.decode s pos).2) (by omega)]
        simp only [Lib.runeCountFrom, hp, if_true]
        omega
    · rw [Lib.runeCountFrom_end s f pos hp, List.drop_eq_nil_of_le (by omega)]
      rfl
theorem runeCount_eq (s : ByteArray) : Lib.runeCount s = (runesL s.data.toList).length := by
  unfold Lib.runeCount
  rw [count_from s s.size 0 (by omega), List.drop_zero]
end Go.Proofs.YtealeedbkjiabaaDoor
