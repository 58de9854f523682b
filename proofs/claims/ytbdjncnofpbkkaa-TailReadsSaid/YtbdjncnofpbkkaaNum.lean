/-
  Plain lemmas on numbers of bytes: nothing of the program.
-/
import Derived.Laws.Bits64b
import Derived.Laws.BitsAllLaws
import Derived.IntWalk
import Derived.RowKit
namespace Go.Proofs.Ytbdjncnofpbkkaa
open Go Go.RowKit
set_option linter.unusedSimpArgs false
set_option linter.unusedVariables false

/-- A number of bytes, the highest first. -/
def beN : List UInt8 → Nat := fun l => l.foldl (fun n c => n * 256 + c.toNat) 0
theorem beN_snoc (l : List UInt8) (c : UInt8) : beN (l ++ [c]) = beN l * 256 + c.toNat := by simp [beN, List.foldl_append]
theorem snoc_ind {P : List UInt8 → Prop} (h0 : P []) (h1 : ∀ l c, P l → P (l ++ [c])) (l : List UInt8) : P l := by
  have : ∀ n, ∀ l : List UInt8, l.length = n → P l := by
    intro n
    induction n with
    | zero => intro l hl; have := List.length_eq_zero_iff.1 hl; subst this; exact h0
    | succ n ih =>
      intro l hl
      have hne : l ≠ [] := by rintro rfl; simp at hl
      rw [← List.dropLast_concat_getLast hne]
      exact h1 _ _ (ih _ (by simp [hl]))
  exact this _ l rfl
theorem beN_lt (l : List UInt8) : beN l < 256 ^ l.length := by
  refine snoc_ind (P := fun l => beN l < 256 ^ l.length) ?_ ?_ l
  · simp [beN]
  · intro l c ih
    rw [beN_snoc, List.length_append, List.length_singleton, Nat.pow_succ]
    have := c.toNat_lt
    omega
theorem take_snoc (s : ByteArray) (k : Nat) (h : k < s.size) : s.data.toList.take (k + 1) = s.data.toList.take k ++ [s[k]] := by
  rw [List.take_succ_eq_append_getElem (by simpa using h)]; rfl

/-- A number of bytes, the lowest first. -/
def leN : List UInt8 → Nat
  | [] => 0
  | c :: l => c.toNat + 256 * leN l
theorem leN_snoc (l : List UInt8) (c : UInt8) : leN (l ++ [c]) = leN l + c.toNat * 256 ^ l.length := by
  induction l with
  | nil => simp [leN]
  | cons a l ih =>
    simp only [List.cons_append, leN, ih, List.length_cons, Nat.pow_succ]
    rw [Nat.mul_add, Nat.add_assoc]
    congr 2
    rw [Nat.mul_comm 256, Nat.mul_assoc]
theorem leN_lt (l : List UInt8) : leN l < 256 ^ l.length := by
  induction l with
  | nil => simp [leN]
  | cons a l ih =>
    simp only [leN, List.length_cons, Nat.pow_succ]
    have := a.toNat_lt
    omega
theorem leN_rev (l : List UInt8) : leN l = beN l.reverse := by
  induction l with
  | nil => rfl
  | cons a l ih => rw [List.reverse_cons, beN_snoc, ← ih, leN]; omega

theorem pow_le8 {k : Nat} (h : k ≤ 8) : 256 ^ k ≤ 18446744073709551616 := by
  have := Nat.pow_le_pow_right (n := 256) (by omega) h
  simpa using this
theorem pow_le7 {k : Nat} (h : k ≤ 7) : 256 ^ k ≤ 72057594037927936 := by
  have := Nat.pow_le_pow_right (n := 256) (by omega) h
  simpa using this
theorem or_be (a c : Nat) (ha : a < 72057594037927936) (hc : c < 256) :
    bits .or .u64 (IntKind.u64.wrap ((a : Int) * 256)) (IntKind.u64.wrap (c : Int)) = ((a * 256 + c : Nat) : Int) := by
  rw [IntWalk.u64_in _ (by omega), IntWalk.u64_in _ (by omega)]
  have h := bits_or_u64_nat (a * 256) c (by omega) (by omega)
  have e : ((a * 256 : Nat) : Int) = (a : Int) * 256 := by omega
  rw [e] at h
  rw [h]
  congr 1
  have := Nat.shiftLeft_add_eq_or_of_lt (b := c) (i := 8) (by omega) a
  rw [Nat.shiftLeft_eq] at this
  exact this.symm
theorem be_step (s : ByteArray) (k : Nat) (h : k < s.size) (h8 : s.size ≤ 8) :
    bits .or .u64 (IntKind.u64.wrap ((beN (s.data.toList.take k) : Int) * 256)) (IntKind.u64.wrap (s[k].toNat : Int)) = (beN (s.data.toList.take (k + 1)) : Int) := by
  rw [take_snoc s k h, beN_snoc]
  refine or_be _ _ ?_ (UInt8.toNat_lt _)
  have h1 := beN_lt (s.data.toList.take k)
  have h2 : (s.data.toList.take k).length = k := by simp; omega
  rw [h2] at h1
  exact Nat.lt_of_lt_of_le h1 (pow_le7 (by omega))
theorem or_le (a c k : Nat) (hk : k < 8) (ha : a < 256 ^ k) (hc : c < 256) :
    bits .or .u64 (a : Int) ((c * 256 ^ k : Nat) : Int) = ((a + c * 256 ^ k : Nat) : Int) := by
  have h8 := pow_le8 (k := k + 1) (by omega)
  have h7 := pow_le8 (k := k) (by omega)
  have hlt : c * 256 ^ k < 18446744073709551616 := by
    rw [Nat.pow_succ] at h8
    have : (c + 1) * 256 ^ k ≤ 256 * 256 ^ k := Nat.mul_le_mul_right _ (by omega)
    have h0 : 0 < 256 ^ k := Nat.pow_pos (by omega)
    rw [Nat.add_mul] at this
    omega
  rw [bits_or_u64_nat _ _ (by omega) hlt]
  congr 1
  have e : 256 ^ k = 2 ^ (8 * k) := by rw [Nat.pow_mul]
  have := Nat.shiftLeft_add_eq_or_of_lt (b := a) (i := 8 * k) (by rw [← e]; exact ha) c
  rw [Nat.shiftLeft_eq, ← e] at this
  rw [Nat.or_comm, ← this, Nat.add_comm]
theorem le_step (s : ByteArray) (k : Nat) (h : k < s.size) (h8 : s.size ≤ 8) :
    bits .or .u64 (leN (s.data.toList.take k) : Int) (IntKind.u64.wrap (IntKind.u64.wrap (s[k].toNat : Int) * 2 ^ (8 * k))) = (leN (s.data.toList.take (k + 1)) : Int) := by
  have hc := UInt8.toNat_lt s[k]
  generalize hq : s[k] = q at hc ⊢
  have hk8 := pow_le8 (k := k + 1) (by omega)
  have hmul : q.toNat * 256 ^ k < 18446744073709551616 := by
    rw [Nat.pow_succ] at hk8
    have : (q.toNat + 1) * 256 ^ k ≤ 256 * 256 ^ k := Nat.mul_le_mul_right _ (by omega)
    have h0 : 0 < 256 ^ k := Nat.pow_pos (by omega)
    rw [Nat.add_mul] at this
    omega
  have e : (q.toNat : Int) * 2 ^ (8 * k) = ((q.toNat * 256 ^ k : Nat) : Int) := by
    rw [Int.pow_mul]
    simp
  have e0 : IntKind.u64.wrap (q.toNat : Int) = q.toNat := IntWalk.u64_in _ (by omega)
  have e1 : IntKind.u64.wrap ((q.toNat * 256 ^ k : Nat) : Int) = ((q.toNat * 256 ^ k : Nat) : Int) := IntWalk.u64_in _ (by omega)
  rw [e0, e, e1, take_snoc s k h, leN_snoc, hq]
  have h1 := leN_lt (s.data.toList.take k)
  have h2 : (s.data.toList.take k).length = k := by simp; omega
  rw [h2] at h1 ⊢
  exact or_le _ _ _ (by omega) h1 hc
end Go.Proofs.Ytbdjncnofpbkkaa
