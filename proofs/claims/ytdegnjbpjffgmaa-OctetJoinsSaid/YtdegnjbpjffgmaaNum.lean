/-
  Plain lemmas on numbers of bytes: nothing of the program.
-/
import Derived.Laws.Bits64b
import Derived.Laws.BitsAllLaws
import Derived.IntWalk
import Derived.RowKit
namespace Go.Proofs.Ytdegnjbpjffgmaa
open Go Go.RowKit
set_option linter.unusedSimpArgs false
set_option linter.unusedVariables false

/-- A number of bytes, the highest first. -/
def beN : List UInt8 → Nat := fun l => l.foldl (fun n c => n * 256 + c.toNat) 0
theorem beN_snoc (l : List UInt8) (c : UInt8) : beN (l ++ [c]) = beN l * 256 + c.toNat := by simp [beN, List.foldl_append]
theorem snoc_ind {P : List UInt8 → Prop} (h0 : P []) (h1 : ∀ l c, P l → P (l ++ [c])) (l : List UInt8) : P l := by
  have : ∀ n, ∀ l : List UInt8, l.length = n → P l := by
    intro n
    induction n with
    | zero => intro l hl; have := List.length_eq_zero_iff.1 hl; subst this; exact h0
    | succ n ih =>
      intro l hl
      have hne : l ≠ [] := by rintro rfl; simp at hl
      rw [← List.dropLast_concat_getLast hne]
      exact h1 _ _ (ih _ (by simp [hl]))
  exact this _ l rfl
theorem beN_lt (l : List UInt8) : beN l < 256 ^ l.length := by
  refine snoc_ind (P := fun l => beN l < 256 ^ l.length) ?_ ?_ l
  · simp [beN]
  · intro l c ih
    rw [beN_snoc, List.length_append, List.length_singleton, Nat.pow_succ]
    have := c.toNat_lt
    omega
theorem take_snoc (s : ByteArray) (k : Nat) (h : k < s.size) : s.data.toList.take (k + 1) = s.data.toList.take k ++ [s[k]] := by
  rw [List.take_succ_eq_append_getElem (by simpa using h)]; rfl

/-- A number of bytes, the lowest first. -/
def leN : List UInt8 → Nat
  | [] => 0
  | c :: l => c.toNat + 256 * leN l
theorem leN_snoc (l : List UInt8) (c : UInt8) : leN (l ++ [c]) = leN l + c.toNat * 256 ^ l.length := by
  induction l with
  | nil => simp [leN]
  | cons a l ih =>
    simp only [List.cons_append, leN, ih, List.length_cons, Nat.pow_succ]
    rw [Nat.mul_add, Nat.add_assoc]
    congr 2
    rw [Nat.mul_comm 256, Nat.mul_assoc]
theorem leN_lt (l : List UInt8) : leN l < 256 ^ l.length := by
  induction l with
  | nil => simp [leN]
  | cons a l ih =>
    simp only [leN, List.length_cons, Nat.pow_succ]
    have := a.toNat_lt
    omega
theorem leN_rev (l : List UInt8) : leN l = beN l.reverse := by
  induction l with
  | nil => rfl
  | cons a l ih => rw [List.reverse_cons, beN_snoc, ← ih, leN]; omega

theorem pow_le8 {k : Nat} (h : k ≤ 8) : 256 ^ k ≤ 18446744073709551616 := by
  have := Nat.pow_le_pow_right (n := 256) (by omega) h
  simpa using this
theorem pow_le7 {k : Nat} (h : k ≤ 7) : 256 ^ k ≤ 72057594037927936 := by
  have := Nat.pow_le_pow_right (n := 256) (by omega) h
  simpa using this
theorem or_be (a c : Nat) (ha : a < 72057594037927936) (hc : c < 256) :
    bits .or .u64 (IntKind.u64.wrap ((a : Int) * 256)) (IntKind.u64.wrap (c : Int)) = ((a * 256 + c : Nat) : Int) := by
  rw [IntWalk.u64_in _ (by omega), IntWalk.u64_in _ (by omega)]
  have h := bits_or_u64_nat (a * 256) c (by omega) (by omega)
  have e : ((a * 256 : Nat) : Int) = (a : Int) * 256 := by omega
  rw [e] at h
  rw [h]
  congr 1
  have := Nat.shiftLeft_add_eq_or_of_lt (b := c) (i := 8) (by omega) a
  rw [Nat.shiftLeft_eq] at this
  exact this.symm
theorem be_step (s : ByteArray) (k : Nat) (h : k < s.size) (h8 : s.size ≤ 8) :
    bits .or .u64 (IntKind.u64.wrap ((beN (s.data.toList.take k) : Int) * 256)) (IntKind.u64.wrap (s[k].toNat : Int)) = (beN (s.data.toList.take (k + 1)) : Int) := by
  rw [take_snoc s k h, beN_snoc]
  refine or_be _ _ ?_ (UInt8.toNat_lt _)
  have h1 := beN_lt (s.data.toList.take k)
  have h2 : (s.data.toList.take k).length = k := by simp; omega
  rw [h2] at h1
  exact Nat.lt_of_lt_of_le h1 (pow_le7 (by omega))
theorem or_le (a c k : Nat) (hk : k < 8) (ha : a < 256 ^ k) (hc : c < 256) :
    bits .or .u64 (a : Int) ((c * 256 ^ k : Nat) : Int) = ((a + c * 256 ^ k : Nat) : Int) := by
  have h8 := pow_le8 (k := k + 1) (by omega)
  have h7 := pow_le8 (k := k) (by omega)
  have hlt : c * 256 ^ k < 18446744073709551616 := by
    rw [Nat.pow_succ] at h8
    have : (c + 1) * 256 ^ k ≤ 256 * 256 ^ k := Nat.mul_le_mul_right _ (by omega)
    have h0 : 0 < 256 ^ k := Nat.pow_pos (by omega)
    rw [Nat.add_mul] at this
    omega
  rw [bits_or_u64_nat _ _ (by omega) hlt]
  congr 1
  have e : 256 ^ k = 2 ^ (8 * k) := by rw [Nat.pow_mul]
  have := Nat.shiftLeft_add_eq_or_of_lt (b := a) (i := 8 * k) (by rw [← e]; exact ha) c
  rw [Nat.shiftLeft_eq, ← e] at this
  rw [Nat.or_comm, ← this, Nat.add_comm]
theorem le_step (s : ByteArray) (k : Nat) (h : k < s.size) (h8 : s.size ≤ 8) :
    bits .or .u64 (leN (s.data.toList.take k) : Int) (IntKind.u64.wrap (IntKind.u64.wrap (s[k].toNat : Int) * 2 ^ (8 * k))) = (leN (s.data.toList.take (k + 1)) : Int) := by
  have hc := UInt8.toNat_lt s[k]
  generalize hq : s[k] = q at hc ⊢
  have hk8 := pow_le8 (k := k + 1) (by omega)
  have hmul : q.toNat * 256 ^ k < 18446744073709551616 := by
    rw [Nat.pow_succ] at hk8
    have : (q.toNat + 1) * 256 ^ k ≤ 256 * 256 ^ k := Nat.mul_le_mul_right _ (by omega)
    have h0 : 0 < 256 ^ k := Nat.pow_pos (by omega)
    rw [Nat.add_mul] at this
    omega
  have e : (q.toNat : Int) * 2 ^ (8 * k) = ((q.toNat * 256 ^ k : Nat) : Int) := by
    rw [Int.pow_mul]
    simp
  have e0 : IntKind.u64.wrap (q.toNat : Int) = q.toNat := IntWalk.u64_in _ (by omega)
  have e1 : IntKind.u64.wrap ((q.toNat * 256 ^ k : Nat) : Int) = ((q.toNat * 256 ^ k : Nat) : Int) := IntWalk.u64_in _ (by omega)
  rw [e0, e, e1, take_snoc s k h, leN_snoc, hq]
  have h1 := leN_lt (s.data.toList.take k)
  have h2 : (s.data.toList.take k).length = k := by simp; omega
  rw [h2] at h1 ⊢
  exact or_le _ _ _ (by omega) h1 hc
/-- A number of seven bits a byte, the highest first. -/
def sfN : List UInt8 → Nat := fun l => l.foldl (fun n c => n * 128 + c.toNat) 0
theorem sfN_snoc (l : List UInt8) (c : UInt8) : sfN (l ++ [c]) = sfN l * 128 + c.toNat := by simp [sfN, List.foldl_append]
theorem bits_or_i64_nat (a b : Nat) (ha : a < 9223372036854775808) (hb : b < 9223372036854775808) :
    bits .or .i64 (a : Int) (b : Int) = ((a ||| b : Nat) : Int) := by
  have hx : a ||| b < 2 ^ 63 := Nat.or_lt_two_pow (by omega) (by omega)
  have h1 : (BitVec.ofInt 64 (a : Int)).toNat = a := by
    rw [BitVec.ofInt_natCast, BitVec.toNat_ofNat]; exact Nat.mod_eq_of_lt (by omega)
  have h2 : (BitVec.ofInt 64 (b : Int)).toNat = b := by
    rw [BitVec.ofInt_natCast, BitVec.toNat_ofNat]; exact Nat.mod_eq_of_lt (by omega)
  show IntKind.i64.wrap ((BitVec.ofInt 64 (a : Int) ||| BitVec.ofInt 64 (b : Int)).toNat : Int) = _
  rw [BitVec.toNat_or, h1, h2, IntKind.wrap_i64]
  omega
theorem or_sf (a c : Nat) (ha : a < 4294967296) (hc : c < 128) : bits .or .i64 (wrap64 ((a : Int) * 128)) (c : Int) = ((a * 128 + c : Nat) : Int) := by
  have e0 : wrap64 ((a : Int) * 128) = ((a * 128 : Nat) : Int) := by rw [IntWalk.wrap64_in _ (by omega)]; omega
  rw [e0, bits_or_i64_nat _ _ (by omega) (by omega)]
  congr 1
  have := Nat.shiftLeft_add_eq_or_of_lt (b := c) (i := 7) (by omega) a
  rw [Nat.shiftLeft_eq] at this
  exact this.symm
theorem sfN_lt (l : List UInt8) : sfN l < 256 ^ l.length := by
  refine snoc_ind (P := fun l => sfN l < 256 ^ l.length) ?_ ?_ l
  · simp [sfN]
  · intro l c ih
    rw [sfN_snoc, List.length_append, List.length_singleton, Nat.pow_succ]
    have := c.toNat_lt
    omega
theorem sf_step (s : ByteArray) (k : Nat) (h : k < s.size) (h8 : s.size ≤ 4) (h2 : (s[k].toNat : Int) < 128) :
    bits .or .i64 (wrap64 ((sfN (s.data.toList.take k) : Int) * 128)) (s[k].toNat : Int) = (sfN (s.data.toList.take (k + 1)) : Int) := by
  rw [take_snoc s k h, sfN_snoc]
  refine or_sf _ _ ?_ (by omega)
  have h1 := sfN_lt (s.data.toList.take k)
  have h2 : (s.data.toList.take k).length = k := by simp; omega
  rw [h2] at h1
  have h3 := Nat.pow_le_pow_right (n := 256) (by omega) (show k ≤ 4 by omega)
  exact Nat.lt_of_lt_of_le h1 (by simpa using h3)
/-- How many bytes two texts have in common at their beginnings. -/
def cp : List UInt8 → List UInt8 → Nat
  | a :: l, b :: m => if a = b then cp l m + 1 else 0
  | _, _ => 0
theorem cp_le1 : ∀ l m : List UInt8, cp l m ≤ l.length
  | [], _ => by simp [cp]
  | _ :: _, [] => by simp [cp]
  | a :: l, b :: m => by
    simp only [cp]
    split
    · simpa using cp_le1 l m
    · simp
theorem cp_le2 : ∀ l m : List UInt8, cp l m ≤ m.length
  | [], _ => by simp [cp]
  | _ :: _, [] => by simp [cp]
  | a :: l, b :: m => by
    simp only [cp]
    split
    · simpa using cp_le2 l m
    · simp
theorem cp_iff : ∀ (l m : List UInt8) (k : Nat), k ≤ l.length → k ≤ m.length → (k ≤ cp l m ↔ l.take k = m.take k)
  | _, _, 0, _, _ => by simp
  | [], _, k + 1, h, _ => by simp at h
  | _ :: _, [], k + 1, _, h => by simp at h
  | a :: l, b :: m, k + 1, h1, h2 => by
    simp only [cp, List.take_succ_cons, List.cons.injEq]
    split
    · rename_i e
      have := cp_iff l m k (by simpa using h1) (by simpa using h2)
      simp [e, this]
    · rename_i e
      simp [e]
theorem cp_get : ∀ (l m : List UInt8) (k : Nat) (h1 : k < l.length) (h2 : k < m.length), k ≤ cp l m → (k + 1 ≤ cp l m ↔ l[k] = m[k])
  | [], _, k, h, _, _ => by simp at h
  | _ :: _, [], k, _, h, _ => by simp at h
  | a :: l, b :: m, 0, _, _, _ => by
    simp only [cp]
    split <;> simp_all
  | a :: l, b :: m, k + 1, h1, h2, h3 => by
    simp only [cp] at h3 ⊢
    split
    · rename_i e
      rw [if_pos e] at h3
      have := cp_get l m k (by simpa using h1) (by simpa using h2) (by omega)
      simpa using this
    · rename_i e
      rw [if_neg e] at h3
      omega
/-- How many bytes of s stand in t from place r on. -/
def cpAt (t : ByteArray) (r : Nat) (s : ByteArray) : Nat := cp (t.data.toList.drop r) s.data.toList
theorem cpAt_le (t : ByteArray) (r : Nat) (s : ByteArray) (h : r ≤ t.size) : r + cpAt t r s ≤ t.size ∧ cpAt t r s ≤ s.size := by
  have h1 := cp_le1 (t.data.toList.drop r) s.data.toList
  have h2 := cp_le2 (t.data.toList.drop r) s.data.toList
  unfold cpAt
  simp at h1 h2
  have e : t.data.size = t.size := rfl
  have e2 : s.data.size = s.size := rfl
  omega
theorem cpAt_get (t : ByteArray) (r : Nat) (s : ByteArray) (k : Nat) (h1 : r + k < t.size) (h2 : k < s.size) (h : k ≤ cpAt t r s) : k + 1 ≤ cpAt t r s ↔ t[r + k] = s[k] := by
  have h3 : k < (t.data.toList.drop r).length := by
    have e : t.data.size = t.size := rfl
    simp; omega
  have h4 : k < s.data.toList.length := h2
  have := cp_get (t.data.toList.drop r) s.data.toList k h3 h4 h
  unfold cpAt
  rw [this, List.getElem_drop]
  rfl
theorem extract_get (t : ByteArray) (r n k : Nat) (h1 : k < n) (h2 : r + n ≤ t.size) : ∀ q, q = t.extract r (r + n) → ∀ h : k < q.size, q[k] = t[r + k] := by
  rintro q rfl h
  exact ByteArray.getElem_extract h
end Go.Proofs.Ytdegnjbpjffgmaa
