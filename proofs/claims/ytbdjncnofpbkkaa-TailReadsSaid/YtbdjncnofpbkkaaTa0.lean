/-
  Layer 12, plainly: a tail's texts and their widths; what stands up to the first byte 0; a tail's bytes, and what they are read as.
-/
import Derived.Test.YtbdjncnofpbkkaaUn1
namespace Go.Proofs.Ytbdjncnofpbkkaa
open Go Go.RowKit
set_option linter.unusedSimpArgs false
set_option linter.unusedVariables false

/-- A tail: five texts, a track, a genre. -/
structure TailZ where
  t0 : ByteArray
  t1 : ByteArray
  t2 : ByteArray
  t3 : ByteArray
  t4 : ByteArray
  track : Int
  genre : Int
/-- The text of a number. -/
def TailZ.tx (T : TailZ) (i : Int) : ByteArray := if i = 0 then T.t0 else if i = 1 then T.t1 else if i = 2 then T.t2 else if i = 3 then T.t3 else T.t4
def refA (T : TailZ) : Array Value := #[.string T.t0, .string T.t1, .string T.t2, .string T.t3, .string T.t4, .int .i64 T.track, .int .i64 T.genre]
def tailA (T : TailZ) : Array Value := #[.string T.t0, .string T.t1, .string T.t2, .string T.t3, .string T.t4, .int .u8 T.track, .int .u8 T.genre]
/-- How many bytes a text may have. -/
def widthZ (i k : Int) : Int := if i = 3 then 4 else if i = 4 ∧ k ≠ 0 then 28 else 30
theorem widthZ_bd (i k : Int) : 4 ≤ widthZ i k ∧ widthZ i k ≤ 30 := by
  unfold widthZ
  split
  · omega
  split <;> omega
/-- What stands ahead of the first byte 0. -/
def cutL : List UInt8 → List UInt8
  | [] => []
  | x :: l => if x.toNat = 0 then [] else x :: cutL l
def cutZ (s : ByteArray) : ByteArray := bsU (cutL s.data.toList)
theorem cutL_at : ∀ (l : List UInt8) (k : Nat) (x : UInt8), l[k]? = some x → x.toNat = 0 → (∀ j y, j < k → l[j]? = some y → y.toNat ≠ 0) → cutL l = l.take k
  | [], k, x, h, _, _ => by simp at h
  | z :: l, 0, x, h, hx, _ => by
    simp at h
    subst h
    unfold cutL
    rw [if_pos hx]
    rfl
  | z :: l, k + 1, x, h, hx, hj => by
    have h0 := hj 0 z (by omega) rfl
    unfold cutL
    rw [if_neg h0, cutL_at l k x (by simpa using h) hx (fun j y hjk hy => hj (j + 1) y (by omega) (by simpa using hy))]
    rfl
theorem cutL_all : ∀ (l : List UInt8), (∀ (j : Nat) (y : UInt8), l[j]? = some y → y.toNat ≠ 0) → cutL l = l
  | [], _ => rfl
  | z :: l, h => by
    unfold cutL
    rw [if_neg (h 0 z rfl), cutL_all l (fun j y hy => h (j + 1) y (by simpa using hy))]
theorem list_at (s : ByteArray) (k : Nat) (h : k < s.size) : s.data.toList[k]? = some s[k] := by
  have e := ul_at s k h
  have h2 : (s.data.toList.drop k)[0]? = some s[k] := by rw [e]; rfl
  rw [List.getElem?_drop] at h2
  simpa using h2
theorem list_some (s : ByteArray) (k : Nat) (y : UInt8) (h : s.data.toList[k]? = some y) : ∃ h : k < s.size, s[k] = y := by
  have hk : k < s.size := (List.getElem?_eq_some_iff.1 h).1
  rw [list_at s k hk] at h
  exact ⟨hk, Option.some.inj h⟩
theorem ext_list (s : ByteArray) (a b : Nat) : (s.extract a b).data.toList = (s.data.toList.drop a).take (b - a) := by
  rw [ByteArray.data_extract, Array.toList_extract]
theorem cutZ_at (s : ByteArray) (k : Nat) (h : k < s.size) (h0 : s[k].toNat = 0) (hj : ∀ j (hj : j < s.size), j < k → s[j].toNat ≠ 0) : cutZ s = s.extract 0 k := by
  symm
  apply list_bs
  rw [cutL_at _ k s[k] (list_at s k h) h0 (fun j y hjk hy => by
    obtain ⟨h1, rfl⟩ := list_some s j y hy
    exact hj j h1 hjk), ext_list]
  simp
theorem cutZ_all (s : ByteArray) (hj : ∀ j (hj : j < s.size), s[j].toNat ≠ 0) : cutZ s = s := by
  symm
  apply list_bs
  rw [cutL_all _ (fun j y hy => by
    obtain ⟨h1, rfl⟩ := list_some s j y hy
    exact hj j h1)]
theorem cutL_len : ∀ l : List UInt8, (cutL l).length ≤ l.length
  | [] => Nat.le_refl _
  | x :: l => by
    have := cutL_len l
    unfold cutL
    split <;> simp <;> omega
theorem cutZ_size (s : ByteArray) : (cutZ s).size ≤ s.size := cutL_len s.data.toList
/-- What is wrong with a tail: the error, the text's number. -/
def checkFrom (T : TailZ) : Nat → Int → Int × Int
  | 0, _ => (0, 0)
  | n + 1, i => if cutZ (T.tx i) ≠ T.tx i then (5, i) else if widthZ i T.track < (T.tx i).size then (4, i) else checkFrom T n (i + 1)
def checkZ (T : TailZ) : Int × Int := checkFrom T 5 0
/-- A text, and bytes 0 behind it. -/
def padZ (s : ByteArray) (n : Int) : ByteArray := s ++ bsU (List.replicate (n.toNat - s.size) 0)
/-- A tail's texts from a number on, as bytes, behind what stands ahead. -/
def printFrom (T : TailZ) : Nat → Int → ByteArray → ByteArray
  | 0, _, s => s
  | n + 1, i, s => printFrom T n (i + 1) (s ++ padZ (T.tx i) (widthZ i T.track))
def byteZ8 (n : Int) : ByteArray := strOfNums [n % 256]
/-- A tail's bytes. -/
def printZ (T : TailZ) : ByteArray :=
  let s := printFrom T 5 0 ⟨#[84, 65, 71]⟩
  (if T.track ≠ 0 then s ++ strOfNums [0, (T.track % 256)] else s) ++ byteZ8 T.genre
/-- Where a text stands. -/
def offZ (i : Int) : Int := if i ≤ 3 then 3 + 30 * i else 97
/-- The tail of 128 bytes. -/
def trackZ (b : ByteArray) : Int := if (b.data.toList.getD 125 0).toNat = 0 then (b.data.toList.getD 126 0).toNat else 0
def fieldZ (b : ByteArray) (i : Int) : ByteArray := cutZ (b.extract (offZ i).toNat (offZ i + widthZ i (trackZ b)).toNat)
def parseZ (b : ByteArray) : TailZ := ⟨fieldZ b 0, fieldZ b 1, fieldZ b 2, fieldZ b 3, fieldZ b 4, trackZ b, (b.data.toList.getD 127 0).toNat⟩
end Go.Proofs.Ytbdjncnofpbkkaa
