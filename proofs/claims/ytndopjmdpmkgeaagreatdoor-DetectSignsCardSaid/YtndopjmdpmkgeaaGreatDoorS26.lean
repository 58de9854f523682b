/-
  What the proof of this claim leans on (S26).
-/
import Derived.Test.YtndopjmdpmkgeaaGreatDoorS14
import Derived.Test.YtndopjmdpmkgeaaGreatDoorS25
namespace Go.Proofs.YtndopjmdpmkgeaaGreatDoor
open Go Go.RowKit
set_option linter.unusedSimpArgs false
set_option linter.unusedVariables false

theorem enc_some {p : Int} (h : isSign p = true) : (Lib.encodeRune p).length ≠ 0 := by
  have h1 := size_sign h
  have h2 : (signText p).size = (Lib.encodeRune p).length := rfl
  rw [← h2, h1]
  repeat' split
  all_goals decide
theorem txt9_some {p : Int} (h : p ≠ 0) (hs : isSign p = true) : (txt9 p).size ≠ 0 := by
  unfold txt9
  rw [if_neg h]
  exact enc_some hs
theorem txt9_none : txt9 0 = ⟨#[]⟩ := if_pos rfl
theorem sigT_none (a b : Nat) : decide (signsB a b ≠ []) = decide ((sigT a b).size ≠ 0) := by
  have h1 := sig_out a b
  have h2 := signsB_all a b
  rw [textOut_yes h2] at h1
  rw [← h1]
  congr 1
  cases hz : signsB a b with
  | nil => exact propext ⟨fun h => absurd rfl h, fun h => absurd rfl h⟩
  | cons p l =>
    rw [hz] at h2
    unfold allSigns at h2
    rw [List.all_cons, Bool.and_eq_true_iff] at h2
    have h3 := enc_some h2.1
    have h4 : (⟨(encs (p :: l)).toArray⟩ : ByteArray).size = (Lib.encodeRune p).length + (encs l).length := by
      show (encs (p :: l)).length = _
      rw [encs_cons, List.length_append]
    rw [h4]
    exact propext ⟨fun _ => by omega, fun _ => by simp⟩
theorem size0 {x : ByteArray} (h : x.size = 0) : x = ⟨#[]⟩ := by
  apply ByteArray.ext
  exact Array.eq_empty_of_size_eq_zero h
/-- What stands from a place on, and its bytes. -/
theorem from_size (s : ByteArray) (k : Nat) : (s.extract k s.size).size = s.size - k := by rw [ByteArray.size_extract]; omega
theorem from_get (s : ByteArray) (k j : Nat) (h : k + j < s.size) (h2 : j < (s.extract k s.size).size) : (s.extract k s.size)[j] = s[k + j] := by
  rw [ByteArray.getElem_extract]
theorem from_one (s : ByteArray) (k : Nat) (h : k < s.size) : (s.extract k s.size).extract 0 1 = s.extract k (k + 1) := by
  apply ByteArray.ext
  apply Array.ext'
  simp only [ByteArray.data_extract, Array.toList_extract, List.extract]
  have hz : s.data.toList.length = s.size := rfl
  rw [List.drop_zero, List.take_take, show k + 1 - k = 1 from by omega, show 1 - 0 = 1 from rfl, Nat.min_eq_left (by omega)]
end Go.Proofs.YtndopjmdpmkgeaaGreatDoor

