/-
  The document's answers of layer 7 (2): the k-th syllable in the rows, or not; how many are ahead of one; second bytes.
-/
import Derived.Test.YtmfafdgmggcoiaaGreatDoorWn2
namespace Go.Proofs.YtmfafdgmggcoiaaGreatDoor
open Go Go.ChangeShapes Go.WideShapes Go.ChangeAt Go.RowKit
set_option linter.unusedSimpArgs false
set_option linter.unusedVariables false

theorem kthZ_some {b : Bool} {k i : Nat} (h : kthM b k = some i) : kthZ b k = 44032 + (i : Int) := by
  unfold kthZ
  rw [if_neg (by omega), Int.toNat_natCast, h]
theorem kthZ_none {b : Bool} {k : Nat} (h : kthM b k = none) : kthZ b k = 0 := by
  unfold kthZ
  rw [if_neg (by omega), Int.toNat_natCast, h]
theorem kthZ_neg {b : Bool} {k : Int} (h : k < 0) : kthZ b k = 0 := if_pos h
end Go.Proofs.YtmfafdgmggcoiaaGreatDoor
