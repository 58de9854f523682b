/-
  Two bytes as a text, by string([]byte{.., ..}).
-/
import Derived.Test.YtabcneomeemnpaaDoorOcB
import Derived.Test.YtabcneomeemnpaaDoorPtA
namespace Go.Proofs.YtabcneomeemnpaaDoor
open Go Go.ChangeShapes Go.WideShapes Go.ChangeAt Go.RowKit
set_option linter.unusedSimpArgs false
set_option linter.unusedVariables false

theorem lit_uv (u v : UInt8) (w : World) : (convert 31 9 (.slice (some ⟨w.heap.size, 0, none⟩) 2 2)).run Tryd.prog (w.alloc (.cells #[.int .u8 u.toNat, .int .u8 v.toNat] 5)) = .ok (.string ⟨#[u, v]⟩) (w.alloc (.cells #[.int .u8 u.toNat, .int .u8 v.toNat] 5)) := by
  have h := lit_string [(u.toNat : Int), (v.toNat : Int)] w
  have e : strOfNums [(u.toNat : Int), (v.toNat : Int)] = ⟨#[u, v]⟩ := by simp [strOfNums]
  rw [e] at h
  exact h
theorem lit_code (c : Nat) (h : c < 65536) : ∃ u v : UInt8, (u.toNat : Int) = (c : Int) / 256 ∧ (v.toNat : Int) = (c : Int) % 256 ∧ twoB c = ⟨#[u, v]⟩ := by
  have e1 : ((c / 256).toUInt8).toNat = c / 256 := by simp; omega
  have e2 : ((c % 256).toUInt8).toNat = c % 256 := by simp
  exact ⟨(c / 256).toUInt8, (c % 256).toUInt8, by rw [e1]; omega, by rw [e2]; omega, rfl⟩
end Go.Proofs.YtabcneomeemnpaaDoor
