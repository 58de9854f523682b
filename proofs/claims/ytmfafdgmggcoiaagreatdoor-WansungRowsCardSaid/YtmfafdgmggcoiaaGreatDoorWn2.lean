/-
  The document's answers of layer 7 (1): digits; is a syllable in the rows.
-/
import Derived.Test.YtmfafdgmggcoiaaGreatDoorWn1
import Derived.Test.YtmfafdgmggcoiaaGreatDoorBase
import Derived.IntWalk
namespace Go.Proofs.YtmfafdgmggcoiaaGreatDoor
open Go Go.ChangeShapes Go.WideShapes Go.ChangeAt Go.RowKit
set_option linter.unusedSimpArgs false
set_option linter.unusedVariables false

/-- A digit of the members; its byte; all of them. -/
def digM (j : Nat) : Nat := memM / 16 ^ (j / 7 * 7 + 6 - j % 7) % 16
def digB (d : Nat) : UInt8 := if d < 10 then (48 + d).toUInt8 else (87 + d).toUInt8
def memT (n : Nat) : ByteArray := ⟨⟨(List.range n).map fun j => digB (digM j)⟩⟩
def digU (u : UInt8) : Int := if 97 ≤ (u.toNat : Int) then (u.toNat : Int) - 97 + 10 else (u.toNat : Int) - 48
theorem digU_B : ∀ d : Fin 16, digU (digB d.val) = (d.val : Int) := by decide +kernel
theorem memT_at (n j : Nat) (h : j < (memT n).size) : digU ((memT n)[j]'h) = (digM j : Int) := by
  have e : (memT n)[j]'h = digB (digM j) := by
    simp only [memT, ByteArray.getElem_eq_getElem_data, List.getElem_toArray, List.getElem_map, List.getElem_range]
  rw [e]
  exact digU_B ⟨digM j, Nat.mod_lt _ (by decide)⟩
set_option maxRecDepth 100000 in
theorem inM_dig (n : Nat) (h : n < 11172) : inM n = (digM (n / 28 * 7 + 6 - n % 28 / 4) / 2 ^ (n % 4) % 2 == 1) := by
  unfold inM digM
  have e1 : (n / 28 * 7 + 6 - n % 28 / 4) / 7 * 7 + 6 - (n / 28 * 7 + 6 - n % 28 / 4) % 7 = n / 4 := by omega
  rw [e1]
  have e2 : 2 ^ n = 16 ^ (n / 4) * 2 ^ (n % 4) := by
    rw [show (16 : Nat) = 2 ^ 4 from rfl, ← Nat.pow_mul, ← Nat.pow_add]
    congr 1
    omega
  rw [e2, ← Nat.div_div_eq_div_mul]
  generalize memM / 16 ^ (n / 4) = q
  have hk : n % 4 < 4 := Nat.mod_lt _ (by decide)
  have e3 : q / 2 ^ (n % 4) % 2 = q % 16 / 2 ^ (n % 4) % 2 := by
    have : n % 4 = 0 ∨ n % 4 = 1 ∨ n % 4 = 2 ∨ n % 4 = 3 := by omega
    rcases this with h | h | h | h <;> rw [h] <;> omega
  rw [e3]
end Go.Proofs.YtmfafdgmggcoiaaGreatDoor
