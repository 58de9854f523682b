/-
  Lists that are the same; the document's text of signs.
-/
import Derived.Test.YtealeedbkjiabaaDoorPt7
namespace Go.Proofs.YtealeedbkjiabaaDoor
open Go Go.ChangeShapes Go.WideShapes Go.ChangeAt Go.RowKit
set_option linter.unusedSimpArgs false
set_option linter.unusedVariables false

theorem IsRow.ext {w w' : World} {a : Option Addr} {len cap : Nat} {zs : List Int} (h : IsRow w a len cap zs) (k : Ext w w') : IsRow w' a len cap zs := by
  obtain ⟨h1, h2⟩ := h
  refine ⟨h1, ?_⟩
  rcases h2 with h2 | ⟨x, off, rfl, hc, hcell⟩
  · exact .inl h2
  · exact .inr ⟨x, off, rfl, hc, fun j z hj => (World.cell?_of_block (k.block x (World.block_lt_of_cell? w _ (hcell j z hj)))).trans (hcell j z hj)⟩
/-- The text of signs. -/
def txt (zs : List Int) : ByteArray := ⟨(encs zs).toArray⟩
theorem txt_append (a : List Int) (p : Int) : txt a ++ signText p = txt (a ++ [p]) := by
  have h : (txt a ++ signText p).data = (txt (a ++ [p])).data := by
    rw [ByteArray.data_append]
    unfold txt signText
    rw [encs_app, encs_one]
    simp
  exact ByteArray.ext h
theorem txt_size (a : List Int) : (txt a).size ≤ 4 * a.length := encs_le a
theorem sign_size (p : Int) : (signText p).size ≤ 4 := enc_le p
end Go.Proofs.YtealeedbkjiabaaDoor
