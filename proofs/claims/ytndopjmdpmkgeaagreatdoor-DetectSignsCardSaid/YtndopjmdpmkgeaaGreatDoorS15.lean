/-
  What the proof of this claim leans on (S15).
-/
import Derived.Test.YtndopjmdpmkgeaaGreatDoorS5
import Derived.ChangeMaps
import Derived.ChangeOld
import Derived.ChangeSlices
import Derived.Deep.RegionHeld3
import Derived.Deep.Slices
namespace Go.Proofs.YtndopjmdpmkgeaaGreatDoor
open Go Go.ChangeShapes Go.WideShapes Go.ChangeAt Go.RowKit
set_option linter.unusedSimpArgs false
set_option linter.unusedVariables false

/-- How far the document has come with the pieces: what is left comes to r. -/
def MadeTo (vs : List Pv) (r : List Pr × Int) (k : Nat) (cur : List Pr) : Prop := madeGo cur k (vs.drop k) = r
theorem drop_at {vs : List Pv} {k : Nat} {v : Pv} (h : vs[k]? = some v) : vs.drop k = v :: vs.drop (k + 1) := by
  obtain ⟨hlt, rfl⟩ := List.getElem?_eq_some_iff.1 h
  exact List.drop_eq_getElem_cons hlt
end Go.Proofs.YtndopjmdpmkgeaaGreatDoor
namespace Go.Proofs.YtndopjmdpmkgeaaGreatDoor
open Go Go.ChangeShapes Go.WideShapes Go.ChangeAt Go.RowKit
set_option linter.unusedSimpArgs false
set_option linter.unusedVariables false

instance : Inhabited Pv := ⟨⟨0, 0, 0, ⟨#[]⟩⟩⟩
end Go.Proofs.YtndopjmdpmkgeaaGreatDoor

namespace Go.Proofs.YtndopjmdpmkgeaaGreatDoor
open Go Go.RowKit
set_option linter.unusedSimpArgs false
set_option linter.unusedVariables false

/-- The pairs of a charset: each byte, its sign. -/
def pairsOf (t : List Int) : List Pr := (List.range 256).map fun (n : Nat) => ((n : Int), t.getD n 0)
def bytesOf (l : List Int) : ByteArray := ⟨⟨encs l⟩⟩
def koiS : ByteArray := bytesOf russL
def lineS : ByteArray := bytesOf frameL
def signS : ByteArray := bytesOf otherL
def latP : List Pv := [⟨0, 0, 256, ⟨#[]⟩⟩]
def koiP : List Pv := [⟨0, 0, 128, ⟨#[]⟩⟩, ⟨128, 0, 0, koiS⟩]
def letP5 : List Pv := [⟨164, 0, 0, ⟨#[209, 148]⟩⟩, ⟨166, 0, 0, ⟨#[209, 150, 209, 151]⟩⟩, ⟨173, 0, 0, ⟨#[210, 145]⟩⟩, ⟨180, 0, 0, ⟨#[208, 132]⟩⟩, ⟨182, 0, 0, ⟨#[208, 134, 208, 135]⟩⟩, ⟨189, 0, 0, ⟨#[210, 144]⟩⟩]
def letL5 : List Pr := [(164, 1108), (166, 1110), (167, 1111), (173, 1169), (180, 1028), (182, 1030), (183, 1031), (189, 1168)]
def cpP : List Pv := [⟨0, 0, 128, ⟨#[]⟩⟩, ⟨128, 1040, 48, ⟨#[]⟩⟩, ⟨176, 0, 0, lineS⟩, ⟨224, 1088, 16, ⟨#[]⟩⟩, ⟨240, 0, 0, signS⟩]
/-- The pairs of each of the four. -/
def tabP (c : Nat) : List Pr := pairsOf (tabZ c)
set_option maxRecDepth 100000 in
theorem lat_made : madeP latP = (tabP 0, -1) := by decide +kernel
set_option maxRecDepth 100000 in
theorem koi_made : madeP koiP = (tabP 1, -1) := by decide +kernel
set_option maxRecDepth 100000 in
theorem let_made : madeP letP5 = (letL5, -1) := by decide +kernel
set_option maxRecDepth 100000 in
theorem koiu_over : overP letL5 (tabP 1) = tabP 2 := by decide +kernel
set_option maxRecDepth 100000 in
theorem cp_made : madeP cpP = (tabP 3, -1) := by decide +kernel
end Go.Proofs.YtndopjmdpmkgeaaGreatDoor

