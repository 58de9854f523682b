/-
  Contracts of package single (1): tables of pieces of which it is sure that they may be; the four tables.
-/
import Derived.Test.YtabcneomeemnpaaDoorSc0
import Derived.Test.YtabcneomeemnpaaDoorTbH
import Derived.Test.YtabcneomeemnpaaDoorCel
namespace Go.Proofs.YtabcneomeemnpaaDoor
open Go Go.ChangeShapes Go.WideShapes Go.ChangeAt Go.RowKit
set_option linter.unusedSimpArgs false
set_option linter.unusedVariables false

/-- A list of signs whose text is told otherwise. -/
theorem list_to (f : Int) (x y : ByteArray) (w : World) (h : x = y) : Calls Tryd.prog 38 #[.int .i64 f, .string x] w fun e w' => e = .returned (.agg #[.int .i64 f, .int .i32 0, .int .i64 0, .string y]) ∧ Ext w w' := by
  subst h
  exact list_any f x w
/-- A table that a call has made: it came of the world, and is a table of these pairs. -/
def TabOut (w : World) (l : List Pr) (e : Ending) (w' : World) : Prop := ∃ v, e = .returned v ∧ IsTab w' v l ∧ Ext w w'
end Go.Proofs.YtabcneomeemnpaaDoor
