/-
  What the proof of this claim leans on (S31).
-/
import Derived.Test.YtndopjmdpmkgeaaGreatDoorS0
import Derived.Test.YtndopjmdpmkgeaaGreatDoorS5
namespace Go.Proofs.YtndopjmdpmkgeaaGreatDoor
open Go Go.RowKit
set_option linter.unusedSimpArgs false
set_option linter.unusedVariables false

/-- The pieces. -/
def lsV : List Pv := [⟨41377, 0, 0, txt rowL1⟩, ⟨41633, 0, 0, txt rowL2⟩, ⟨42657, 0, 0, txt rowL6⟩]
end Go.Proofs.YtndopjmdpmkgeaaGreatDoor

