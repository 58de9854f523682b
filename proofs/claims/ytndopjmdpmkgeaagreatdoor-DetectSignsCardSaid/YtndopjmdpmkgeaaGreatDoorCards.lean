/-
  DERIVED. GIVEN WITH THE SEED: THE CARDS: each row of YtndopjmdpmkgeaaGreatDoorRows.lean that lists a variable, with what it lists TIED to the program's text (the seventh form; the later family's looks); each row that meets fmt, with fmt's text TOLD by the authors' own Lean function (tested against real Go, not proved from fmt's source: count such statements apart). THE CARD IS WHAT COUNTS. Prove the row's statement (the work); the ties are given (YtndopjmdpmkgeaaGreatDoorTie.lean); close each card by the builder's one call (the guide's Derived/Test/ToyasCard.lean, 'card_holds'). Laid BY PROGRAM, IN A SANDBOX (cutbox-door.mjs). By AI agents, Wed Nov 11 2026. No macro, syntax, notation, axiom, sorry.
-/
import Derived.Test.YtndopjmdpmkgeaaGreatDoorRows
import GoSem.ClaimSeven
namespace Go.Proofs.YtndopjmdpmkgeaaGreatDoor
namespace Rows

/-- THE TIED CARD OF 'diacriticlaw10.DetectScores'. -/
def detectScoresCard : Claim7 := { stood := { row := detectScoresRow, standIns := [], harness := (true, "9623ddb608eef18aa9edde4a1b7b742193f18d7c8746d1c2818024afa71d380e"), looks := true }, kinds := [], alts := [], laidByText := true, laidKinds := [.data, .data, .data, .data, .sentinel, .sentinel, .data, .data, .data, .pinned], laidTests := true, laidLooks := .later }
def DetectScoresCardSaid : Prop := Claim7.holds Tryz.pinned (.plain (OpenSpec.ofChange detectScoresSpec)) detectScoresCard

/-- THE TIED CARD OF 'diacriticlaw10.DetectGuesses'. -/
def detectGuessesCard : Claim7 := { stood := { row := detectGuessesRow, standIns := [], harness := (true, "9623ddb608eef18aa9edde4a1b7b742193f18d7c8746d1c2818024afa71d380e"), looks := true }, kinds := [], alts := [], laidByText := true, laidKinds := [.data, .data, .data, .data, .sentinel, .sentinel, .data, .data, .data, .pinned], laidTests := true, laidLooks := .later }
def DetectGuessesCardSaid : Prop := Claim7.holds Tryz.pinned (.plain (OpenSpec.ofChange detectGuessesSpec)) detectGuessesCard

/-- THE TIED CARD OF 'diacriticlaw10.DetectMarks'. -/
def detectMarksCard : Claim7 := { stood := { row := detectMarksRow, standIns := [], harness := (true, "9623ddb608eef18aa9edde4a1b7b742193f18d7c8746d1c2818024afa71d380e"), looks := true }, kinds := [], alts := [], laidByText := true, laidKinds := [.data, .data, .data, .data, .sentinel, .sentinel, .data, .data, .data, .pinned], laidTests := true, laidLooks := .later }
def DetectMarksCardSaid : Prop := Claim7.holds Tryz.pinned (.plain (OpenSpec.ofChange detectMarksSpec)) detectMarksCard

/-- THE TIED CARD OF 'diacriticlaw10.DetectResolves'. -/
def detectResolvesCard : Claim7 := { stood := { row := detectResolvesRow, standIns := [], harness := (true, "9623ddb608eef18aa9edde4a1b7b742193f18d7c8746d1c2818024afa71d380e"), looks := true }, kinds := [], alts := [], laidByText := true, laidKinds := [.data, .data, .data, .data, .sentinel, .sentinel, .data, .data, .data, .pinned], laidTests := true, laidLooks := .later }
def DetectResolvesCardSaid : Prop := Claim7.holds Tryz.pinned (.plain (OpenSpec.ofChange detectResolvesSpec)) detectResolvesCard

/-- THE TIED CARD OF 'diacriticlaw10.DetectSums'. -/
def detectSumsCard : Claim7 := { stood := { row := detectSumsRow, standIns := [], harness := (true, "9623ddb608eef18aa9edde4a1b7b742193f18d7c8746d1c2818024afa71d380e"), looks := true }, kinds := [], alts := [], laidByText := true, laidKinds := [.data, .data, .data, .data, .sentinel, .sentinel, .data, .data, .data, .pinned], laidTests := true, laidLooks := .later }
def DetectSumsCardSaid : Prop := Claim7.holds Tryz.pinned (.plain (OpenSpec.ofChange detectSumsSpec)) detectSumsCard

/-- THE TIED CARD OF 'diacriticlaw10.DetectSigns'. -/
def detectSignsCard : Claim7 := { stood := { row := detectSignsRow, standIns := [], harness := (true, "9623ddb608eef18aa9edde4a1b7b742193f18d7c8746d1c2818024afa71d380e"), looks := true }, kinds := [], alts := [], laidByText := true, laidKinds := [.data, .data, .data, .data, .sentinel, .sentinel, .data, .data, .data, .pinned], laidTests := true, laidLooks := .later }
def DetectSignsCardSaid : Prop := Claim7.holds Tryz.pinned (.plain (OpenSpec.ofChange detectSignsSpec)) detectSignsCard

/-- THE SECOND FORM's CARD OF 'diacriticlaw10.DetectScores'. -/
def detectScoresUptoCard : Claim7 := { stood := { row := detectScoresUptoRow, standIns := [], harness := (true, "9623ddb608eef18aa9edde4a1b7b742193f18d7c8746d1c2818024afa71d380e"), looks := true }, kinds := [], alts := [], laidByText := true, laidKinds := [.data, .data, .data, .data, .sentinel, .sentinel, .data, .data, .data, .pinned], laidTests := true, laidLooks := .later }
def DetectScoresUptoCardSaid : Prop := Claim7.holds Tryz.pinned (.plain (OpenSpec.upto detectScoresSpec)) detectScoresUptoCard

/-- THE SECOND FORM's CARD OF 'diacriticlaw10.DetectGuesses'. -/
def detectGuessesUptoCard : Claim7 := { stood := { row := detectGuessesUptoRow, standIns := [], harness := (true, "9623ddb608eef18aa9edde4a1b7b742193f18d7c8746d1c2818024afa71d380e"), looks := true }, kinds := [], alts := [], laidByText := true, laidKinds := [.data, .data, .data, .data, .sentinel, .sentinel, .data, .data, .data, .pinned], laidTests := true, laidLooks := .later }
def DetectGuessesUptoCardSaid : Prop := Claim7.holds Tryz.pinned (.plain (OpenSpec.upto detectGuessesSpec)) detectGuessesUptoCard

/-- THE SECOND FORM's CARD OF 'diacriticlaw10.DetectMarks'. -/
def detectMarksUptoCard : Claim7 := { stood := { row := detectMarksUptoRow, standIns := [], harness := (true, "9623ddb608eef18aa9edde4a1b7b742193f18d7c8746d1c2818024afa71d380e"), looks := true }, kinds := [], alts := [], laidByText := true, laidKinds := [.data, .data, .data, .data, .sentinel, .sentinel, .data, .data, .data, .pinned], laidTests := true, laidLooks := .later }
def DetectMarksUptoCardSaid : Prop := Claim7.holds Tryz.pinned (.plain (OpenSpec.upto detectMarksSpec)) detectMarksUptoCard

/-- THE SECOND FORM's CARD OF 'diacriticlaw10.DetectResolves'. -/
def detectResolvesUptoCard : Claim7 := { stood := { row := detectResolvesUptoRow, standIns := [], harness := (true, "9623ddb608eef18aa9edde4a1b7b742193f18d7c8746d1c2818024afa71d380e"), looks := true }, kinds := [], alts := [], laidByText := true, laidKinds := [.data, .data, .data, .data, .sentinel, .sentinel, .data, .data, .data, .pinned], laidTests := true, laidLooks := .later }
def DetectResolvesUptoCardSaid : Prop := Claim7.holds Tryz.pinned (.plain (OpenSpec.upto detectResolvesSpec)) detectResolvesUptoCard

/-- THE SECOND FORM's CARD OF 'diacriticlaw10.DetectSums'. -/
def detectSumsUptoCard : Claim7 := { stood := { row := detectSumsUptoRow, standIns := [], harness := (true, "9623ddb608eef18aa9edde4a1b7b742193f18d7c8746d1c2818024afa71d380e"), looks := true }, kinds := [], alts := [], laidByText := true, laidKinds := [.data, .data, .data, .data, .sentinel, .sentinel, .data, .data, .data, .pinned], laidTests := true, laidLooks := .later }
def DetectSumsUptoCardSaid : Prop := Claim7.holds Tryz.pinned (.plain (OpenSpec.upto detectSumsSpec)) detectSumsUptoCard

/-- THE SECOND FORM's CARD OF 'diacriticlaw10.DetectSigns'. -/
def detectSignsUptoCard : Claim7 := { stood := { row := detectSignsUptoRow, standIns := [], harness := (true, "9623ddb608eef18aa9edde4a1b7b742193f18d7c8746d1c2818024afa71d380e"), looks := true }, kinds := [], alts := [], laidByText := true, laidKinds := [.data, .data, .data, .data, .sentinel, .sentinel, .data, .data, .data, .pinned], laidTests := true, laidLooks := .later }
def DetectSignsUptoCardSaid : Prop := Claim7.holds Tryz.pinned (.plain (OpenSpec.upto detectSignsSpec)) detectSignsUptoCard
end Rows
end Go.Proofs.YtndopjmdpmkgeaaGreatDoor
