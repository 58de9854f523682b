/-
  DERIVED. GIVEN WITH THE SEED: THE CARDS: each row of YtjlghdlbkibneaaDoorRows.lean that lists a variable, with what it lists TIED to the program's text (the seventh form; the later family's looks); each row that meets fmt, with fmt's text TOLD by the authors' own Lean function (tested against real Go, not proved from fmt's source: count such statements apart). THE CARD IS WHAT COUNTS. Prove the row's statement (the work); the ties are given (YtjlghdlbkibneaaDoorTie.lean); close each card by the builder's one call (the guide's Derived/Test/ToyasCard.lean, 'card_holds'). Laid BY PROGRAM, IN A SANDBOX (cutbox-door.mjs). By AI agents, Wed Nov 11 2026. No macro, syntax, notation, axiom, sorry.
-/
import Derived.Test.YtjlghdlbkibneaaDoorRows
import GoSem.ClaimSeven
namespace Go.Proofs.YtjlghdlbkibneaaDoor
namespace Rows

/-- THE TIED CARD OF 'diacriticlaw04.RunTables'. -/
def runTablesCard : Claim7 := { stood := { row := runTablesRow, standIns := [], harness := (true, "788e3dc7f155257c74efb29be2b66c28754801408c84bde41fe41b6c67aab256"), looks := false }, kinds := [], alts := [], laidByText := true, laidKinds := [.data, .pinned], laidTests := true, laidLooks := .later }
def RunTablesCardSaid : Prop := Claim7.holds Tryd.pinned (.plain (OpenSpec.ofChange runTablesSpec)) runTablesCard

/-- THE TIED CARD OF 'diacriticlaw04.RunLooks'. -/
def runLooksCard : Claim7 := { stood := { row := runLooksRow, standIns := [], harness := (true, "788e3dc7f155257c74efb29be2b66c28754801408c84bde41fe41b6c67aab256"), looks := false }, kinds := [], alts := [], laidByText := true, laidKinds := [.data, .pinned], laidTests := true, laidLooks := .later }
def RunLooksCardSaid : Prop := Claim7.holds Tryd.pinned (.plain (OpenSpec.ofChange runLooksSpec)) runLooksCard

/-- THE TIED CARD OF 'diacriticlaw04.RunOvers'. -/
def runOversCard : Claim7 := { stood := { row := runOversRow, standIns := [], harness := (true, "788e3dc7f155257c74efb29be2b66c28754801408c84bde41fe41b6c67aab256"), looks := false }, kinds := [], alts := [], laidByText := true, laidKinds := [.data, .pinned], laidTests := true, laidLooks := .later }
def RunOversCardSaid : Prop := Claim7.holds Tryd.pinned (.plain (OpenSpec.ofChange runOversSpec)) runOversCard

/-- THE TIED CARD OF 'diacriticlaw04.RunBack'. -/
def runBackCard : Claim7 := { stood := { row := runBackRow, standIns := [], harness := (true, "788e3dc7f155257c74efb29be2b66c28754801408c84bde41fe41b6c67aab256"), looks := false }, kinds := [], alts := [], laidByText := true, laidKinds := [.data, .pinned], laidTests := true, laidLooks := .later }
def RunBackCardSaid : Prop := Claim7.holds Tryd.pinned (.plain (OpenSpec.ofChange runBackSpec)) runBackCard

/-- THE TIED CARD OF 'diacriticlaw05.SingleSets'. -/
def singleSetsCard : Claim7 := { stood := { row := singleSetsRow, standIns := [], harness := (true, "788e3dc7f155257c74efb29be2b66c28754801408c84bde41fe41b6c67aab256"), looks := false }, kinds := [], alts := [], laidByText := true, laidKinds := [.data, .pinned], laidTests := true, laidLooks := .later }
def SingleSetsCardSaid : Prop := Claim7.holds Tryd.pinned (.plain (OpenSpec.ofChange singleSetsSpec)) singleSetsCard

/-- THE TIED CARD OF 'diacriticlaw05.SingleReads'. -/
def singleReadsCard : Claim7 := { stood := { row := singleReadsRow, standIns := [], harness := (true, "788e3dc7f155257c74efb29be2b66c28754801408c84bde41fe41b6c67aab256"), looks := false }, kinds := [], alts := [], laidByText := true, laidKinds := [.data, .pinned], laidTests := true, laidLooks := .later }
def SingleReadsCardSaid : Prop := Claim7.holds Tryd.pinned (.plain (OpenSpec.ofChange singleReadsSpec)) singleReadsCard

/-- THE TIED CARD OF 'diacriticlaw05.SingleWrites'. -/
def singleWritesCard : Claim7 := { stood := { row := singleWritesRow, standIns := [], harness := (true, "788e3dc7f155257c74efb29be2b66c28754801408c84bde41fe41b6c67aab256"), looks := false }, kinds := [], alts := [], laidByText := true, laidKinds := [.data, .pinned], laidTests := true, laidLooks := .later }
def SingleWritesCardSaid : Prop := Claim7.holds Tryd.pinned (.plain (OpenSpec.ofChange singleWritesSpec)) singleWritesCard

/-- THE TIED CARD OF 'diacriticlaw05.SingleParts'. -/
def singlePartsCard : Claim7 := { stood := { row := singlePartsRow, standIns := [], harness := (true, "788e3dc7f155257c74efb29be2b66c28754801408c84bde41fe41b6c67aab256"), looks := false }, kinds := [], alts := [], laidByText := true, laidKinds := [.data, .pinned], laidTests := true, laidLooks := .later }
def SinglePartsCardSaid : Prop := Claim7.holds Tryd.pinned (.plain (OpenSpec.ofChange singlePartsSpec)) singlePartsCard

/-- THE TIED CARD OF 'diacriticlaw05.SingleNone'. -/
def singleNoneCard : Claim7 := { stood := { row := singleNoneRow, standIns := [], harness := (true, "788e3dc7f155257c74efb29be2b66c28754801408c84bde41fe41b6c67aab256"), looks := false }, kinds := [], alts := [], laidByText := true, laidKinds := [.data, .pinned], laidTests := true, laidLooks := .later }
def SingleNoneCardSaid : Prop := Claim7.holds Tryd.pinned (.plain (OpenSpec.ofChange singleNoneSpec)) singleNoneCard

/-- THE SECOND FORM's CARD OF 'diacriticlaw04.RunTables'. -/
def runTablesUptoCard : Claim7 := { stood := { row := runTablesUptoRow, standIns := [], harness := (true, "788e3dc7f155257c74efb29be2b66c28754801408c84bde41fe41b6c67aab256"), looks := false }, kinds := [], alts := [], laidByText := true, laidKinds := [.data, .pinned], laidTests := true, laidLooks := .later }
def RunTablesUptoCardSaid : Prop := Claim7.holds Tryd.pinned (.plain (OpenSpec.upto runTablesSpec)) runTablesUptoCard

/-- THE SECOND FORM's CARD OF 'diacriticlaw04.RunLooks'. -/
def runLooksUptoCard : Claim7 := { stood := { row := runLooksUptoRow, standIns := [], harness := (true, "788e3dc7f155257c74efb29be2b66c28754801408c84bde41fe41b6c67aab256"), looks := false }, kinds := [], alts := [], laidByText := true, laidKinds := [.data, .pinned], laidTests := true, laidLooks := .later }
def RunLooksUptoCardSaid : Prop := Claim7.holds Tryd.pinned (.plain (OpenSpec.upto runLooksSpec)) runLooksUptoCard

/-- THE SECOND FORM's CARD OF 'diacriticlaw04.RunOvers'. -/
def runOversUptoCard : Claim7 := { stood := { row := runOversUptoRow, standIns := [], harness := (true, "788e3dc7f155257c74efb29be2b66c28754801408c84bde41fe41b6c67aab256"), looks := false }, kinds := [], alts := [], laidByText := true, laidKinds := [.data, .pinned], laidTests := true, laidLooks := .later }
def RunOversUptoCardSaid : Prop := Claim7.holds Tryd.pinned (.plain (OpenSpec.upto runOversSpec)) runOversUptoCard

/-- THE SECOND FORM's CARD OF 'diacriticlaw04.RunBack'. -/
def runBackUptoCard : Claim7 := { stood := { row := runBackUptoRow, standIns := [], harness := (true, "788e3dc7f155257c74efb29be2b66c28754801408c84bde41fe41b6c67aab256"), looks := false }, kinds := [], alts := [], laidByText := true, laidKinds := [.data, .pinned], laidTests := true, laidLooks := .later }
def RunBackUptoCardSaid : Prop := Claim7.holds Tryd.pinned (.plain (OpenSpec.upto runBackSpec)) runBackUptoCard

/-- THE SECOND FORM's CARD OF 'diacriticlaw05.SingleSets'. -/
def singleSetsUptoCard : Claim7 := { stood := { row := singleSetsUptoRow, standIns := [], harness := (true, "788e3dc7f155257c74efb29be2b66c28754801408c84bde41fe41b6c67aab256"), looks := false }, kinds := [], alts := [], laidByText := true, laidKinds := [.data, .pinned], laidTests := true, laidLooks := .later }
def SingleSetsUptoCardSaid : Prop := Claim7.holds Tryd.pinned (.plain (OpenSpec.upto singleSetsSpec)) singleSetsUptoCard

/-- THE SECOND FORM's CARD OF 'diacriticlaw05.SingleReads'. -/
def singleReadsUptoCard : Claim7 := { stood := { row := singleReadsUptoRow, standIns := [], harness := (true, "788e3dc7f155257c74efb29be2b66c28754801408c84bde41fe41b6c67aab256"), looks := false }, kinds := [], alts := [], laidByText := true, laidKinds := [.data, .pinned], laidTests := true, laidLooks := .later }
def SingleReadsUptoCardSaid : Prop := Claim7.holds Tryd.pinned (.plain (OpenSpec.upto singleReadsSpec)) singleReadsUptoCard

/-- THE SECOND FORM's CARD OF 'diacriticlaw05.SingleWrites'. -/
def singleWritesUptoCard : Claim7 := { stood := { row := singleWritesUptoRow, standIns := [], harness := (true, "788e3dc7f155257c74efb29be2b66c28754801408c84bde41fe41b6c67aab256"), looks := false }, kinds := [], alts := [], laidByText := true, laidKinds := [.data, .pinned], laidTests := true, laidLooks := .later }
def SingleWritesUptoCardSaid : Prop := Claim7.holds Tryd.pinned (.plain (OpenSpec.upto singleWritesSpec)) singleWritesUptoCard

/-- THE SECOND FORM's CARD OF 'diacriticlaw05.SingleParts'. -/
def singlePartsUptoCard : Claim7 := { stood := { row := singlePartsUptoRow, standIns := [], harness := (true, "788e3dc7f155257c74efb29be2b66c28754801408c84bde41fe41b6c67aab256"), looks := false }, kinds := [], alts := [], laidByText := true, laidKinds := [.data, .pinned], laidTests := true, laidLooks := .later }
def SinglePartsUptoCardSaid : Prop := Claim7.holds Tryd.pinned (.plain (OpenSpec.upto singlePartsSpec)) singlePartsUptoCard

/-- THE SECOND FORM's CARD OF 'diacriticlaw05.SingleNone'. -/
def singleNoneUptoCard : Claim7 := { stood := { row := singleNoneUptoRow, standIns := [], harness := (true, "788e3dc7f155257c74efb29be2b66c28754801408c84bde41fe41b6c67aab256"), looks := false }, kinds := [], alts := [], laidByText := true, laidKinds := [.data, .pinned], laidTests := true, laidLooks := .later }
def SingleNoneUptoCardSaid : Prop := Claim7.holds Tryd.pinned (.plain (OpenSpec.upto singleNoneSpec)) singleNoneUptoCard
end Rows
end Go.Proofs.YtjlghdlbkibneaaDoor
