/-
  DERIVED. GIVEN WITH THE SEED: THE CARDS: each row of YtdomjahijchanaaGreatDoorRows.lean that lists a variable, with what it lists TIED to the program's text (the seventh form; the later family's looks); each row that meets fmt, with fmt's text TOLD by the authors' own Lean function (tested against real Go, not proved from fmt's source: count such statements apart). THE CARD IS WHAT COUNTS. Prove the row's statement (the work); the ties are given (YtdomjahijchanaaGreatDoorTie.lean); close each card by the builder's one call (the guide's Derived/Test/ToyasCard.lean, 'card_holds'). Laid BY PROGRAM, IN A SANDBOX (cutbox-door.mjs). By AI agents, Wed Nov 11 2026. No macro, syntax, notation, axiom, sorry.
-/
import Derived.Test.YtdomjahijchanaaGreatDoorRows
import GoSem.ClaimSeven
namespace Go.Proofs.YtdomjahijchanaaGreatDoor
namespace Rows

/-- THE TIED CARD OF 'diacriticlaw09.CharsetReads'. -/
def charsetReadsCard : Claim7 := { stood := { row := charsetReadsRow, standIns := [], harness := (true, "3fa7e048fa7399e1b88f306cba6ec56515edc03530836f62f71eaf4a56e07785"), looks := true }, kinds := [], alts := [], laidByText := true, laidKinds := [.data, .data, .data, .data, .sentinel, .sentinel, .data, .data, .data, .pinned], laidTests := true, laidLooks := .later }
def CharsetReadsCardSaid : Prop := Claim7.holds Tryz.pinned (.plain (OpenSpec.ofChange charsetReadsSpec)) charsetReadsCard

/-- THE TIED CARD OF 'diacriticlaw09.CharsetWrites'. -/
def charsetWritesCard : Claim7 := { stood := { row := charsetWritesRow, standIns := [], harness := (true, "3fa7e048fa7399e1b88f306cba6ec56515edc03530836f62f71eaf4a56e07785"), looks := true }, kinds := [], alts := [], laidByText := true, laidKinds := [.data, .data, .data, .data, .sentinel, .sentinel, .data, .data, .data, .pinned], laidTests := true, laidLooks := .later }
def CharsetWritesCardSaid : Prop := Claim7.holds Tryz.pinned (.plain (OpenSpec.ofChange charsetWritesSpec)) charsetWritesCard

/-- THE TIED CARD OF 'diacriticlaw09.CharsetNames'. -/
def charsetNamesCard : Claim7 := { stood := { row := charsetNamesRow, standIns := [], harness := (true, "3fa7e048fa7399e1b88f306cba6ec56515edc03530836f62f71eaf4a56e07785"), looks := true }, kinds := [], alts := [], laidByText := true, laidKinds := [.data, .data, .data, .data, .sentinel, .sentinel, .data, .data, .data, .pinned], laidTests := true, laidLooks := .later }
def CharsetNamesCardSaid : Prop := Claim7.holds Tryz.pinned (.plain (OpenSpec.ofChange charsetNamesSpec)) charsetNamesCard

/-- THE TIED CARD OF 'diacriticlaw09.CharsetTries'. -/
def charsetTriesCard : Claim7 := { stood := { row := charsetTriesRow, standIns := [], harness := (true, "3fa7e048fa7399e1b88f306cba6ec56515edc03530836f62f71eaf4a56e07785"), looks := true }, kinds := [], alts := [], laidByText := true, laidKinds := [.data, .data, .data, .data, .sentinel, .sentinel, .data, .data, .data, .pinned], laidTests := true, laidLooks := .later }
def CharsetTriesCardSaid : Prop := Claim7.holds Tryz.pinned (.plain (OpenSpec.ofChange charsetTriesSpec)) charsetTriesCard

/-- THE TIED CARD OF 'diacriticlaw09.CharsetPlain'. -/
def charsetPlainCard : Claim7 := { stood := { row := charsetPlainRow, standIns := [], harness := (true, "3fa7e048fa7399e1b88f306cba6ec56515edc03530836f62f71eaf4a56e07785"), looks := true }, kinds := [], alts := [], laidByText := true, laidKinds := [.data, .data, .data, .data, .sentinel, .sentinel, .data, .data, .data, .pinned], laidTests := true, laidLooks := .later }
def CharsetPlainCardSaid : Prop := Claim7.holds Tryz.pinned (.plain (OpenSpec.ofChange charsetPlainSpec)) charsetPlainCard

/-- THE TIED CARD OF 'diacriticlaw09.CharsetCuts'. -/
def charsetCutsCard : Claim7 := { stood := { row := charsetCutsRow, standIns := [], harness := (true, "3fa7e048fa7399e1b88f306cba6ec56515edc03530836f62f71eaf4a56e07785"), looks := true }, kinds := [], alts := [], laidByText := true, laidKinds := [.data, .data, .data, .data, .sentinel, .sentinel, .data, .data, .data, .pinned], laidTests := true, laidLooks := .later }
def CharsetCutsCardSaid : Prop := Claim7.holds Tryz.pinned (.plain (OpenSpec.ofChange charsetCutsSpec)) charsetCutsCard

/-- THE SECOND FORM's CARD OF 'diacriticlaw09.CharsetReads'. -/
def charsetReadsUptoCard : Claim7 := { stood := { row := charsetReadsUptoRow, standIns := [], harness := (true, "3fa7e048fa7399e1b88f306cba6ec56515edc03530836f62f71eaf4a56e07785"), looks := true }, kinds := [], alts := [], laidByText := true, laidKinds := [.data, .data, .data, .data, .sentinel, .sentinel, .data, .data, .data, .pinned], laidTests := true, laidLooks := .later }
def CharsetReadsUptoCardSaid : Prop := Claim7.holds Tryz.pinned (.plain (OpenSpec.upto charsetReadsSpec)) charsetReadsUptoCard

/-- THE SECOND FORM's CARD OF 'diacriticlaw09.CharsetWrites'. -/
def charsetWritesUptoCard : Claim7 := { stood := { row := charsetWritesUptoRow, standIns := [], harness := (true, "3fa7e048fa7399e1b88f306cba6ec56515edc03530836f62f71eaf4a56e07785"), looks := true }, kinds := [], alts := [], laidByText := true, laidKinds := [.data, .data, .data, .data, .sentinel, .sentinel, .data, .data, .data, .pinned], laidTests := true, laidLooks := .later }
def CharsetWritesUptoCardSaid : Prop := Claim7.holds Tryz.pinned (.plain (OpenSpec.upto charsetWritesSpec)) charsetWritesUptoCard

/-- THE SECOND FORM's CARD OF 'diacriticlaw09.CharsetNames'. -/
def charsetNamesUptoCard : Claim7 := { stood := { row := charsetNamesUptoRow, standIns := [], harness := (true, "3fa7e048fa7399e1b88f306cba6ec56515edc03530836f62f71eaf4a56e07785"), looks := true }, kinds := [], alts := [], laidByText := true, laidKinds := [.data, .data, .data, .data, .sentinel, .sentinel, .data, .data, .data, .pinned], laidTests := true, laidLooks := .later }
def CharsetNamesUptoCardSaid : Prop := Claim7.holds Tryz.pinned (.plain (OpenSpec.upto charsetNamesSpec)) charsetNamesUptoCard

/-- THE SECOND FORM's CARD OF 'diacriticlaw09.CharsetTries'. -/
def charsetTriesUptoCard : Claim7 := { stood := { row := charsetTriesUptoRow, standIns := [], harness := (true, "3fa7e048fa7399e1b88f306cba6ec56515edc03530836f62f71eaf4a56e07785"), looks := true }, kinds := [], alts := [], laidByText := true, laidKinds := [.data, .data, .data, .data, .sentinel, .sentinel, .data, .data, .data, .pinned], laidTests := true, laidLooks := .later }
def CharsetTriesUptoCardSaid : Prop := Claim7.holds Tryz.pinned (.plain (OpenSpec.upto charsetTriesSpec)) charsetTriesUptoCard

/-- THE SECOND FORM's CARD OF 'diacriticlaw09.CharsetPlain'. -/
def charsetPlainUptoCard : Claim7 := { stood := { row := charsetPlainUptoRow, standIns := [], harness := (true, "3fa7e048fa7399e1b88f306cba6ec56515edc03530836f62f71eaf4a56e07785"), looks := true }, kinds := [], alts := [], laidByText := true, laidKinds := [.data, .data, .data, .data, .sentinel, .sentinel, .data, .data, .data, .pinned], laidTests := true, laidLooks := .later }
def CharsetPlainUptoCardSaid : Prop := Claim7.holds Tryz.pinned (.plain (OpenSpec.upto charsetPlainSpec)) charsetPlainUptoCard

/-- THE SECOND FORM's CARD OF 'diacriticlaw09.CharsetCuts'. -/
def charsetCutsUptoCard : Claim7 := { stood := { row := charsetCutsUptoRow, standIns := [], harness := (true, "3fa7e048fa7399e1b88f306cba6ec56515edc03530836f62f71eaf4a56e07785"), looks := true }, kinds := [], alts := [], laidByText := true, laidKinds := [.data, .data, .data, .data, .sentinel, .sentinel, .data, .data, .data, .pinned], laidTests := true, laidLooks := .later }
def CharsetCutsUptoCardSaid : Prop := Claim7.holds Tryz.pinned (.plain (OpenSpec.upto charsetCutsSpec)) charsetCutsUptoCard
end Rows
end Go.Proofs.YtdomjahijchanaaGreatDoor
