/-
  DERIVED. GIVEN WITH THE SEED: THE CARDS: each row of YtdbjjadgmfgjfaaDoorRows.lean that lists a variable, with what it lists TIED to the program's text (the seventh form; the later family's looks); each row that meets fmt, with fmt's text TOLD by the authors' own Lean function (tested against real Go, not proved from fmt's source: count such statements apart). THE CARD IS WHAT COUNTS. Prove the row's statement (the work); the ties are given (YtdbjjadgmfgjfaaDoorTie.lean); close each card by the builder's one call (the guide's Derived/Test/ToyasCard.lean, 'card_holds'). Laid BY PROGRAM, IN A SANDBOX (cutbox-door.mjs). By AI agents, Wed Nov 11 2026. No macro, syntax, notation, axiom, sorry.
-/
import Derived.Test.YtdbjjadgmfgjfaaDoorRows
import GoSem.ClaimSeven
namespace Go.Proofs.YtdbjjadgmfgjfaaDoor
namespace Rows

/-- THE TIED CARD OF 'diacriticlaw03.WideReads'. -/
def wideReadsCard : Claim7 := { stood := { row := wideReadsRow, standIns := [], harness := (true, "5fdb0ee5da4919a741c9641708e115b2eef36e95fb3bc9894e205a63cac7c61f"), looks := false }, kinds := [], alts := [], laidByText := true, laidKinds := [.data, .pinned], laidTests := true, laidLooks := .later }
def WideReadsCardSaid : Prop := Claim7.holds Tryd.pinned (.plain (OpenSpec.ofChange wideReadsSpec)) wideReadsCard

/-- THE TIED CARD OF 'diacriticlaw03.WideWrites'. -/
def wideWritesCard : Claim7 := { stood := { row := wideWritesRow, standIns := [], harness := (true, "5fdb0ee5da4919a741c9641708e115b2eef36e95fb3bc9894e205a63cac7c61f"), looks := false }, kinds := [], alts := [], laidByText := true, laidKinds := [.data, .pinned], laidTests := true, laidLooks := .later }
def WideWritesCardSaid : Prop := Claim7.holds Tryd.pinned (.plain (OpenSpec.ofChange wideWritesSpec)) wideWritesCard

/-- THE TIED CARD OF 'diacriticlaw03.WideMarks'. -/
def wideMarksCard : Claim7 := { stood := { row := wideMarksRow, standIns := [], harness := (true, "5fdb0ee5da4919a741c9641708e115b2eef36e95fb3bc9894e205a63cac7c61f"), looks := false }, kinds := [], alts := [], laidByText := true, laidKinds := [.data, .pinned], laidTests := true, laidLooks := .later }
def WideMarksCardSaid : Prop := Claim7.holds Tryd.pinned (.plain (OpenSpec.ofChange wideMarksSpec)) wideMarksCard

/-- THE TIED CARD OF 'diacriticlaw03.WideBack'. -/
def wideBackCard : Claim7 := { stood := { row := wideBackRow, standIns := [], harness := (true, "5fdb0ee5da4919a741c9641708e115b2eef36e95fb3bc9894e205a63cac7c61f"), looks := false }, kinds := [], alts := [], laidByText := true, laidKinds := [.data, .pinned], laidTests := true, laidLooks := .later }
def WideBackCardSaid : Prop := Claim7.holds Tryd.pinned (.plain (OpenSpec.ofChange wideBackSpec)) wideBackCard

/-- THE SECOND FORM's CARD OF 'diacriticlaw03.WideReads'. -/
def wideReadsUptoCard : Claim7 := { stood := { row := wideReadsUptoRow, standIns := [], harness := (true, "5fdb0ee5da4919a741c9641708e115b2eef36e95fb3bc9894e205a63cac7c61f"), looks := false }, kinds := [], alts := [], laidByText := true, laidKinds := [.data, .pinned], laidTests := true, laidLooks := .later }
def WideReadsUptoCardSaid : Prop := Claim7.holds Tryd.pinned (.plain (OpenSpec.upto wideReadsSpec)) wideReadsUptoCard

/-- THE SECOND FORM's CARD OF 'diacriticlaw03.WideWrites'. -/
def wideWritesUptoCard : Claim7 := { stood := { row := wideWritesUptoRow, standIns := [], harness := (true, "5fdb0ee5da4919a741c9641708e115b2eef36e95fb3bc9894e205a63cac7c61f"), looks := false }, kinds := [], alts := [], laidByText := true, laidKinds := [.data, .pinned], laidTests := true, laidLooks := .later }
def WideWritesUptoCardSaid : Prop := Claim7.holds Tryd.pinned (.plain (OpenSpec.upto wideWritesSpec)) wideWritesUptoCard

/-- THE SECOND FORM's CARD OF 'diacriticlaw03.WideMarks'. -/
def wideMarksUptoCard : Claim7 := { stood := { row := wideMarksUptoRow, standIns := [], harness := (true, "5fdb0ee5da4919a741c9641708e115b2eef36e95fb3bc9894e205a63cac7c61f"), looks := false }, kinds := [], alts := [], laidByText := true, laidKinds := [.data, .pinned], laidTests := true, laidLooks := .later }
def WideMarksUptoCardSaid : Prop := Claim7.holds Tryd.pinned (.plain (OpenSpec.upto wideMarksSpec)) wideMarksUptoCard

/-- THE SECOND FORM's CARD OF 'diacriticlaw03.WideBack'. -/
def wideBackUptoCard : Claim7 := { stood := { row := wideBackUptoRow, standIns := [], harness := (true, "5fdb0ee5da4919a741c9641708e115b2eef36e95fb3bc9894e205a63cac7c61f"), looks := false }, kinds := [], alts := [], laidByText := true, laidKinds := [.data, .pinned], laidTests := true, laidLooks := .later }
def WideBackUptoCardSaid : Prop := Claim7.holds Tryd.pinned (.plain (OpenSpec.upto wideBackSpec)) wideBackUptoCard
end Rows
end Go.Proofs.YtdbjjadgmfgjfaaDoor
