/-
  DERIVED. GIVEN WITH THE SEED: THE CARDS: each row of YtabcneomeemnpaaDoorRows.lean that lists a variable, with what it lists TIED to the program's text (the seventh form; the later family's looks); each row that meets fmt, with fmt's text TOLD by the authors' own Lean function (tested against real Go, not proved from fmt's source: count such statements apart). THE CARD IS WHAT COUNTS. Prove the row's statement (the work); the ties are given (YtabcneomeemnpaaDoorTie.lean); close each card by the builder's one call (the guide's Derived/Test/ToyasCard.lean, 'card_holds'). Laid BY PROGRAM, IN A SANDBOX (cutbox-door.mjs). By AI agents, Wed Nov 11 2026. No macro, syntax, notation, axiom, sorry.
-/
import Derived.Test.YtabcneomeemnpaaDoorRows
import GoSem.ClaimSeven
namespace Go.Proofs.YtabcneomeemnpaaDoor
namespace Rows

/-- THE TIED CARD OF 'diacriticlaw08.BigSigns'. -/
def bigSignsCard : Claim7 := { stood := { row := bigSignsRow, standIns := [], harness := (true, "43fa63a2ca086877ae8ab0d3e7a84c617cc8c097ddab56dabc0c0dd59bdf6102"), looks := false }, kinds := [], alts := [], laidByText := true, laidKinds := [.data], laidTests := true, laidLooks := .later }
def BigSignsCardSaid : Prop := Claim7.holds Tryd.pinned (.plain (OpenSpec.ofChange bigSignsSpec)) bigSignsCard

/-- THE TIED CARD OF 'diacriticlaw08.BigBytes'. -/
def bigBytesCard : Claim7 := { stood := { row := bigBytesRow, standIns := [], harness := (true, "43fa63a2ca086877ae8ab0d3e7a84c617cc8c097ddab56dabc0c0dd59bdf6102"), looks := false }, kinds := [], alts := [], laidByText := true, laidKinds := [.data], laidTests := true, laidLooks := .later }
def BigBytesCardSaid : Prop := Claim7.holds Tryd.pinned (.plain (OpenSpec.ofChange bigBytesSpec)) bigBytesCard

/-- THE TIED CARD OF 'diacriticlaw08.BigLonger'. -/
def bigLongerCard : Claim7 := { stood := { row := bigLongerRow, standIns := [], harness := (true, "43fa63a2ca086877ae8ab0d3e7a84c617cc8c097ddab56dabc0c0dd59bdf6102"), looks := false }, kinds := [], alts := [], laidByText := true, laidKinds := [.data], laidTests := true, laidLooks := .later }
def BigLongerCardSaid : Prop := Claim7.holds Tryd.pinned (.plain (OpenSpec.ofChange bigLongerSpec)) bigLongerCard

/-- THE TIED CARD OF 'diacriticlaw08.BigPairs'. -/
def bigPairsCard : Claim7 := { stood := { row := bigPairsRow, standIns := [], harness := (true, "43fa63a2ca086877ae8ab0d3e7a84c617cc8c097ddab56dabc0c0dd59bdf6102"), looks := false }, kinds := [], alts := [], laidByText := true, laidKinds := [.data, .data, .pinned], laidTests := true, laidLooks := .later }
def BigPairsCardSaid : Prop := Claim7.holds Tryd.pinned (.plain (OpenSpec.ofChange bigPairsSpec)) bigPairsCard

/-- THE SECOND FORM's CARD OF 'diacriticlaw08.BigSigns'. -/
def bigSignsUptoCard : Claim7 := { stood := { row := bigSignsUptoRow, standIns := [], harness := (true, "43fa63a2ca086877ae8ab0d3e7a84c617cc8c097ddab56dabc0c0dd59bdf6102"), looks := false }, kinds := [], alts := [], laidByText := true, laidKinds := [.data], laidTests := true, laidLooks := .later }
def BigSignsUptoCardSaid : Prop := Claim7.holds Tryd.pinned (.plain (OpenSpec.upto bigSignsSpec)) bigSignsUptoCard

/-- THE SECOND FORM's CARD OF 'diacriticlaw08.BigBytes'. -/
def bigBytesUptoCard : Claim7 := { stood := { row := bigBytesUptoRow, standIns := [], harness := (true, "43fa63a2ca086877ae8ab0d3e7a84c617cc8c097ddab56dabc0c0dd59bdf6102"), looks := false }, kinds := [], alts := [], laidByText := true, laidKinds := [.data], laidTests := true, laidLooks := .later }
def BigBytesUptoCardSaid : Prop := Claim7.holds Tryd.pinned (.plain (OpenSpec.upto bigBytesSpec)) bigBytesUptoCard

/-- THE SECOND FORM's CARD OF 'diacriticlaw08.BigLonger'. -/
def bigLongerUptoCard : Claim7 := { stood := { row := bigLongerUptoRow, standIns := [], harness := (true, "43fa63a2ca086877ae8ab0d3e7a84c617cc8c097ddab56dabc0c0dd59bdf6102"), looks := false }, kinds := [], alts := [], laidByText := true, laidKinds := [.data], laidTests := true, laidLooks := .later }
def BigLongerUptoCardSaid : Prop := Claim7.holds Tryd.pinned (.plain (OpenSpec.upto bigLongerSpec)) bigLongerUptoCard

/-- THE SECOND FORM's CARD OF 'diacriticlaw08.BigPairs'. -/
def bigPairsUptoCard : Claim7 := { stood := { row := bigPairsUptoRow, standIns := [], harness := (true, "43fa63a2ca086877ae8ab0d3e7a84c617cc8c097ddab56dabc0c0dd59bdf6102"), looks := false }, kinds := [], alts := [], laidByText := true, laidKinds := [.data, .data, .pinned], laidTests := true, laidLooks := .later }
def BigPairsUptoCardSaid : Prop := Claim7.holds Tryd.pinned (.plain (OpenSpec.upto bigPairsSpec)) bigPairsUptoCard
end Rows
end Go.Proofs.YtabcneomeemnpaaDoor
