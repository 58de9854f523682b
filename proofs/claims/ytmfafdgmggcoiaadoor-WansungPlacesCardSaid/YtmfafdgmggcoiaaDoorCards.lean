/-
  DERIVED. GIVEN WITH THE SEED: THE CARDS: each row of YtmfafdgmggcoiaaDoorRows.lean that lists a variable, with what it lists TIED to the program's text (the seventh form; the later family's looks); each row that meets fmt, with fmt's text TOLD by the authors' own Lean function (tested against real Go, not proved from fmt's source: count such statements apart). THE CARD IS WHAT COUNTS. Prove the row's statement (the work); the ties are given (YtmfafdgmggcoiaaDoorTie.lean); close each card by the builder's one call (the guide's Derived/Test/ToyasCard.lean, 'card_holds'). Laid BY PROGRAM, IN A SANDBOX (cutbox-door.mjs). By AI agents, Wed Nov 11 2026. No macro, syntax, notation, axiom, sorry.
-/
import Derived.Test.YtmfafdgmggcoiaaDoorRows
import GoSem.ClaimSeven
namespace Go.Proofs.YtmfafdgmggcoiaaDoor
namespace Rows

/-- THE TIED CARD OF 'diacriticlaw07.WansungRanks'. -/
def wansungRanksCard : Claim7 := { stood := { row := wansungRanksRow, standIns := [], harness := (true, "1f2a739216bab12ca3380acb64364e702b0fc772ca7635f7912b9a96bcabcce7"), looks := true }, kinds := [], alts := [], laidByText := true, laidKinds := [.data, .data, .data, .sentinel, .sentinel, .data], laidTests := true, laidLooks := .later }
def WansungRanksCardSaid : Prop := Claim7.holds Tryd.pinned (.plain (OpenSpec.ofChange wansungRanksSpec)) wansungRanksCard

/-- THE TIED CARD OF 'diacriticlaw07.WansungPlaces'. -/
def wansungPlacesCard : Claim7 := { stood := { row := wansungPlacesRow, standIns := [], harness := (true, "1f2a739216bab12ca3380acb64364e702b0fc772ca7635f7912b9a96bcabcce7"), looks := true }, kinds := [], alts := [], laidByText := true, laidKinds := [.data, .data, .data, .sentinel, .sentinel, .data], laidTests := true, laidLooks := .later }
def WansungPlacesCardSaid : Prop := Claim7.holds Tryd.pinned (.plain (OpenSpec.ofChange wansungPlacesSpec)) wansungPlacesCard

/-- THE TIED CARD OF 'diacriticlaw07.WansungSigns'. -/
def wansungSignsCard : Claim7 := { stood := { row := wansungSignsRow, standIns := [], harness := (true, "1f2a739216bab12ca3380acb64364e702b0fc772ca7635f7912b9a96bcabcce7"), looks := true }, kinds := [], alts := [], laidByText := true, laidKinds := [.data, .data, .data, .sentinel, .sentinel, .data], laidTests := true, laidLooks := .later }
def WansungSignsCardSaid : Prop := Claim7.holds Tryd.pinned (.plain (OpenSpec.ofChange wansungSignsSpec)) wansungSignsCard

/-- THE TIED CARD OF 'diacriticlaw07.WansungBytes'. -/
def wansungBytesCard : Claim7 := { stood := { row := wansungBytesRow, standIns := [], harness := (true, "1f2a739216bab12ca3380acb64364e702b0fc772ca7635f7912b9a96bcabcce7"), looks := true }, kinds := [], alts := [], laidByText := true, laidKinds := [.data, .data, .data, .sentinel, .sentinel, .data], laidTests := true, laidLooks := .later }
def WansungBytesCardSaid : Prop := Claim7.holds Tryd.pinned (.plain (OpenSpec.ofChange wansungBytesSpec)) wansungBytesCard

/-- THE SECOND FORM's CARD OF 'diacriticlaw07.WansungRanks'. -/
def wansungRanksUptoCard : Claim7 := { stood := { row := wansungRanksUptoRow, standIns := [], harness := (true, "1f2a739216bab12ca3380acb64364e702b0fc772ca7635f7912b9a96bcabcce7"), looks := true }, kinds := [], alts := [], laidByText := true, laidKinds := [.data, .data, .data, .sentinel, .sentinel, .data], laidTests := true, laidLooks := .later }
def WansungRanksUptoCardSaid : Prop := Claim7.holds Tryd.pinned (.plain (OpenSpec.upto wansungRanksSpec)) wansungRanksUptoCard

/-- THE SECOND FORM's CARD OF 'diacriticlaw07.WansungPlaces'. -/
def wansungPlacesUptoCard : Claim7 := { stood := { row := wansungPlacesUptoRow, standIns := [], harness := (true, "1f2a739216bab12ca3380acb64364e702b0fc772ca7635f7912b9a96bcabcce7"), looks := true }, kinds := [], alts := [], laidByText := true, laidKinds := [.data, .data, .data, .sentinel, .sentinel, .data], laidTests := true, laidLooks := .later }
def WansungPlacesUptoCardSaid : Prop := Claim7.holds Tryd.pinned (.plain (OpenSpec.upto wansungPlacesSpec)) wansungPlacesUptoCard

/-- THE SECOND FORM's CARD OF 'diacriticlaw07.WansungSigns'. -/
def wansungSignsUptoCard : Claim7 := { stood := { row := wansungSignsUptoRow, standIns := [], harness := (true, "1f2a739216bab12ca3380acb64364e702b0fc772ca7635f7912b9a96bcabcce7"), looks := true }, kinds := [], alts := [], laidByText := true, laidKinds := [.data, .data, .data, .sentinel, .sentinel, .data], laidTests := true, laidLooks := .later }
def WansungSignsUptoCardSaid : Prop := Claim7.holds Tryd.pinned (.plain (OpenSpec.upto wansungSignsSpec)) wansungSignsUptoCard

/-- THE SECOND FORM's CARD OF 'diacriticlaw07.WansungBytes'. -/
def wansungBytesUptoCard : Claim7 := { stood := { row := wansungBytesUptoRow, standIns := [], harness := (true, "1f2a739216bab12ca3380acb64364e702b0fc772ca7635f7912b9a96bcabcce7"), looks := true }, kinds := [], alts := [], laidByText := true, laidKinds := [.data, .data, .data, .sentinel, .sentinel, .data], laidTests := true, laidLooks := .later }
def WansungBytesUptoCardSaid : Prop := Claim7.holds Tryd.pinned (.plain (OpenSpec.upto wansungBytesSpec)) wansungBytesUptoCard
end Rows
end Go.Proofs.YtmfafdgmggcoiaaDoor
