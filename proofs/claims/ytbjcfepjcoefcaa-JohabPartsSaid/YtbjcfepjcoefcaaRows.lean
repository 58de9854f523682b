/-
  No cell of these rows narrows 'for every input' (looked for: loops, veiled, ifaces, maps, wideKeys, modest, calm, conditions, laid).
  DERIVED. THE GIVEN ROWS OF THIS SEAT. 4 by the template 'for every input the law returns true; each argument reads behind the call as it read before'; 0 by the template 'total and deterministic' (their statements: YtbjcfepjcoefcaaTotals.lean).
  GIVEN WITH THE SEED: the statements are not yours to turn. If you find one false, say at which input.
  Laid BY PROGRAM, IN A SANDBOX (cutbox-rows.mjs): the forced cells as the released guide's own fill.sh prints them over the translation c77ca58687e14a77… (all of the seat's roots in one cut). By AI agents, Wed Nov 11 2026. No macro, syntax, notation, axiom, sorry.
-/
import Derived.Test.YtbjcfepjcoefcaaChecked
import GoSem.Claim
import GoSem.ClaimJoined
import GoSem.ClaimMapViews
import Derived.JoinedTies
import Derived.KernelRfl
namespace Go.Proofs.Ytbjcfepjcoefcaa
/- THE CELL 'sum', in the pinned program and in every row, IS THE sha256 OF THE DUMP (.gsa) THAT YtbjcfepjcoefcaaProg.lean LOADS. Nothing in Lean hashes anything: it is a label: what it is worth is what the hold of that sum in a sandbox is worth. -/
noncomputable def Try.pinned : Pinned := { name := "ytbjcfepjcoefcaa", sum := "c77ca58687e14a77de55e72aab2abe5cc60b90c177e00408f6b4b824c05f1c83", checked := Try.checked }
namespace Rows
def none {H : Type} : Left H := { results := [], args := [] }

/-- 'diacriticlaw06.JohabSigns': WHATEVER THE INPUT: true; the input reads as it did. -/
def johabSignsSpec : ChangeSpec := { name := "johabSigns", fn := fun _ => fun
  | [d1, d2] => { results := [.lit (.bool true)], args := [d1, d2] }
  | _ => none }
def johabSignsRow : OpenClaim := { program := "ytbjcfepjcoefcaa", sum := "c77ca58687e14a77de55e72aab2abe5cc60b90c177e00408f6b4b824c05f1c83", func := "diacritic/diacriticlaw06.JohabSigns", spec := "johabSigns", inPlace := ["internal/bytealg.IndexByteString"], apart := false }
def JohabSignsSaid : Prop := johabSignsRow.holds Try.pinned (OpenSpec.ofChange johabSignsSpec)

/-- ITS FALSE NEIGHBOUR: 'it returns false'. Refute it at one input. -/
def johabSignsWrong : ChangeSpec := { name := "johabSigns", fn := fun _ => fun
  | [d1, d2] => { results := [.lit (.bool false)], args := [d1, d2] }
  | _ => none }
def JohabSignsWrongFalsely : Prop := johabSignsRow.holds Try.pinned (OpenSpec.ofChange johabSignsWrong)

/-- 'diacriticlaw06.JohabBytes': WHATEVER THE INPUT: true; the input reads as it did. -/
def johabBytesSpec : ChangeSpec := { name := "johabBytes", fn := fun _ => fun
  | [d] => { results := [.lit (.bool true)], args := [d] }
  | _ => none }
def johabBytesRow : OpenClaim := { program := "ytbjcfepjcoefcaa", sum := "c77ca58687e14a77de55e72aab2abe5cc60b90c177e00408f6b4b824c05f1c83", func := "diacritic/diacriticlaw06.JohabBytes", spec := "johabBytes", inPlace := ["internal/bytealg.IndexByteString"], apart := false }
def JohabBytesSaid : Prop := johabBytesRow.holds Try.pinned (OpenSpec.ofChange johabBytesSpec)

/-- ITS FALSE NEIGHBOUR: 'it returns false'. Refute it at one input. -/
def johabBytesWrong : ChangeSpec := { name := "johabBytes", fn := fun _ => fun
  | [d] => { results := [.lit (.bool false)], args := [d] }
  | _ => none }
def JohabBytesWrongFalsely : Prop := johabBytesRow.holds Try.pinned (OpenSpec.ofChange johabBytesWrong)

/-- 'diacriticlaw06.JohabParts': WHATEVER THE INPUT: true; the input reads as it did. -/
def johabPartsSpec : ChangeSpec := { name := "johabParts", fn := fun _ => fun
  | [d1, d2, d3] => { results := [.lit (.bool true)], args := [d1, d2, d3] }
  | _ => none }
def johabPartsRow : OpenClaim := { program := "ytbjcfepjcoefcaa", sum := "c77ca58687e14a77de55e72aab2abe5cc60b90c177e00408f6b4b824c05f1c83", func := "diacritic/diacriticlaw06.JohabParts", spec := "johabParts", inPlace := ["internal/bytealg.IndexByteString"], apart := false }
def JohabPartsSaid : Prop := johabPartsRow.holds Try.pinned (OpenSpec.ofChange johabPartsSpec)

/-- ITS FALSE NEIGHBOUR: 'it returns false'. Refute it at one input. -/
def johabPartsWrong : ChangeSpec := { name := "johabParts", fn := fun _ => fun
  | [d1, d2, d3] => { results := [.lit (.bool false)], args := [d1, d2, d3] }
  | _ => none }
def JohabPartsWrongFalsely : Prop := johabPartsRow.holds Try.pinned (OpenSpec.ofChange johabPartsWrong)

/-- 'diacriticlaw06.JohabAll': WHATEVER THE INPUT: true; the input reads as it did. -/
def johabAllSpec : ChangeSpec := { name := "johabAll", fn := fun _ => fun
  | [] => { results := [.lit (.bool true)], args := [] }
  | _ => none }
def johabAllRow : OpenClaim := { program := "ytbjcfepjcoefcaa", sum := "c77ca58687e14a77de55e72aab2abe5cc60b90c177e00408f6b4b824c05f1c83", func := "diacritic/diacriticlaw06.JohabAll", spec := "johabAll", inPlace := ["internal/bytealg.IndexByteString"], apart := false }
def JohabAllSaid : Prop := johabAllRow.holds Try.pinned (OpenSpec.ofChange johabAllSpec)

/-- ITS FALSE NEIGHBOUR: 'it returns false'. Refute it at one input. -/
def johabAllWrong : ChangeSpec := { name := "johabAll", fn := fun _ => fun
  | [] => { results := [.lit (.bool false)], args := [] }
  | _ => none }
def JohabAllWrongFalsely : Prop := johabAllRow.holds Try.pinned (OpenSpec.ofChange johabAllWrong)

/- THE SECOND FORM. 'bulk': how many values and letters a reading holds, each counted each time it is reached (what is shared counts as often as it is met; a slice's spare places count too). A statement '..UptoSaid' is the law's where the arguments, and the package variables that the reading takes, are together of bulk at most 1048576: NARROWER than '..Said'. Prove '..Said' where nothing that the law and all that it calls make is longer than what came in: it says more and counts as full. Else prove '..UptoSaid'. A law counts once. -/
mutual
def uptoBulk {H : Type} : DataW H → Nat
  | .lit (.string bytes) => bytes.length + 1
  | .lit _ => 1
  | .nil => 1
  | .ptr d => uptoBulk d + 1
  | .slice elems spare => uptoBulkAll elems + uptoBulkAll spare + 1
  | .agg parts => uptoBulkAll parts + 1
  | .iface _ d => uptoBulk d + 1
  | .map entries => uptoBulkEntries entries + 1
  | .held _ => 1
def uptoBulkAll {H : Type} : List (DataW H) → Nat
  | [] => 0
  | d :: r => uptoBulk d + uptoBulkAll r
def uptoBulkEntries {H : Type} : List (Lit × DataW H) → Nat
  | [] => 0
  | x :: r => uptoBulkEntry x + uptoBulkEntries r
def uptoBulkEntry {H : Type} : Lit × DataW H → Nat
  | (.string bytes, d) => bytes.length + uptoBulk d + 1
  | (_, d) => uptoBulk d + 1
 end
def uptoSmall : (H : Type) → List (DataW H) → Bool := fun _ ds => decide (uptoBulkAll ds ≤ 1048576)
def OpenSpec.upto (s : _root_.Go.ChangeSpec) : _root_.Go.OpenSpec := { _root_.Go.OpenSpec.ofChange s with cond := some uptoSmall }

/-- 'diacriticlaw06.JohabSigns', WHERE WHAT IT READS IS OF BULK AT MOST 1048576: true; the input reads as it did. -/
def johabSignsUptoRow : OpenClaim := { program := "ytbjcfepjcoefcaa", sum := "c77ca58687e14a77de55e72aab2abe5cc60b90c177e00408f6b4b824c05f1c83", func := "diacritic/diacriticlaw06.JohabSigns", spec := "johabSigns", inPlace := ["internal/bytealg.IndexByteString"], apart := false, narrowed := true }
def JohabSignsUptoSaid : Prop := johabSignsUptoRow.holds Try.pinned (OpenSpec.upto johabSignsSpec)

/-- 'diacriticlaw06.JohabBytes', WHERE WHAT IT READS IS OF BULK AT MOST 1048576: true; the input reads as it did. -/
def johabBytesUptoRow : OpenClaim := { program := "ytbjcfepjcoefcaa", sum := "c77ca58687e14a77de55e72aab2abe5cc60b90c177e00408f6b4b824c05f1c83", func := "diacritic/diacriticlaw06.JohabBytes", spec := "johabBytes", inPlace := ["internal/bytealg.IndexByteString"], apart := false, narrowed := true }
def JohabBytesUptoSaid : Prop := johabBytesUptoRow.holds Try.pinned (OpenSpec.upto johabBytesSpec)

/-- 'diacriticlaw06.JohabParts', WHERE WHAT IT READS IS OF BULK AT MOST 1048576: true; the input reads as it did. -/
def johabPartsUptoRow : OpenClaim := { program := "ytbjcfepjcoefcaa", sum := "c77ca58687e14a77de55e72aab2abe5cc60b90c177e00408f6b4b824c05f1c83", func := "diacritic/diacriticlaw06.JohabParts", spec := "johabParts", inPlace := ["internal/bytealg.IndexByteString"], apart := false, narrowed := true }
def JohabPartsUptoSaid : Prop := johabPartsUptoRow.holds Try.pinned (OpenSpec.upto johabPartsSpec)

/-- 'diacriticlaw06.JohabAll', WHERE WHAT IT READS IS OF BULK AT MOST 1048576: true; the input reads as it did. -/
def johabAllUptoRow : OpenClaim := { program := "ytbjcfepjcoefcaa", sum := "c77ca58687e14a77de55e72aab2abe5cc60b90c177e00408f6b4b824c05f1c83", func := "diacritic/diacriticlaw06.JohabAll", spec := "johabAll", inPlace := ["internal/bytealg.IndexByteString"], apart := false, narrowed := true }
def JohabAllUptoSaid : Prop := johabAllUptoRow.holds Try.pinned (OpenSpec.upto johabAllSpec)

end Rows
end Go.Proofs.Ytbjcfepjcoefcaa
