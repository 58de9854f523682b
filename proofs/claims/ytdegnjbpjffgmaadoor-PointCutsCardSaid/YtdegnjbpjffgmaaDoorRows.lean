/-
  NARROWER THAN 'FOR EVERY INPUT', by the rows' own cells (each row's printed sentence says how): PointSigns: laid · PointTexts: laid · PointReads: laid · PointPlain: laid · PointCuts: laid.
  DERIVED. THE GIVEN ROWS OF THIS SEAT. 5 by the template 'for every input the law returns true; each argument reads behind the call as it read before'; 0 by the template 'total and deterministic' (their statements: YtdegnjbpjffgmaaDoorTotals.lean).
  GIVEN WITH THE SEED: the statements are not yours to turn. If you find one false, say at which input.
  Laid BY PROGRAM, IN A SANDBOX (cutbox-rows.mjs): the forced cells as the released guide's own fill.sh prints them over the translation 1f87b1cbaf5755aa… (all of the seat's roots in one cut). By AI agents, Wed Nov 11 2026. No macro, syntax, notation, axiom, sorry.
-/
import Derived.Test.YtdegnjbpjffgmaaDoorChecked
import GoSem.PinnedTables
import GoSem.Claim
import GoSem.ClaimJoined
import GoSem.ClaimMapViews
import Derived.JoinedTies
import Derived.KernelRfl
namespace Go.Proofs.YtdegnjbpjffgmaaDoor
/- THE CELL 'sum', in the pinned program and in every row, IS THE sha256 OF THE DUMP (.gsa) THAT YtdegnjbpjffgmaaDoorProg.lean LOADS. Nothing in Lean hashes anything: it is a label: what it is worth is what the hold of that sum in a sandbox is worth. -/
noncomputable def Tryd.pinned : Pinned := { name := "ytdegnjbpjffgmaadoor", sum := "1f87b1cbaf5755aa59093125e456580f7a7905858bea4afe426307aaaf6c98a6", checked := Tryd.checked }
namespace Rows
def none {H : Type} : Left H := { results := [], args := [] }

/- WHAT THE LISTED PACKAGE-LEVEL VARIABLES READ AS WHEN THE CALL BEGINS. Each datum BY PROGRAM (the guide's laid-datum.mjs) off the statement by which the dump's own 'gosem.cut.vars' lays the variable. In a bare row this is a premise. The card (YtdegnjbpjffgmaaDoorCards.lean) ties it to the program's text. -/
def laid_unicode_utf8_acceptRanges {H : Type} : DataW H := .agg [.agg [.lit (.int .u8 128), .lit (.int .u8 191)], .agg [.lit (.int .u8 160), .lit (.int .u8 191)], .agg [.lit (.int .u8 128), .lit (.int .u8 159)], .agg [.lit (.int .u8 144), .lit (.int .u8 191)], .agg [.lit (.int .u8 128), .lit (.int .u8 143)], .agg [.lit (.int .u8 0), .lit (.int .u8 0)], .agg [.lit (.int .u8 0), .lit (.int .u8 0)], .agg [.lit (.int .u8 0), .lit (.int .u8 0)], .agg [.lit (.int .u8 0), .lit (.int .u8 0)], .agg [.lit (.int .u8 0), .lit (.int .u8 0)], .agg [.lit (.int .u8 0), .lit (.int .u8 0)], .agg [.lit (.int .u8 0), .lit (.int .u8 0)], .agg [.lit (.int .u8 0), .lit (.int .u8 0)], .agg [.lit (.int .u8 0), .lit (.int .u8 0)], .agg [.lit (.int .u8 0), .lit (.int .u8 0)], .agg [.lit (.int .u8 0), .lit (.int .u8 0)]]
/-- One of Go's own tables, pinned by name: the form's constant. -/
def laid_unicode_utf8_first : DataW Unit := Go.Pinned.utf8First

/-- 'diacriticlaw02.PointSigns': WHATEVER THE INPUT: true; the input reads as it did. -/
def pointSignsSpec : ChangeSpec := { name := "pointSigns", fn := fun _ => fun
  | [d] => { results := [.lit (.bool true)], args := [d] }
  | _ => none }
def pointSignsRow : OpenClaim := { program := "ytdegnjbpjffgmaadoor", sum := "1f87b1cbaf5755aa59093125e456580f7a7905858bea4afe426307aaaf6c98a6", func := "diacritic/diacriticlaw02.PointSigns", spec := "pointSigns", named := ["unicode/utf8.first", "unicode/utf8.acceptRanges"], apart := false, laid := [("unicode/utf8.acceptRanges", laid_unicode_utf8_acceptRanges), ("unicode/utf8.first", laid_unicode_utf8_first)] }
def PointSignsSaid : Prop := pointSignsRow.holds Tryd.pinned (OpenSpec.ofChange pointSignsSpec)

/-- ITS FALSE NEIGHBOUR: 'it returns false'. Refute it at one input. -/
def pointSignsWrong : ChangeSpec := { name := "pointSigns", fn := fun _ => fun
  | [d] => { results := [.lit (.bool false)], args := [d] }
  | _ => none }
def PointSignsWrongFalsely : Prop := pointSignsRow.holds Tryd.pinned (OpenSpec.ofChange pointSignsWrong)

/-- 'diacriticlaw02.PointTexts': WHATEVER THE INPUT: true; the input reads as it did. -/
def pointTextsSpec : ChangeSpec := { name := "pointTexts", fn := fun _ => fun
  | [d] => { results := [.lit (.bool true)], args := [d] }
  | _ => none }
def pointTextsRow : OpenClaim := { program := "ytdegnjbpjffgmaadoor", sum := "1f87b1cbaf5755aa59093125e456580f7a7905858bea4afe426307aaaf6c98a6", func := "diacritic/diacriticlaw02.PointTexts", spec := "pointTexts", named := ["unicode/utf8.first", "unicode/utf8.acceptRanges"], apart := false, laid := [("unicode/utf8.acceptRanges", laid_unicode_utf8_acceptRanges), ("unicode/utf8.first", laid_unicode_utf8_first)] }
def PointTextsSaid : Prop := pointTextsRow.holds Tryd.pinned (OpenSpec.ofChange pointTextsSpec)

/-- ITS FALSE NEIGHBOUR: 'it returns false'. Refute it at one input. -/
def pointTextsWrong : ChangeSpec := { name := "pointTexts", fn := fun _ => fun
  | [d] => { results := [.lit (.bool false)], args := [d] }
  | _ => none }
def PointTextsWrongFalsely : Prop := pointTextsRow.holds Tryd.pinned (OpenSpec.ofChange pointTextsWrong)

/-- 'diacriticlaw02.PointReads': WHATEVER THE INPUT: true; the input reads as it did. -/
def pointReadsSpec : ChangeSpec := { name := "pointReads", fn := fun _ => fun
  | [d] => { results := [.lit (.bool true)], args := [d] }
  | _ => none }
def pointReadsRow : OpenClaim := { program := "ytdegnjbpjffgmaadoor", sum := "1f87b1cbaf5755aa59093125e456580f7a7905858bea4afe426307aaaf6c98a6", func := "diacritic/diacriticlaw02.PointReads", spec := "pointReads", named := ["unicode/utf8.first", "unicode/utf8.acceptRanges"], apart := false, laid := [("unicode/utf8.acceptRanges", laid_unicode_utf8_acceptRanges), ("unicode/utf8.first", laid_unicode_utf8_first)] }
def PointReadsSaid : Prop := pointReadsRow.holds Tryd.pinned (OpenSpec.ofChange pointReadsSpec)

/-- ITS FALSE NEIGHBOUR: 'it returns false'. Refute it at one input. -/
def pointReadsWrong : ChangeSpec := { name := "pointReads", fn := fun _ => fun
  | [d] => { results := [.lit (.bool false)], args := [d] }
  | _ => none }
def PointReadsWrongFalsely : Prop := pointReadsRow.holds Tryd.pinned (OpenSpec.ofChange pointReadsWrong)

/-- 'diacriticlaw02.PointPlain': WHATEVER THE INPUT: true; the input reads as it did. -/
def pointPlainSpec : ChangeSpec := { name := "pointPlain", fn := fun _ => fun
  | [d] => { results := [.lit (.bool true)], args := [d] }
  | _ => none }
def pointPlainRow : OpenClaim := { program := "ytdegnjbpjffgmaadoor", sum := "1f87b1cbaf5755aa59093125e456580f7a7905858bea4afe426307aaaf6c98a6", func := "diacritic/diacriticlaw02.PointPlain", spec := "pointPlain", named := ["unicode/utf8.first", "unicode/utf8.acceptRanges"], apart := false, laid := [("unicode/utf8.acceptRanges", laid_unicode_utf8_acceptRanges), ("unicode/utf8.first", laid_unicode_utf8_first)] }
def PointPlainSaid : Prop := pointPlainRow.holds Tryd.pinned (OpenSpec.ofChange pointPlainSpec)

/-- ITS FALSE NEIGHBOUR: 'it returns false'. Refute it at one input. -/
def pointPlainWrong : ChangeSpec := { name := "pointPlain", fn := fun _ => fun
  | [d] => { results := [.lit (.bool false)], args := [d] }
  | _ => none }
def PointPlainWrongFalsely : Prop := pointPlainRow.holds Tryd.pinned (OpenSpec.ofChange pointPlainWrong)

/-- 'diacriticlaw02.PointCuts': WHATEVER THE INPUT: true; the input reads as it did. -/
def pointCutsSpec : ChangeSpec := { name := "pointCuts", fn := fun _ => fun
  | [d1, d2] => { results := [.lit (.bool true)], args := [d1, d2] }
  | _ => none }
def pointCutsRow : OpenClaim := { program := "ytdegnjbpjffgmaadoor", sum := "1f87b1cbaf5755aa59093125e456580f7a7905858bea4afe426307aaaf6c98a6", func := "diacritic/diacriticlaw02.PointCuts", spec := "pointCuts", named := ["unicode/utf8.first", "unicode/utf8.acceptRanges"], apart := false, laid := [("unicode/utf8.acceptRanges", laid_unicode_utf8_acceptRanges), ("unicode/utf8.first", laid_unicode_utf8_first)] }
def PointCutsSaid : Prop := pointCutsRow.holds Tryd.pinned (OpenSpec.ofChange pointCutsSpec)

/-- ITS FALSE NEIGHBOUR: 'it returns false'. Refute it at one input. -/
def pointCutsWrong : ChangeSpec := { name := "pointCuts", fn := fun _ => fun
  | [d1, d2] => { results := [.lit (.bool false)], args := [d1, d2] }
  | _ => none }
def PointCutsWrongFalsely : Prop := pointCutsRow.holds Tryd.pinned (OpenSpec.ofChange pointCutsWrong)

/- THE SECOND FORM. 'bulk': how many values and letters a reading holds, each counted each time it is reached (what is shared counts as often as it is met; a slice's spare places count too). A statement '..UptoSaid' is the law's where the arguments, and the package variables that the reading takes, are together of bulk at most 1048576: NARROWER than '..Said'. Prove '..Said' where nothing that the law and all that it calls make is longer than what came in: it says more and counts as full. Else prove '..UptoSaid'. A law counts once. -/
mutual
def uptoBulk {H : Type} : DataW H → Nat
  | .lit (.string bytes) => bytes.length + 1
  | .lit _ => 1
  | .nil => 1
  | .ptr d => uptoBulk d + 1
  | .slice elems spare => uptoBulkAll elems + uptoBulkAll spare + 1
  | .agg parts => uptoBulkAll parts + 1
  | .iface _ d => uptoBulk d + 1
  | .map entries => uptoBulkEntries entries + 1
  | .held _ => 1
def uptoBulkAll {H : Type} : List (DataW H) → Nat
  | [] => 0
  | d :: r => uptoBulk d + uptoBulkAll r
def uptoBulkEntries {H : Type} : List (Lit × DataW H) → Nat
  | [] => 0
  | x :: r => uptoBulkEntry x + uptoBulkEntries r
def uptoBulkEntry {H : Type} : Lit × DataW H → Nat
  | (.string bytes, d) => bytes.length + uptoBulk d + 1
  | (_, d) => uptoBulk d + 1
 end
def uptoSmall : (H : Type) → List (DataW H) → Bool := fun _ ds => decide (uptoBulkAll ds ≤ 1048576)
def OpenSpec.upto (s : _root_.Go.ChangeSpec) : _root_.Go.OpenSpec := { _root_.Go.OpenSpec.ofChange s with cond := some uptoSmall }

/-- 'diacriticlaw02.PointSigns', WHERE WHAT IT READS IS OF BULK AT MOST 1048576: true; the input reads as it did. -/
def pointSignsUptoRow : OpenClaim := { program := "ytdegnjbpjffgmaadoor", sum := "1f87b1cbaf5755aa59093125e456580f7a7905858bea4afe426307aaaf6c98a6", func := "diacritic/diacriticlaw02.PointSigns", spec := "pointSigns", named := ["unicode/utf8.first", "unicode/utf8.acceptRanges"], apart := false, laid := [("unicode/utf8.acceptRanges", laid_unicode_utf8_acceptRanges), ("unicode/utf8.first", laid_unicode_utf8_first)], narrowed := true }
def PointSignsUptoSaid : Prop := pointSignsUptoRow.holds Tryd.pinned (OpenSpec.upto pointSignsSpec)

/-- 'diacriticlaw02.PointTexts', WHERE WHAT IT READS IS OF BULK AT MOST 1048576: true; the input reads as it did. -/
def pointTextsUptoRow : OpenClaim := { program := "ytdegnjbpjffgmaadoor", sum := "1f87b1cbaf5755aa59093125e456580f7a7905858bea4afe426307aaaf6c98a6", func := "diacritic/diacriticlaw02.PointTexts", spec := "pointTexts", named := ["unicode/utf8.first", "unicode/utf8.acceptRanges"], apart := false, laid := [("unicode/utf8.acceptRanges", laid_unicode_utf8_acceptRanges), ("unicode/utf8.first", laid_unicode_utf8_first)], narrowed := true }
def PointTextsUptoSaid : Prop := pointTextsUptoRow.holds Tryd.pinned (OpenSpec.upto pointTextsSpec)

/-- 'diacriticlaw02.PointReads', WHERE WHAT IT READS IS OF BULK AT MOST 1048576: true; the input reads as it did. -/
def pointReadsUptoRow : OpenClaim := { program := "ytdegnjbpjffgmaadoor", sum := "1f87b1cbaf5755aa59093125e456580f7a7905858bea4afe426307aaaf6c98a6", func := "diacritic/diacriticlaw02.PointReads", spec := "pointReads", named := ["unicode/utf8.first", "unicode/utf8.acceptRanges"], apart := false, laid := [("unicode/utf8.acceptRanges", laid_unicode_utf8_acceptRanges), ("unicode/utf8.first", laid_unicode_utf8_first)], narrowed := true }
def PointReadsUptoSaid : Prop := pointReadsUptoRow.holds Tryd.pinned (OpenSpec.upto pointReadsSpec)

/-- 'diacriticlaw02.PointPlain', WHERE WHAT IT READS IS OF BULK AT MOST 1048576: true; the input reads as it did. -/
def pointPlainUptoRow : OpenClaim := { program := "ytdegnjbpjffgmaadoor", sum := "1f87b1cbaf5755aa59093125e456580f7a7905858bea4afe426307aaaf6c98a6", func := "diacritic/diacriticlaw02.PointPlain", spec := "pointPlain", named := ["unicode/utf8.first", "unicode/utf8.acceptRanges"], apart := false, laid := [("unicode/utf8.acceptRanges", laid_unicode_utf8_acceptRanges), ("unicode/utf8.first", laid_unicode_utf8_first)], narrowed := true }
def PointPlainUptoSaid : Prop := pointPlainUptoRow.holds Tryd.pinned (OpenSpec.upto pointPlainSpec)

/-- 'diacriticlaw02.PointCuts', WHERE WHAT IT READS IS OF BULK AT MOST 1048576: true; the input reads as it did. -/
def pointCutsUptoRow : OpenClaim := { program := "ytdegnjbpjffgmaadoor", sum := "1f87b1cbaf5755aa59093125e456580f7a7905858bea4afe426307aaaf6c98a6", func := "diacritic/diacriticlaw02.PointCuts", spec := "pointCuts", named := ["unicode/utf8.first", "unicode/utf8.acceptRanges"], apart := false, laid := [("unicode/utf8.acceptRanges", laid_unicode_utf8_acceptRanges), ("unicode/utf8.first", laid_unicode_utf8_first)], narrowed := true }
def PointCutsUptoSaid : Prop := pointCutsUptoRow.holds Tryd.pinned (OpenSpec.upto pointCutsSpec)

end Rows
end Go.Proofs.YtdegnjbpjffgmaaDoor
