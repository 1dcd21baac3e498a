/-
  NARROWER THAN 'FOR EVERY INPUT', by the rows' own cells (each row's printed sentence says how): RunTables: laid · RunLooks: laid · RunOvers: laid · RunBack: laid · SingleSets: laid · SingleReads: laid · SingleWrites: laid · SingleParts: laid · SingleNone: laid.
  DERIVED. THE GIVEN ROWS OF THIS SEAT. 9 by the template 'for every input the law returns true; each argument reads behind the call as it read before'; 0 by the template 'total and deterministic' (their statements: YtiokdeomdeenbaaDoorTotals.lean).
  GIVEN WITH THE SEED: the statements are not yours to turn. If you find one false, say at which input.
  Laid BY PROGRAM, IN A SANDBOX (cutbox-rows.mjs): the forced cells as the released guide's own fill.sh prints them over the translation 772a186f01e7b76c… (all of the seat's roots in one cut). By AI agents, Wed Nov 11 2026. No macro, syntax, notation, axiom, sorry.
-/
import Derived.Test.YtiokdeomdeenbaaDoorChecked
import GoSem.PinnedTables
import GoSem.Claim
import GoSem.ClaimJoined
import GoSem.ClaimMapViews
import Derived.JoinedTies
import Derived.KernelRfl
namespace Go.Proofs.YtiokdeomdeenbaaDoor
/- THE CELL 'sum', in the pinned program and in every row, IS THE sha256 OF THE DUMP (.gsa) THAT YtiokdeomdeenbaaDoorProg.lean LOADS. Nothing in Lean hashes anything: it is a label: what it is worth is what the hold of that sum in a sandbox is worth. -/
noncomputable def Tryd.pinned : Pinned := { name := "ytiokdeomdeenbaadoor", sum := "772a186f01e7b76c0f0862e825b6be4ab84519de784f3b40080e5bdd2ee4bae8", checked := Tryd.checked }
namespace Rows
def none {H : Type} : Left H := { results := [], args := [] }

/- WHAT THE LISTED PACKAGE-LEVEL VARIABLES READ AS WHEN THE CALL BEGINS. Each datum BY PROGRAM (the guide's laid-datum.mjs) off the statement by which the dump's own 'gosem.cut.vars' lays the variable. In a bare row this is a premise. The card (YtiokdeomdeenbaaDoorCards.lean) ties it to the program's text. -/
def laid_unicode_utf8_acceptRanges {H : Type} : DataW H := .agg [.agg [.lit (.int .u8 128), .lit (.int .u8 191)], .agg [.lit (.int .u8 160), .lit (.int .u8 191)], .agg [.lit (.int .u8 128), .lit (.int .u8 159)], .agg [.lit (.int .u8 144), .lit (.int .u8 191)], .agg [.lit (.int .u8 128), .lit (.int .u8 143)], .agg [.lit (.int .u8 0), .lit (.int .u8 0)], .agg [.lit (.int .u8 0), .lit (.int .u8 0)], .agg [.lit (.int .u8 0), .lit (.int .u8 0)], .agg [.lit (.int .u8 0), .lit (.int .u8 0)], .agg [.lit (.int .u8 0), .lit (.int .u8 0)], .agg [.lit (.int .u8 0), .lit (.int .u8 0)], .agg [.lit (.int .u8 0), .lit (.int .u8 0)], .agg [.lit (.int .u8 0), .lit (.int .u8 0)], .agg [.lit (.int .u8 0), .lit (.int .u8 0)], .agg [.lit (.int .u8 0), .lit (.int .u8 0)], .agg [.lit (.int .u8 0), .lit (.int .u8 0)]]
/-- One of Go's own tables, pinned by name: the form's constant. -/
def laid_unicode_utf8_first : DataW Unit := Go.Pinned.utf8First

/-- 'diacriticlaw04.RunTables': WHATEVER THE INPUT: true; the input reads as it did. -/
def runTablesSpec : ChangeSpec := { name := "runTables", fn := fun _ => fun
  | [d] => { results := [.lit (.bool true)], args := [d] }
  | _ => none }
def runTablesRow : OpenClaim := { program := "ytiokdeomdeenbaadoor", sum := "772a186f01e7b76c0f0862e825b6be4ab84519de784f3b40080e5bdd2ee4bae8", func := "diacritic/diacriticlaw04.RunTables", spec := "runTables", unfollowed := true, recurses := true, named := ["unicode/utf8.first", "unicode/utf8.acceptRanges"], apart := false, laid := [("unicode/utf8.acceptRanges", laid_unicode_utf8_acceptRanges), ("unicode/utf8.first", laid_unicode_utf8_first)] }
def RunTablesSaid : Prop := runTablesRow.holds Tryd.pinned (OpenSpec.ofChange runTablesSpec)

/-- ITS FALSE NEIGHBOUR: 'it returns false'. Refute it at one input. -/
def runTablesWrong : ChangeSpec := { name := "runTables", fn := fun _ => fun
  | [d] => { results := [.lit (.bool false)], args := [d] }
  | _ => none }
def RunTablesWrongFalsely : Prop := runTablesRow.holds Tryd.pinned (OpenSpec.ofChange runTablesWrong)

/-- 'diacriticlaw04.RunLooks': WHATEVER THE INPUT: true; the input reads as it did. -/
def runLooksSpec : ChangeSpec := { name := "runLooks", fn := fun _ => fun
  | [d1, d2, d3] => { results := [.lit (.bool true)], args := [d1, d2, d3] }
  | _ => none }
def runLooksRow : OpenClaim := { program := "ytiokdeomdeenbaadoor", sum := "772a186f01e7b76c0f0862e825b6be4ab84519de784f3b40080e5bdd2ee4bae8", func := "diacritic/diacriticlaw04.RunLooks", spec := "runLooks", unfollowed := true, recurses := true, named := ["unicode/utf8.first", "unicode/utf8.acceptRanges"], apart := false, laid := [("unicode/utf8.acceptRanges", laid_unicode_utf8_acceptRanges), ("unicode/utf8.first", laid_unicode_utf8_first)] }
def RunLooksSaid : Prop := runLooksRow.holds Tryd.pinned (OpenSpec.ofChange runLooksSpec)

/-- ITS FALSE NEIGHBOUR: 'it returns false'. Refute it at one input. -/
def runLooksWrong : ChangeSpec := { name := "runLooks", fn := fun _ => fun
  | [d1, d2, d3] => { results := [.lit (.bool false)], args := [d1, d2, d3] }
  | _ => none }
def RunLooksWrongFalsely : Prop := runLooksRow.holds Tryd.pinned (OpenSpec.ofChange runLooksWrong)

/-- 'diacriticlaw04.RunOvers': WHATEVER THE INPUT: true; the input reads as it did. -/
def runOversSpec : ChangeSpec := { name := "runOvers", fn := fun _ => fun
  | [d1, d2, d3, d4, d5] => { results := [.lit (.bool true)], args := [d1, d2, d3, d4, d5] }
  | _ => none }
def runOversRow : OpenClaim := { program := "ytiokdeomdeenbaadoor", sum := "772a186f01e7b76c0f0862e825b6be4ab84519de784f3b40080e5bdd2ee4bae8", func := "diacritic/diacriticlaw04.RunOvers", spec := "runOvers", unfollowed := true, recurses := true, named := ["unicode/utf8.first", "unicode/utf8.acceptRanges"], apart := false, laid := [("unicode/utf8.acceptRanges", laid_unicode_utf8_acceptRanges), ("unicode/utf8.first", laid_unicode_utf8_first)] }
def RunOversSaid : Prop := runOversRow.holds Tryd.pinned (OpenSpec.ofChange runOversSpec)

/-- ITS FALSE NEIGHBOUR: 'it returns false'. Refute it at one input. -/
def runOversWrong : ChangeSpec := { name := "runOvers", fn := fun _ => fun
  | [d1, d2, d3, d4, d5] => { results := [.lit (.bool false)], args := [d1, d2, d3, d4, d5] }
  | _ => none }
def RunOversWrongFalsely : Prop := runOversRow.holds Tryd.pinned (OpenSpec.ofChange runOversWrong)

/-- 'diacriticlaw04.RunBack': WHATEVER THE INPUT: true; the input reads as it did. -/
def runBackSpec : ChangeSpec := { name := "runBack", fn := fun _ => fun
  | [d] => { results := [.lit (.bool true)], args := [d] }
  | _ => none }
def runBackRow : OpenClaim := { program := "ytiokdeomdeenbaadoor", sum := "772a186f01e7b76c0f0862e825b6be4ab84519de784f3b40080e5bdd2ee4bae8", func := "diacritic/diacriticlaw04.RunBack", spec := "runBack", unfollowed := true, recurses := true, named := ["unicode/utf8.first", "unicode/utf8.acceptRanges"], apart := false, laid := [("unicode/utf8.acceptRanges", laid_unicode_utf8_acceptRanges), ("unicode/utf8.first", laid_unicode_utf8_first)] }
def RunBackSaid : Prop := runBackRow.holds Tryd.pinned (OpenSpec.ofChange runBackSpec)

/-- ITS FALSE NEIGHBOUR: 'it returns false'. Refute it at one input. -/
def runBackWrong : ChangeSpec := { name := "runBack", fn := fun _ => fun
  | [d] => { results := [.lit (.bool false)], args := [d] }
  | _ => none }
def RunBackWrongFalsely : Prop := runBackRow.holds Tryd.pinned (OpenSpec.ofChange runBackWrong)

/-- 'diacriticlaw05.SingleSets': WHATEVER THE INPUT: true; the input reads as it did. -/
def singleSetsSpec : ChangeSpec := { name := "singleSets", fn := fun _ => fun
  | [d] => { results := [.lit (.bool true)], args := [d] }
  | _ => none }
def singleSetsRow : OpenClaim := { program := "ytiokdeomdeenbaadoor", sum := "772a186f01e7b76c0f0862e825b6be4ab84519de784f3b40080e5bdd2ee4bae8", func := "diacritic/diacriticlaw05.SingleSets", spec := "singleSets", unfollowed := true, recurses := true, named := ["unicode/utf8.first", "unicode/utf8.acceptRanges"], apart := false, laid := [("unicode/utf8.acceptRanges", laid_unicode_utf8_acceptRanges), ("unicode/utf8.first", laid_unicode_utf8_first)] }
def SingleSetsSaid : Prop := singleSetsRow.holds Tryd.pinned (OpenSpec.ofChange singleSetsSpec)

/-- ITS FALSE NEIGHBOUR: 'it returns false'. Refute it at one input. -/
def singleSetsWrong : ChangeSpec := { name := "singleSets", fn := fun _ => fun
  | [d] => { results := [.lit (.bool false)], args := [d] }
  | _ => none }
def SingleSetsWrongFalsely : Prop := singleSetsRow.holds Tryd.pinned (OpenSpec.ofChange singleSetsWrong)

/-- 'diacriticlaw05.SingleReads': WHATEVER THE INPUT: true; the input reads as it did. -/
def singleReadsSpec : ChangeSpec := { name := "singleReads", fn := fun _ => fun
  | [d1, d2] => { results := [.lit (.bool true)], args := [d1, d2] }
  | _ => none }
def singleReadsRow : OpenClaim := { program := "ytiokdeomdeenbaadoor", sum := "772a186f01e7b76c0f0862e825b6be4ab84519de784f3b40080e5bdd2ee4bae8", func := "diacritic/diacriticlaw05.SingleReads", spec := "singleReads", unfollowed := true, recurses := true, named := ["unicode/utf8.first", "unicode/utf8.acceptRanges"], apart := false, laid := [("unicode/utf8.acceptRanges", laid_unicode_utf8_acceptRanges), ("unicode/utf8.first", laid_unicode_utf8_first)] }
def SingleReadsSaid : Prop := singleReadsRow.holds Tryd.pinned (OpenSpec.ofChange singleReadsSpec)

/-- ITS FALSE NEIGHBOUR: 'it returns false'. Refute it at one input. -/
def singleReadsWrong : ChangeSpec := { name := "singleReads", fn := fun _ => fun
  | [d1, d2] => { results := [.lit (.bool false)], args := [d1, d2] }
  | _ => none }
def SingleReadsWrongFalsely : Prop := singleReadsRow.holds Tryd.pinned (OpenSpec.ofChange singleReadsWrong)

/-- 'diacriticlaw05.SingleWrites': WHATEVER THE INPUT: true; the input reads as it did. -/
def singleWritesSpec : ChangeSpec := { name := "singleWrites", fn := fun _ => fun
  | [d1, d2] => { results := [.lit (.bool true)], args := [d1, d2] }
  | _ => none }
def singleWritesRow : OpenClaim := { program := "ytiokdeomdeenbaadoor", sum := "772a186f01e7b76c0f0862e825b6be4ab84519de784f3b40080e5bdd2ee4bae8", func := "diacritic/diacriticlaw05.SingleWrites", spec := "singleWrites", unfollowed := true, recurses := true, named := ["unicode/utf8.first", "unicode/utf8.acceptRanges"], apart := false, laid := [("unicode/utf8.acceptRanges", laid_unicode_utf8_acceptRanges), ("unicode/utf8.first", laid_unicode_utf8_first)] }
def SingleWritesSaid : Prop := singleWritesRow.holds Tryd.pinned (OpenSpec.ofChange singleWritesSpec)

/-- ITS FALSE NEIGHBOUR: 'it returns false'. Refute it at one input. -/
def singleWritesWrong : ChangeSpec := { name := "singleWrites", fn := fun _ => fun
  | [d1, d2] => { results := [.lit (.bool false)], args := [d1, d2] }
  | _ => none }
def SingleWritesWrongFalsely : Prop := singleWritesRow.holds Tryd.pinned (OpenSpec.ofChange singleWritesWrong)

/-- 'diacriticlaw05.SingleParts': WHATEVER THE INPUT: true; the input reads as it did. -/
def singlePartsSpec : ChangeSpec := { name := "singleParts", fn := fun _ => fun
  | [d1, d2, d3] => { results := [.lit (.bool true)], args := [d1, d2, d3] }
  | _ => none }
def singlePartsRow : OpenClaim := { program := "ytiokdeomdeenbaadoor", sum := "772a186f01e7b76c0f0862e825b6be4ab84519de784f3b40080e5bdd2ee4bae8", func := "diacritic/diacriticlaw05.SingleParts", spec := "singleParts", unfollowed := true, recurses := true, named := ["unicode/utf8.first", "unicode/utf8.acceptRanges"], apart := false, laid := [("unicode/utf8.acceptRanges", laid_unicode_utf8_acceptRanges), ("unicode/utf8.first", laid_unicode_utf8_first)] }
def SinglePartsSaid : Prop := singlePartsRow.holds Tryd.pinned (OpenSpec.ofChange singlePartsSpec)

/-- ITS FALSE NEIGHBOUR: 'it returns false'. Refute it at one input. -/
def singlePartsWrong : ChangeSpec := { name := "singleParts", fn := fun _ => fun
  | [d1, d2, d3] => { results := [.lit (.bool false)], args := [d1, d2, d3] }
  | _ => none }
def SinglePartsWrongFalsely : Prop := singlePartsRow.holds Tryd.pinned (OpenSpec.ofChange singlePartsWrong)

/-- 'diacriticlaw05.SingleNone': WHATEVER THE INPUT: true; the input reads as it did. -/
def singleNoneSpec : ChangeSpec := { name := "singleNone", fn := fun _ => fun
  | [d] => { results := [.lit (.bool true)], args := [d] }
  | _ => none }
def singleNoneRow : OpenClaim := { program := "ytiokdeomdeenbaadoor", sum := "772a186f01e7b76c0f0862e825b6be4ab84519de784f3b40080e5bdd2ee4bae8", func := "diacritic/diacriticlaw05.SingleNone", spec := "singleNone", unfollowed := true, recurses := true, named := ["unicode/utf8.first", "unicode/utf8.acceptRanges"], apart := false, laid := [("unicode/utf8.acceptRanges", laid_unicode_utf8_acceptRanges), ("unicode/utf8.first", laid_unicode_utf8_first)] }
def SingleNoneSaid : Prop := singleNoneRow.holds Tryd.pinned (OpenSpec.ofChange singleNoneSpec)

/-- ITS FALSE NEIGHBOUR: 'it returns false'. Refute it at one input. -/
def singleNoneWrong : ChangeSpec := { name := "singleNone", fn := fun _ => fun
  | [d] => { results := [.lit (.bool false)], args := [d] }
  | _ => none }
def SingleNoneWrongFalsely : Prop := singleNoneRow.holds Tryd.pinned (OpenSpec.ofChange singleNoneWrong)

/- THE SECOND FORM. 'bulk': how many values and letters a reading holds, each counted each time it is reached (what is shared counts as often as it is met; a slice's spare places count too). A statement '..UptoSaid' is the law's where the arguments, and the package variables that the reading takes, are together of bulk at most 1048576: NARROWER than '..Said'. Prove '..Said' where nothing that the law and all that it calls make is longer than what came in: it says more and counts as full. Else prove '..UptoSaid'. A law counts once. -/
mutual
def uptoBulk {H : Type} : DataW H → Nat
  | .lit (.string bytes) => bytes.length + 1
  | .lit _ => 1
  | .nil => 1
  | .ptr d => uptoBulk d + 1
  | .slice elems spare => uptoBulkAll elems + uptoBulkAll spare + 1
  | .agg parts => uptoBulkAll parts + 1
  | .iface _ d => uptoBulk d + 1
  | .map entries => uptoBulkEntries entries + 1
  | .held _ => 1
def uptoBulkAll {H : Type} : List (DataW H) → Nat
  | [] => 0
  | d :: r => uptoBulk d + uptoBulkAll r
def uptoBulkEntries {H : Type} : List (Lit × DataW H) → Nat
  | [] => 0
  | x :: r => uptoBulkEntry x + uptoBulkEntries r
def uptoBulkEntry {H : Type} : Lit × DataW H → Nat
  | (.string bytes, d) => bytes.length + uptoBulk d + 1
  | (_, d) => uptoBulk d + 1
 end
def uptoSmall : (H : Type) → List (DataW H) → Bool := fun _ ds => decide (uptoBulkAll ds ≤ 1048576)
def OpenSpec.upto (s : _root_.Go.ChangeSpec) : _root_.Go.OpenSpec := { _root_.Go.OpenSpec.ofChange s with cond := some uptoSmall }

/-- 'diacriticlaw04.RunTables', WHERE WHAT IT READS IS OF BULK AT MOST 1048576: true; the input reads as it did. -/
def runTablesUptoRow : OpenClaim := { program := "ytiokdeomdeenbaadoor", sum := "772a186f01e7b76c0f0862e825b6be4ab84519de784f3b40080e5bdd2ee4bae8", func := "diacritic/diacriticlaw04.RunTables", spec := "runTables", unfollowed := true, recurses := true, named := ["unicode/utf8.first", "unicode/utf8.acceptRanges"], apart := false, laid := [("unicode/utf8.acceptRanges", laid_unicode_utf8_acceptRanges), ("unicode/utf8.first", laid_unicode_utf8_first)], narrowed := true }
def RunTablesUptoSaid : Prop := runTablesUptoRow.holds Tryd.pinned (OpenSpec.upto runTablesSpec)

/-- 'diacriticlaw04.RunLooks', WHERE WHAT IT READS IS OF BULK AT MOST 1048576: true; the input reads as it did. -/
def runLooksUptoRow : OpenClaim := { program := "ytiokdeomdeenbaadoor", sum := "772a186f01e7b76c0f0862e825b6be4ab84519de784f3b40080e5bdd2ee4bae8", func := "diacritic/diacriticlaw04.RunLooks", spec := "runLooks", unfollowed := true, recurses := true, named := ["unicode/utf8.first", "unicode/utf8.acceptRanges"], apart := false, laid := [("unicode/utf8.acceptRanges", laid_unicode_utf8_acceptRanges), ("unicode/utf8.first", laid_unicode_utf8_first)], narrowed := true }
def RunLooksUptoSaid : Prop := runLooksUptoRow.holds Tryd.pinned (OpenSpec.upto runLooksSpec)

/-- 'diacriticlaw04.RunOvers', WHERE WHAT IT READS IS OF BULK AT MOST 1048576: true; the input reads as it did. -/
def runOversUptoRow : OpenClaim := { program := "ytiokdeomdeenbaadoor", sum := "772a186f01e7b76c0f0862e825b6be4ab84519de784f3b40080e5bdd2ee4bae8", func := "diacritic/diacriticlaw04.RunOvers", spec := "runOvers", unfollowed := true, recurses := true, named := ["unicode/utf8.first", "unicode/utf8.acceptRanges"], apart := false, laid := [("unicode/utf8.acceptRanges", laid_unicode_utf8_acceptRanges), ("unicode/utf8.first", laid_unicode_utf8_first)], narrowed := true }
def RunOversUptoSaid : Prop := runOversUptoRow.holds Tryd.pinned (OpenSpec.upto runOversSpec)

/-- 'diacriticlaw04.RunBack', WHERE WHAT IT READS IS OF BULK AT MOST 1048576: true; the input reads as it did. -/
def runBackUptoRow : OpenClaim := { program := "ytiokdeomdeenbaadoor", sum := "772a186f01e7b76c0f0862e825b6be4ab84519de784f3b40080e5bdd2ee4bae8", func := "diacritic/diacriticlaw04.RunBack", spec := "runBack", unfollowed := true, recurses := true, named := ["unicode/utf8.first", "unicode/utf8.acceptRanges"], apart := false, laid := [("unicode/utf8.acceptRanges", laid_unicode_utf8_acceptRanges), ("unicode/utf8.first", laid_unicode_utf8_first)], narrowed := true }
def RunBackUptoSaid : Prop := runBackUptoRow.holds Tryd.pinned (OpenSpec.upto runBackSpec)

/-- 'diacriticlaw05.SingleSets', WHERE WHAT IT READS IS OF BULK AT MOST 1048576: true; the input reads as it did. -/
def singleSetsUptoRow : OpenClaim := { program := "ytiokdeomdeenbaadoor", sum := "772a186f01e7b76c0f0862e825b6be4ab84519de784f3b40080e5bdd2ee4bae8", func := "diacritic/diacriticlaw05.SingleSets", spec := "singleSets", unfollowed := true, recurses := true, named := ["unicode/utf8.first", "unicode/utf8.acceptRanges"], apart := false, laid := [("unicode/utf8.acceptRanges", laid_unicode_utf8_acceptRanges), ("unicode/utf8.first", laid_unicode_utf8_first)], narrowed := true }
def SingleSetsUptoSaid : Prop := singleSetsUptoRow.holds Tryd.pinned (OpenSpec.upto singleSetsSpec)

/-- 'diacriticlaw05.SingleReads', WHERE WHAT IT READS IS OF BULK AT MOST 1048576: true; the input reads as it did. -/
def singleReadsUptoRow : OpenClaim := { program := "ytiokdeomdeenbaadoor", sum := "772a186f01e7b76c0f0862e825b6be4ab84519de784f3b40080e5bdd2ee4bae8", func := "diacritic/diacriticlaw05.SingleReads", spec := "singleReads", unfollowed := true, recurses := true, named := ["unicode/utf8.first", "unicode/utf8.acceptRanges"], apart := false, laid := [("unicode/utf8.acceptRanges", laid_unicode_utf8_acceptRanges), ("unicode/utf8.first", laid_unicode_utf8_first)], narrowed := true }
def SingleReadsUptoSaid : Prop := singleReadsUptoRow.holds Tryd.pinned (OpenSpec.upto singleReadsSpec)

/-- 'diacriticlaw05.SingleWrites', WHERE WHAT IT READS IS OF BULK AT MOST 1048576: true; the input reads as it did. -/
def singleWritesUptoRow : OpenClaim := { program := "ytiokdeomdeenbaadoor", sum := "772a186f01e7b76c0f0862e825b6be4ab84519de784f3b40080e5bdd2ee4bae8", func := "diacritic/diacriticlaw05.SingleWrites", spec := "singleWrites", unfollowed := true, recurses := true, named := ["unicode/utf8.first", "unicode/utf8.acceptRanges"], apart := false, laid := [("unicode/utf8.acceptRanges", laid_unicode_utf8_acceptRanges), ("unicode/utf8.first", laid_unicode_utf8_first)], narrowed := true }
def SingleWritesUptoSaid : Prop := singleWritesUptoRow.holds Tryd.pinned (OpenSpec.upto singleWritesSpec)

/-- 'diacriticlaw05.SingleParts', WHERE WHAT IT READS IS OF BULK AT MOST 1048576: true; the input reads as it did. -/
def singlePartsUptoRow : OpenClaim := { program := "ytiokdeomdeenbaadoor", sum := "772a186f01e7b76c0f0862e825b6be4ab84519de784f3b40080e5bdd2ee4bae8", func := "diacritic/diacriticlaw05.SingleParts", spec := "singleParts", unfollowed := true, recurses := true, named := ["unicode/utf8.first", "unicode/utf8.acceptRanges"], apart := false, laid := [("unicode/utf8.acceptRanges", laid_unicode_utf8_acceptRanges), ("unicode/utf8.first", laid_unicode_utf8_first)], narrowed := true }
def SinglePartsUptoSaid : Prop := singlePartsUptoRow.holds Tryd.pinned (OpenSpec.upto singlePartsSpec)

/-- 'diacriticlaw05.SingleNone', WHERE WHAT IT READS IS OF BULK AT MOST 1048576: true; the input reads as it did. -/
def singleNoneUptoRow : OpenClaim := { program := "ytiokdeomdeenbaadoor", sum := "772a186f01e7b76c0f0862e825b6be4ab84519de784f3b40080e5bdd2ee4bae8", func := "diacritic/diacriticlaw05.SingleNone", spec := "singleNone", unfollowed := true, recurses := true, named := ["unicode/utf8.first", "unicode/utf8.acceptRanges"], apart := false, laid := [("unicode/utf8.acceptRanges", laid_unicode_utf8_acceptRanges), ("unicode/utf8.first", laid_unicode_utf8_first)], narrowed := true }
def SingleNoneUptoSaid : Prop := singleNoneUptoRow.holds Tryd.pinned (OpenSpec.upto singleNoneSpec)

end Rows
end Go.Proofs.YtiokdeomdeenbaaDoor
