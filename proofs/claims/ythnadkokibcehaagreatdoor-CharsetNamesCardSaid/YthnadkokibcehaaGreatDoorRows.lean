/-
  NARROWER THAN 'FOR EVERY INPUT', by the rows' own cells (each row's printed sentence says how): CharsetNames: laid.
  DERIVED. THE GIVEN ROWS OF THIS SEAT. 1 by the template 'for every input the law returns true; each argument reads behind the call as it read before'; 0 by the template 'total and deterministic' (their statements: YthnadkokibcehaaGreatDoorTotals.lean).
  GIVEN WITH THE SEED: the statements are not yours to turn. If you find one false, say at which input.
  Laid BY PROGRAM, IN A SANDBOX (cutbox-rows.mjs): the forced cells as the released guide's own fill.sh prints them over the translation 9d82690f316db3ba… (all of the seat's roots in one cut). By AI agents, Wed Nov 11 2026. No macro, syntax, notation, axiom, sorry.
-/
import Derived.Test.YthnadkokibcehaaGreatDoorChecked
import GoSem.PinnedTables
import GoSem.Claim
import GoSem.ClaimJoined
import GoSem.ClaimMapViews
import Derived.JoinedTies
import Derived.KernelRfl
namespace Go.Proofs.YthnadkokibcehaaGreatDoor
/- THE CELL 'sum', in the pinned program and in every row, IS THE sha256 OF THE DUMP (.gsa) THAT YthnadkokibcehaaGreatDoorProg.lean LOADS. Nothing in Lean hashes anything: it is a label: what it is worth is what the hold of that sum in a sandbox is worth. -/
noncomputable def Tryz.pinned : Pinned := { name := "ythnadkokibcehaagreatdoor", sum := "9d82690f316db3badf3dead3a038e1a64ff6e6fbefca78c9683b8053607bc7ca", checked := Tryz.checked }
namespace Rows
def none {H : Type} : Left H := { results := [], args := [] }

/- WHAT THE LISTED PACKAGE-LEVEL VARIABLES READ AS WHEN THE CALL BEGINS. Each datum BY PROGRAM (the guide's laid-datum.mjs) off the statement by which the dump's own 'gosem.cut.vars' lays the variable. In a bare row this is a premise. The card (YthnadkokibcehaaGreatDoorCards.lean) ties it to the program's text. -/
def laid_unicode_utf8_acceptRanges {H : Type} : DataW H := .agg [.agg [.lit (.int .u8 128), .lit (.int .u8 191)], .agg [.lit (.int .u8 160), .lit (.int .u8 191)], .agg [.lit (.int .u8 128), .lit (.int .u8 159)], .agg [.lit (.int .u8 144), .lit (.int .u8 191)], .agg [.lit (.int .u8 128), .lit (.int .u8 143)], .agg [.lit (.int .u8 0), .lit (.int .u8 0)], .agg [.lit (.int .u8 0), .lit (.int .u8 0)], .agg [.lit (.int .u8 0), .lit (.int .u8 0)], .agg [.lit (.int .u8 0), .lit (.int .u8 0)], .agg [.lit (.int .u8 0), .lit (.int .u8 0)], .agg [.lit (.int .u8 0), .lit (.int .u8 0)], .agg [.lit (.int .u8 0), .lit (.int .u8 0)], .agg [.lit (.int .u8 0), .lit (.int .u8 0)], .agg [.lit (.int .u8 0), .lit (.int .u8 0)], .agg [.lit (.int .u8 0), .lit (.int .u8 0)], .agg [.lit (.int .u8 0), .lit (.int .u8 0)]]
def laid_diacritic_big5_doubles {H : Type} : DataW H := .agg [.agg [.lit (.int .i64 34914), .agg [.lit (.int .i32 202), .lit (.int .i32 772)]], .agg [.lit (.int .i64 34916), .agg [.lit (.int .i32 202), .lit (.int .i32 780)]], .agg [.lit (.int .i64 34979), .agg [.lit (.int .i32 234), .lit (.int .i32 772)]], .agg [.lit (.int .i64 34981), .agg [.lit (.int .i32 234), .lit (.int .i32 780)]]]
def laid_diacritic_johab_kinds {H : Type} : DataW H := .agg [.agg [.lit (.string [1, 2, 3, 4, 5, 6, 7, 8, 9, 10, 11, 12, 13, 14, 15, 16, 17, 18, 19, 20]), .lit (.int .i64 (-1)), .lit (.int .i64 10)], .agg [.lit (.string [2, 3, 4, 5, 6, 7, 10, 11, 12, 13, 14, 15, 18, 19, 20, 21, 22, 23, 26, 27, 28, 29]), .lit (.int .i64 (-1)), .lit (.int .i64 5)], .agg [.lit (.string [1, 2, 3, 4, 5, 6, 7, 8, 9, 10, 11, 12, 13, 14, 15, 16, 17, 19, 20, 21, 22, 23, 24, 25, 26, 27, 28, 29]), .lit (.int .i64 0), .lit (.int .i64 0)]]
def laid_diacritic_charset_names {H : Type} : DataW H := .agg [.agg [.lit (.string [108, 97, 116, 105, 110, 49]), .lit (.int .i64 0)], .agg [.lit (.string [105, 115, 111, 45, 56, 56, 53, 57, 45, 49]), .lit (.int .i64 0)], .agg [.lit (.string [108, 97, 116, 105, 110, 45, 49]), .lit (.int .i64 0)], .agg [.lit (.string [107, 111, 105, 56, 45, 114]), .lit (.int .i64 1)], .agg [.lit (.string [107, 111, 105, 56, 114]), .lit (.int .i64 1)], .agg [.lit (.string [107, 111, 105, 56, 45, 117]), .lit (.int .i64 2)], .agg [.lit (.string [107, 111, 105, 56, 117]), .lit (.int .i64 2)], .agg [.lit (.string [99, 112, 56, 54, 54]), .lit (.int .i64 3)], .agg [.lit (.string [105, 98, 109, 56, 54, 54]), .lit (.int .i64 3)], .agg [.lit (.string [99, 112, 57, 52, 57]), .lit (.int .i64 4)], .agg [.lit (.string [101, 117, 99, 45, 107, 114]), .lit (.int .i64 4)], .agg [.lit (.string [117, 104, 99]), .lit (.int .i64 4)], .agg [.lit (.string [106, 111, 104, 97, 98]), .lit (.int .i64 5)], .agg [.lit (.string [99, 112, 49, 51, 54, 49]), .lit (.int .i64 5)], .agg [.lit (.string [98, 105, 103, 53, 45, 104, 107, 115, 99, 115]), .lit (.int .i64 6)], .agg [.lit (.string [98, 105, 103, 53]), .lit (.int .i64 6)], .agg [.lit (.string [117, 116, 102, 45, 56]), .lit (.int .i64 7)], .agg [.lit (.string [117, 116, 102, 56]), .lit (.int .i64 7)], .agg [.lit (.string [117, 116, 102, 45, 49, 54, 108, 101]), .lit (.int .i64 8)], .agg [.lit (.string [117, 116, 102, 49, 54, 108, 101]), .lit (.int .i64 8)], .agg [.lit (.string [117, 116, 102, 45, 49, 54, 98, 101]), .lit (.int .i64 9)], .agg [.lit (.string [117, 116, 102, 49, 54, 98, 101]), .lit (.int .i64 9)]]
/-- One of Go's own tables, pinned by name: the form's constant. -/
def laid_unicode_utf8_first : DataW Unit := Go.Pinned.utf8First

/-- 'diacriticlaw09.CharsetNames': WHATEVER THE INPUT: true; the input reads as it did. -/
def charsetNamesSpec : ChangeSpec := { name := "charsetNames", fn := fun _ => fun
  | [d1, d2] => { results := [.lit (.bool true)], args := [d1, d2] }
  | _ => none }
def charsetNamesRow : OpenClaim := { program := "ythnadkokibcehaagreatdoor", sum := "9d82690f316db3badf3dead3a038e1a64ff6e6fbefca78c9683b8053607bc7ca", func := "diacritic/diacriticlaw09.CharsetNames", spec := "charsetNames", inPlace := ["internal/bytealg.IndexByteString", "internal/bytealg.IndexString"], unfollowed := true, recurses := true, named := ["unicode/utf8.first", "unicode/utf8.acceptRanges", "diacritic/johab.kinds", "diacritic/big5.doubles", "diacritic/charset.names", "internal/bytealg.MaxLen"], apart := false, laid := [("unicode/utf8.acceptRanges", laid_unicode_utf8_acceptRanges), ("diacritic/big5.doubles", laid_diacritic_big5_doubles), ("diacritic/johab.kinds", laid_diacritic_johab_kinds), ("diacritic/charset.names", laid_diacritic_charset_names), ("unicode/utf8.first", laid_unicode_utf8_first)] }
def CharsetNamesSaid : Prop := charsetNamesRow.holds Tryz.pinned (OpenSpec.ofChange charsetNamesSpec)

/-- ITS FALSE NEIGHBOUR: 'it returns false'. Refute it at one input. -/
def charsetNamesWrong : ChangeSpec := { name := "charsetNames", fn := fun _ => fun
  | [d1, d2] => { results := [.lit (.bool false)], args := [d1, d2] }
  | _ => none }
def CharsetNamesWrongFalsely : Prop := charsetNamesRow.holds Tryz.pinned (OpenSpec.ofChange charsetNamesWrong)

/- THE SECOND FORM. 'bulk': how many values and letters a reading holds, each counted each time it is reached (what is shared counts as often as it is met; a slice's spare places count too). A statement '..UptoSaid' is the law's where the arguments, and the package variables that the reading takes, are together of bulk at most 1048576: NARROWER than '..Said'. Prove '..Said' where nothing that the law and all that it calls make is longer than what came in: it says more and counts as full. Else prove '..UptoSaid'. A law counts once. -/
mutual
def uptoBulk {H : Type} : DataW H → Nat
  | .lit (.string bytes) => bytes.length + 1
  | .lit _ => 1
  | .nil => 1
  | .ptr d => uptoBulk d + 1
  | .slice elems spare => uptoBulkAll elems + uptoBulkAll spare + 1
  | .agg parts => uptoBulkAll parts + 1
  | .iface _ d => uptoBulk d + 1
  | .map entries => uptoBulkEntries entries + 1
  | .held _ => 1
def uptoBulkAll {H : Type} : List (DataW H) → Nat
  | [] => 0
  | d :: r => uptoBulk d + uptoBulkAll r
def uptoBulkEntries {H : Type} : List (Lit × DataW H) → Nat
  | [] => 0
  | x :: r => uptoBulkEntry x + uptoBulkEntries r
def uptoBulkEntry {H : Type} : Lit × DataW H → Nat
  | (.string bytes, d) => bytes.length + uptoBulk d + 1
  | (_, d) => uptoBulk d + 1
 end
def uptoSmall : (H : Type) → List (DataW H) → Bool := fun _ ds => decide (uptoBulkAll ds ≤ 1048576)
def OpenSpec.upto (s : _root_.Go.ChangeSpec) : _root_.Go.OpenSpec := { _root_.Go.OpenSpec.ofChange s with cond := some uptoSmall }

/-- 'diacriticlaw09.CharsetNames', WHERE WHAT IT READS IS OF BULK AT MOST 1048576: true; the input reads as it did. -/
def charsetNamesUptoRow : OpenClaim := { program := "ythnadkokibcehaagreatdoor", sum := "9d82690f316db3badf3dead3a038e1a64ff6e6fbefca78c9683b8053607bc7ca", func := "diacritic/diacriticlaw09.CharsetNames", spec := "charsetNames", inPlace := ["internal/bytealg.IndexByteString", "internal/bytealg.IndexString"], unfollowed := true, recurses := true, named := ["unicode/utf8.first", "unicode/utf8.acceptRanges", "diacritic/johab.kinds", "diacritic/big5.doubles", "diacritic/charset.names", "internal/bytealg.MaxLen"], apart := false, laid := [("unicode/utf8.acceptRanges", laid_unicode_utf8_acceptRanges), ("diacritic/big5.doubles", laid_diacritic_big5_doubles), ("diacritic/johab.kinds", laid_diacritic_johab_kinds), ("diacritic/charset.names", laid_diacritic_charset_names), ("unicode/utf8.first", laid_unicode_utf8_first)], narrowed := true }
def CharsetNamesUptoSaid : Prop := charsetNamesUptoRow.holds Tryz.pinned (OpenSpec.upto charsetNamesSpec)

end Rows
end Go.Proofs.YthnadkokibcehaaGreatDoor
