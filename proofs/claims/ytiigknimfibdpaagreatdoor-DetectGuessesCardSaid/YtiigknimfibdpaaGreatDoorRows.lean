/-
  NARROWER THAN 'FOR EVERY INPUT', by the rows' own cells (each row's printed sentence says how): DetectScores: laid · DetectGuesses: laid · DetectMarks: laid · DetectResolves: laid · DetectSums: laid · DetectSigns: laid.
  DERIVED. THE GIVEN ROWS OF THIS SEAT. 6 by the template 'for every input the law returns true; each argument reads behind the call as it read before'; 0 by the template 'total and deterministic' (their statements: YtiigknimfibdpaaGreatDoorTotals.lean).
  GIVEN WITH THE SEED: the statements are not yours to turn. If you find one false, say at which input.
  Laid BY PROGRAM, IN A SANDBOX (cutbox-rows.mjs): the forced cells as the released guide's own fill.sh prints them over the translation eab17932b658800f… (all of the seat's roots in one cut). By AI agents, Wed Nov 11 2026. No macro, syntax, notation, axiom, sorry.
-/
import Derived.Test.YtiigknimfibdpaaGreatDoorChecked
import GoSem.PinnedTables
import GoSem.Claim
import GoSem.ClaimJoined
import GoSem.ClaimMapViews
import Derived.JoinedTies
import Derived.KernelRfl
namespace Go.Proofs.YtiigknimfibdpaaGreatDoor
/- THE CELL 'sum', in the pinned program and in every row, IS THE sha256 OF THE DUMP (.gsa) THAT YtiigknimfibdpaaGreatDoorProg.lean LOADS. Nothing in Lean hashes anything: it is a label: what it is worth is what the hold of that sum in a sandbox is worth. -/
noncomputable def Tryz.pinned : Pinned := { name := "ytiigknimfibdpaagreatdoor", sum := "eab17932b658800f030189ca0f9632df099599bb8d61c323f41219d08f68a1eb", checked := Tryz.checked }
namespace Rows
def none {H : Type} : Left H := { results := [], args := [] }

/- WHAT THE LISTED PACKAGE-LEVEL VARIABLES READ AS WHEN THE CALL BEGINS. Each datum BY PROGRAM (the guide's laid-datum.mjs) off the statement by which the dump's own 'gosem.cut.vars' lays the variable. In a bare row this is a premise. The card (YtiigknimfibdpaaGreatDoorCards.lean) ties it to the program's text. -/
def laid_unicode_utf8_acceptRanges {H : Type} : DataW H := .agg [.agg [.lit (.int .u8 128), .lit (.int .u8 191)], .agg [.lit (.int .u8 160), .lit (.int .u8 191)], .agg [.lit (.int .u8 128), .lit (.int .u8 159)], .agg [.lit (.int .u8 144), .lit (.int .u8 191)], .agg [.lit (.int .u8 128), .lit (.int .u8 143)], .agg [.lit (.int .u8 0), .lit (.int .u8 0)], .agg [.lit (.int .u8 0), .lit (.int .u8 0)], .agg [.lit (.int .u8 0), .lit (.int .u8 0)], .agg [.lit (.int .u8 0), .lit (.int .u8 0)], .agg [.lit (.int .u8 0), .lit (.int .u8 0)], .agg [.lit (.int .u8 0), .lit (.int .u8 0)], .agg [.lit (.int .u8 0), .lit (.int .u8 0)], .agg [.lit (.int .u8 0), .lit (.int .u8 0)], .agg [.lit (.int .u8 0), .lit (.int .u8 0)], .agg [.lit (.int .u8 0), .lit (.int .u8 0)], .agg [.lit (.int .u8 0), .lit (.int .u8 0)]]
def laid_diacritic_big5_doubles {H : Type} : DataW H := .agg [.agg [.lit (.int .i64 34914), .agg [.lit (.int .i32 202), .lit (.int .i32 772)]], .agg [.lit (.int .i64 34916), .agg [.lit (.int .i32 202), .lit (.int .i32 780)]], .agg [.lit (.int .i64 34979), .agg [.lit (.int .i32 234), .lit (.int .i32 772)]], .agg [.lit (.int .i64 34981), .agg [.lit (.int .i32 234), .lit (.int .i32 780)]]]
def laid_diacritic_johab_kinds {H : Type} : DataW H := .agg [.agg [.lit (.string [1, 2, 3, 4, 5, 6, 7, 8, 9, 10, 11, 12, 13, 14, 15, 16, 17, 18, 19, 20]), .lit (.int .i64 (-1)), .lit (.int .i64 10)], .agg [.lit (.string [2, 3, 4, 5, 6, 7, 10, 11, 12, 13, 14, 15, 18, 19, 20, 21, 22, 23, 26, 27, 28, 29]), .lit (.int .i64 (-1)), .lit (.int .i64 5)], .agg [.lit (.string [1, 2, 3, 4, 5, 6, 7, 8, 9, 10, 11, 12, 13, 14, 15, 16, 17, 19, 20, 21, 22, 23, 24, 25, 26, 27, 28, 29]), .lit (.int .i64 0), .lit (.int .i64 0)]]
def laid_diacritic_charset_names {H : Type} : DataW H := .agg [.agg [.lit (.string [108, 97, 116, 105, 110, 49]), .lit (.int .i64 0)], .agg [.lit (.string [105, 115, 111, 45, 56, 56, 53, 57, 45, 49]), .lit (.int .i64 0)], .agg [.lit (.string [108, 97, 116, 105, 110, 45, 49]), .lit (.int .i64 0)], .agg [.lit (.string [107, 111, 105, 56, 45, 114]), .lit (.int .i64 1)], .agg [.lit (.string [107, 111, 105, 56, 114]), .lit (.int .i64 1)], .agg [.lit (.string [107, 111, 105, 56, 45, 117]), .lit (.int .i64 2)], .agg [.lit (.string [107, 111, 105, 56, 117]), .lit (.int .i64 2)], .agg [.lit (.string [99, 112, 56, 54, 54]), .lit (.int .i64 3)], .agg [.lit (.string [105, 98, 109, 56, 54, 54]), .lit (.int .i64 3)], .agg [.lit (.string [99, 112, 57, 52, 57]), .lit (.int .i64 4)], .agg [.lit (.string [101, 117, 99, 45, 107, 114]), .lit (.int .i64 4)], .agg [.lit (.string [117, 104, 99]), .lit (.int .i64 4)], .agg [.lit (.string [106, 111, 104, 97, 98]), .lit (.int .i64 5)], .agg [.lit (.string [99, 112, 49, 51, 54, 49]), .lit (.int .i64 5)], .agg [.lit (.string [98, 105, 103, 53, 45, 104, 107, 115, 99, 115]), .lit (.int .i64 6)], .agg [.lit (.string [98, 105, 103, 53]), .lit (.int .i64 6)], .agg [.lit (.string [117, 116, 102, 45, 56]), .lit (.int .i64 7)], .agg [.lit (.string [117, 116, 102, 56]), .lit (.int .i64 7)], .agg [.lit (.string [117, 116, 102, 45, 49, 54, 108, 101]), .lit (.int .i64 8)], .agg [.lit (.string [117, 116, 102, 49, 54, 108, 101]), .lit (.int .i64 8)], .agg [.lit (.string [117, 116, 102, 45, 49, 54, 98, 101]), .lit (.int .i64 9)], .agg [.lit (.string [117, 116, 102, 49, 54, 98, 101]), .lit (.int .i64 9)]]
/-- One of Go's own tables, pinned by name: the form's constant. -/
def laid_unicode_utf8_first : DataW Unit := Go.Pinned.utf8First

/-- 'diacriticlaw10.DetectScores': WHATEVER THE INPUT: true; the input reads as it did. -/
def detectScoresSpec : ChangeSpec := { name := "detectScores", fn := fun _ => fun
  | [d1, d2] => { results := [.lit (.bool true)], args := [d1, d2] }
  | _ => none }
def detectScoresRow : OpenClaim := { program := "ytiigknimfibdpaagreatdoor", sum := "eab17932b658800f030189ca0f9632df099599bb8d61c323f41219d08f68a1eb", func := "diacritic/diacriticlaw10.DetectScores", spec := "detectScores", inPlace := ["internal/bytealg.IndexByteString", "internal/bytealg.IndexString"], unfollowed := true, recurses := true, named := ["unicode/utf8.first", "unicode/utf8.acceptRanges", "diacritic/johab.kinds", "diacritic/big5.doubles", "diacritic/charset.names", "internal/bytealg.MaxLen"], apart := false, laid := [("unicode/utf8.acceptRanges", laid_unicode_utf8_acceptRanges), ("diacritic/big5.doubles", laid_diacritic_big5_doubles), ("diacritic/johab.kinds", laid_diacritic_johab_kinds), ("diacritic/charset.names", laid_diacritic_charset_names), ("unicode/utf8.first", laid_unicode_utf8_first)] }
def DetectScoresSaid : Prop := detectScoresRow.holds Tryz.pinned (OpenSpec.ofChange detectScoresSpec)

/-- ITS FALSE NEIGHBOUR: 'it returns false'. Refute it at one input. -/
def detectScoresWrong : ChangeSpec := { name := "detectScores", fn := fun _ => fun
  | [d1, d2] => { results := [.lit (.bool false)], args := [d1, d2] }
  | _ => none }
def DetectScoresWrongFalsely : Prop := detectScoresRow.holds Tryz.pinned (OpenSpec.ofChange detectScoresWrong)

/-- 'diacriticlaw10.DetectGuesses': WHATEVER THE INPUT: true; the input reads as it did. -/
def detectGuessesSpec : ChangeSpec := { name := "detectGuesses", fn := fun _ => fun
  | [d1, d2] => { results := [.lit (.bool true)], args := [d1, d2] }
  | _ => none }
def detectGuessesRow : OpenClaim := { program := "ytiigknimfibdpaagreatdoor", sum := "eab17932b658800f030189ca0f9632df099599bb8d61c323f41219d08f68a1eb", func := "diacritic/diacriticlaw10.DetectGuesses", spec := "detectGuesses", inPlace := ["internal/bytealg.IndexByteString", "internal/bytealg.IndexString"], unfollowed := true, recurses := true, named := ["unicode/utf8.first", "unicode/utf8.acceptRanges", "diacritic/johab.kinds", "diacritic/big5.doubles", "diacritic/charset.names", "internal/bytealg.MaxLen"], apart := false, laid := [("unicode/utf8.acceptRanges", laid_unicode_utf8_acceptRanges), ("diacritic/big5.doubles", laid_diacritic_big5_doubles), ("diacritic/johab.kinds", laid_diacritic_johab_kinds), ("diacritic/charset.names", laid_diacritic_charset_names), ("unicode/utf8.first", laid_unicode_utf8_first)] }
def DetectGuessesSaid : Prop := detectGuessesRow.holds Tryz.pinned (OpenSpec.ofChange detectGuessesSpec)

/-- ITS FALSE NEIGHBOUR: 'it returns false'. Refute it at one input. -/
def detectGuessesWrong : ChangeSpec := { name := "detectGuesses", fn := fun _ => fun
  | [d1, d2] => { results := [.lit (.bool false)], args := [d1, d2] }
  | _ => none }
def DetectGuessesWrongFalsely : Prop := detectGuessesRow.holds Tryz.pinned (OpenSpec.ofChange detectGuessesWrong)

/-- 'diacriticlaw10.DetectMarks': WHATEVER THE INPUT: true; the input reads as it did. -/
def detectMarksSpec : ChangeSpec := { name := "detectMarks", fn := fun _ => fun
  | [d] => { results := [.lit (.bool true)], args := [d] }
  | _ => none }
def detectMarksRow : OpenClaim := { program := "ytiigknimfibdpaagreatdoor", sum := "eab17932b658800f030189ca0f9632df099599bb8d61c323f41219d08f68a1eb", func := "diacritic/diacriticlaw10.DetectMarks", spec := "detectMarks", inPlace := ["internal/bytealg.IndexByteString", "internal/bytealg.IndexString"], unfollowed := true, recurses := true, named := ["unicode/utf8.first", "unicode/utf8.acceptRanges", "diacritic/johab.kinds", "diacritic/big5.doubles", "diacritic/charset.names", "internal/bytealg.MaxLen"], apart := false, laid := [("unicode/utf8.acceptRanges", laid_unicode_utf8_acceptRanges), ("diacritic/big5.doubles", laid_diacritic_big5_doubles), ("diacritic/johab.kinds", laid_diacritic_johab_kinds), ("diacritic/charset.names", laid_diacritic_charset_names), ("unicode/utf8.first", laid_unicode_utf8_first)] }
def DetectMarksSaid : Prop := detectMarksRow.holds Tryz.pinned (OpenSpec.ofChange detectMarksSpec)

/-- ITS FALSE NEIGHBOUR: 'it returns false'. Refute it at one input. -/
def detectMarksWrong : ChangeSpec := { name := "detectMarks", fn := fun _ => fun
  | [d] => { results := [.lit (.bool false)], args := [d] }
  | _ => none }
def DetectMarksWrongFalsely : Prop := detectMarksRow.holds Tryz.pinned (OpenSpec.ofChange detectMarksWrong)

/-- 'diacriticlaw10.DetectResolves': WHATEVER THE INPUT: true; the input reads as it did. -/
def detectResolvesSpec : ChangeSpec := { name := "detectResolves", fn := fun _ => fun
  | [d1, d2, d3, d4] => { results := [.lit (.bool true)], args := [d1, d2, d3, d4] }
  | _ => none }
def detectResolvesRow : OpenClaim := { program := "ytiigknimfibdpaagreatdoor", sum := "eab17932b658800f030189ca0f9632df099599bb8d61c323f41219d08f68a1eb", func := "diacritic/diacriticlaw10.DetectResolves", spec := "detectResolves", inPlace := ["internal/bytealg.IndexByteString", "internal/bytealg.IndexString"], unfollowed := true, recurses := true, named := ["unicode/utf8.first", "unicode/utf8.acceptRanges", "diacritic/johab.kinds", "diacritic/big5.doubles", "diacritic/charset.names", "internal/bytealg.MaxLen"], apart := false, laid := [("unicode/utf8.acceptRanges", laid_unicode_utf8_acceptRanges), ("diacritic/big5.doubles", laid_diacritic_big5_doubles), ("diacritic/johab.kinds", laid_diacritic_johab_kinds), ("diacritic/charset.names", laid_diacritic_charset_names), ("unicode/utf8.first", laid_unicode_utf8_first)] }
def DetectResolvesSaid : Prop := detectResolvesRow.holds Tryz.pinned (OpenSpec.ofChange detectResolvesSpec)

/-- ITS FALSE NEIGHBOUR: 'it returns false'. Refute it at one input. -/
def detectResolvesWrong : ChangeSpec := { name := "detectResolves", fn := fun _ => fun
  | [d1, d2, d3, d4] => { results := [.lit (.bool false)], args := [d1, d2, d3, d4] }
  | _ => none }
def DetectResolvesWrongFalsely : Prop := detectResolvesRow.holds Tryz.pinned (OpenSpec.ofChange detectResolvesWrong)

/-- 'diacriticlaw10.DetectSums': WHATEVER THE INPUT: true; the input reads as it did. -/
def detectSumsSpec : ChangeSpec := { name := "detectSums", fn := fun _ => fun
  | [d1, d2, d3] => { results := [.lit (.bool true)], args := [d1, d2, d3] }
  | _ => none }
def detectSumsRow : OpenClaim := { program := "ytiigknimfibdpaagreatdoor", sum := "eab17932b658800f030189ca0f9632df099599bb8d61c323f41219d08f68a1eb", func := "diacritic/diacriticlaw10.DetectSums", spec := "detectSums", inPlace := ["internal/bytealg.IndexByteString", "internal/bytealg.IndexString"], unfollowed := true, recurses := true, named := ["unicode/utf8.first", "unicode/utf8.acceptRanges", "diacritic/johab.kinds", "diacritic/big5.doubles", "diacritic/charset.names", "internal/bytealg.MaxLen"], apart := false, laid := [("unicode/utf8.acceptRanges", laid_unicode_utf8_acceptRanges), ("diacritic/big5.doubles", laid_diacritic_big5_doubles), ("diacritic/johab.kinds", laid_diacritic_johab_kinds), ("diacritic/charset.names", laid_diacritic_charset_names), ("unicode/utf8.first", laid_unicode_utf8_first)] }
def DetectSumsSaid : Prop := detectSumsRow.holds Tryz.pinned (OpenSpec.ofChange detectSumsSpec)

/-- ITS FALSE NEIGHBOUR: 'it returns false'. Refute it at one input. -/
def detectSumsWrong : ChangeSpec := { name := "detectSums", fn := fun _ => fun
  | [d1, d2, d3] => { results := [.lit (.bool false)], args := [d1, d2, d3] }
  | _ => none }
def DetectSumsWrongFalsely : Prop := detectSumsRow.holds Tryz.pinned (OpenSpec.ofChange detectSumsWrong)

/-- 'diacriticlaw10.DetectSigns': WHATEVER THE INPUT: true; the input reads as it did. -/
def detectSignsSpec : ChangeSpec := { name := "detectSigns", fn := fun _ => fun
  | [d1, d2, d3, d4, d5] => { results := [.lit (.bool true)], args := [d1, d2, d3, d4, d5] }
  | _ => none }
def detectSignsRow : OpenClaim := { program := "ytiigknimfibdpaagreatdoor", sum := "eab17932b658800f030189ca0f9632df099599bb8d61c323f41219d08f68a1eb", func := "diacritic/diacriticlaw10.DetectSigns", spec := "detectSigns", inPlace := ["internal/bytealg.IndexByteString", "internal/bytealg.IndexString"], unfollowed := true, recurses := true, named := ["unicode/utf8.first", "unicode/utf8.acceptRanges", "diacritic/johab.kinds", "diacritic/big5.doubles", "diacritic/charset.names", "internal/bytealg.MaxLen"], apart := false, laid := [("unicode/utf8.acceptRanges", laid_unicode_utf8_acceptRanges), ("diacritic/big5.doubles", laid_diacritic_big5_doubles), ("diacritic/johab.kinds", laid_diacritic_johab_kinds), ("diacritic/charset.names", laid_diacritic_charset_names), ("unicode/utf8.first", laid_unicode_utf8_first)] }
def DetectSignsSaid : Prop := detectSignsRow.holds Tryz.pinned (OpenSpec.ofChange detectSignsSpec)

/-- ITS FALSE NEIGHBOUR: 'it returns false'. Refute it at one input. -/
def detectSignsWrong : ChangeSpec := { name := "detectSigns", fn := fun _ => fun
  | [d1, d2, d3, d4, d5] => { results := [.lit (.bool false)], args := [d1, d2, d3, d4, d5] }
  | _ => none }
def DetectSignsWrongFalsely : Prop := detectSignsRow.holds Tryz.pinned (OpenSpec.ofChange detectSignsWrong)

/- THE SECOND FORM. 'bulk': how many values and letters a reading holds, each counted each time it is reached (what is shared counts as often as it is met; a slice's spare places count too). A statement '..UptoSaid' is the law's where the arguments, and the package variables that the reading takes, are together of bulk at most 1048576: NARROWER than '..Said'. Prove '..Said' where nothing that the law and all that it calls make is longer than what came in: it says more and counts as full. Else prove '..UptoSaid'. A law counts once. -/
mutual
def uptoBulk {H : Type} : DataW H → Nat
  | .lit (.string bytes) => bytes.length + 1
  | .lit _ => 1
  | .nil => 1
  | .ptr d => uptoBulk d + 1
  | .slice elems spare => uptoBulkAll elems + uptoBulkAll spare + 1
  | .agg parts => uptoBulkAll parts + 1
  | .iface _ d => uptoBulk d + 1
  | .map entries => uptoBulkEntries entries + 1
  | .held _ => 1
def uptoBulkAll {H : Type} : List (DataW H) → Nat
  | [] => 0
  | d :: r => uptoBulk d + uptoBulkAll r
def uptoBulkEntries {H : Type} : List (Lit × DataW H) → Nat
  | [] => 0
  | x :: r => uptoBulkEntry x + uptoBulkEntries r
def uptoBulkEntry {H : Type} : Lit × DataW H → Nat
  | (.string bytes, d) => bytes.length + uptoBulk d + 1
  | (_, d) => uptoBulk d + 1
 end
def uptoSmall : (H : Type) → List (DataW H) → Bool := fun _ ds => decide (uptoBulkAll ds ≤ 1048576)
def OpenSpec.upto (s : _root_.Go.ChangeSpec) : _root_.Go.OpenSpec := { _root_.Go.OpenSpec.ofChange s with cond := some uptoSmall }

/-- 'diacriticlaw10.DetectScores', WHERE WHAT IT READS IS OF BULK AT MOST 1048576: true; the input reads as it did. -/
def detectScoresUptoRow : OpenClaim := { program := "ytiigknimfibdpaagreatdoor", sum := "eab17932b658800f030189ca0f9632df099599bb8d61c323f41219d08f68a1eb", func := "diacritic/diacriticlaw10.DetectScores", spec := "detectScores", inPlace := ["internal/bytealg.IndexByteString", "internal/bytealg.IndexString"], unfollowed := true, recurses := true, named := ["unicode/utf8.first", "unicode/utf8.acceptRanges", "diacritic/johab.kinds", "diacritic/big5.doubles", "diacritic/charset.names", "internal/bytealg.MaxLen"], apart := false, laid := [("unicode/utf8.acceptRanges", laid_unicode_utf8_acceptRanges), ("diacritic/big5.doubles", laid_diacritic_big5_doubles), ("diacritic/johab.kinds", laid_diacritic_johab_kinds), ("diacritic/charset.names", laid_diacritic_charset_names), ("unicode/utf8.first", laid_unicode_utf8_first)], narrowed := true }
def DetectScoresUptoSaid : Prop := detectScoresUptoRow.holds Tryz.pinned (OpenSpec.upto detectScoresSpec)

/-- 'diacriticlaw10.DetectGuesses', WHERE WHAT IT READS IS OF BULK AT MOST 1048576: true; the input reads as it did. -/
def detectGuessesUptoRow : OpenClaim := { program := "ytiigknimfibdpaagreatdoor", sum := "eab17932b658800f030189ca0f9632df099599bb8d61c323f41219d08f68a1eb", func := "diacritic/diacriticlaw10.DetectGuesses", spec := "detectGuesses", inPlace := ["internal/bytealg.IndexByteString", "internal/bytealg.IndexString"], unfollowed := true, recurses := true, named := ["unicode/utf8.first", "unicode/utf8.acceptRanges", "diacritic/johab.kinds", "diacritic/big5.doubles", "diacritic/charset.names", "internal/bytealg.MaxLen"], apart := false, laid := [("unicode/utf8.acceptRanges", laid_unicode_utf8_acceptRanges), ("diacritic/big5.doubles", laid_diacritic_big5_doubles), ("diacritic/johab.kinds", laid_diacritic_johab_kinds), ("diacritic/charset.names", laid_diacritic_charset_names), ("unicode/utf8.first", laid_unicode_utf8_first)], narrowed := true }
def DetectGuessesUptoSaid : Prop := detectGuessesUptoRow.holds Tryz.pinned (OpenSpec.upto detectGuessesSpec)

/-- 'diacriticlaw10.DetectMarks', WHERE WHAT IT READS IS OF BULK AT MOST 1048576: true; the input reads as it did. -/
def detectMarksUptoRow : OpenClaim := { program := "ytiigknimfibdpaagreatdoor", sum := "eab17932b658800f030189ca0f9632df099599bb8d61c323f41219d08f68a1eb", func := "diacritic/diacriticlaw10.DetectMarks", spec := "detectMarks", inPlace := ["internal/bytealg.IndexByteString", "internal/bytealg.IndexString"], unfollowed := true, recurses := true, named := ["unicode/utf8.first", "unicode/utf8.acceptRanges", "diacritic/johab.kinds", "diacritic/big5.doubles", "diacritic/charset.names", "internal/bytealg.MaxLen"], apart := false, laid := [("unicode/utf8.acceptRanges", laid_unicode_utf8_acceptRanges), ("diacritic/big5.doubles", laid_diacritic_big5_doubles), ("diacritic/johab.kinds", laid_diacritic_johab_kinds), ("diacritic/charset.names", laid_diacritic_charset_names), ("unicode/utf8.first", laid_unicode_utf8_first)], narrowed := true }
def DetectMarksUptoSaid : Prop := detectMarksUptoRow.holds Tryz.pinned (OpenSpec.upto detectMarksSpec)

/-- 'diacriticlaw10.DetectResolves', WHERE WHAT IT READS IS OF BULK AT MOST 1048576: true; the input reads as it did. -/
def detectResolvesUptoRow : OpenClaim := { program := "ytiigknimfibdpaagreatdoor", sum := "eab17932b658800f030189ca0f9632df099599bb8d61c323f41219d08f68a1eb", func := "diacritic/diacriticlaw10.DetectResolves", spec := "detectResolves", inPlace := ["internal/bytealg.IndexByteString", "internal/bytealg.IndexString"], unfollowed := true, recurses := true, named := ["unicode/utf8.first", "unicode/utf8.acceptRanges", "diacritic/johab.kinds", "diacritic/big5.doubles", "diacritic/charset.names", "internal/bytealg.MaxLen"], apart := false, laid := [("unicode/utf8.acceptRanges", laid_unicode_utf8_acceptRanges), ("diacritic/big5.doubles", laid_diacritic_big5_doubles), ("diacritic/johab.kinds", laid_diacritic_johab_kinds), ("diacritic/charset.names", laid_diacritic_charset_names), ("unicode/utf8.first", laid_unicode_utf8_first)], narrowed := true }
def DetectResolvesUptoSaid : Prop := detectResolvesUptoRow.holds Tryz.pinned (OpenSpec.upto detectResolvesSpec)

/-- 'diacriticlaw10.DetectSums', WHERE WHAT IT READS IS OF BULK AT MOST 1048576: true; the input reads as it did. -/
def detectSumsUptoRow : OpenClaim := { program := "ytiigknimfibdpaagreatdoor", sum := "eab17932b658800f030189ca0f9632df099599bb8d61c323f41219d08f68a1eb", func := "diacritic/diacriticlaw10.DetectSums", spec := "detectSums", inPlace := ["internal/bytealg.IndexByteString", "internal/bytealg.IndexString"], unfollowed := true, recurses := true, named := ["unicode/utf8.first", "unicode/utf8.acceptRanges", "diacritic/johab.kinds", "diacritic/big5.doubles", "diacritic/charset.names", "internal/bytealg.MaxLen"], apart := false, laid := [("unicode/utf8.acceptRanges", laid_unicode_utf8_acceptRanges), ("diacritic/big5.doubles", laid_diacritic_big5_doubles), ("diacritic/johab.kinds", laid_diacritic_johab_kinds), ("diacritic/charset.names", laid_diacritic_charset_names), ("unicode/utf8.first", laid_unicode_utf8_first)], narrowed := true }
def DetectSumsUptoSaid : Prop := detectSumsUptoRow.holds Tryz.pinned (OpenSpec.upto detectSumsSpec)

/-- 'diacriticlaw10.DetectSigns', WHERE WHAT IT READS IS OF BULK AT MOST 1048576: true; the input reads as it did. -/
def detectSignsUptoRow : OpenClaim := { program := "ytiigknimfibdpaagreatdoor", sum := "eab17932b658800f030189ca0f9632df099599bb8d61c323f41219d08f68a1eb", func := "diacritic/diacriticlaw10.DetectSigns", spec := "detectSigns", inPlace := ["internal/bytealg.IndexByteString", "internal/bytealg.IndexString"], unfollowed := true, recurses := true, named := ["unicode/utf8.first", "unicode/utf8.acceptRanges", "diacritic/johab.kinds", "diacritic/big5.doubles", "diacritic/charset.names", "internal/bytealg.MaxLen"], apart := false, laid := [("unicode/utf8.acceptRanges", laid_unicode_utf8_acceptRanges), ("diacritic/big5.doubles", laid_diacritic_big5_doubles), ("diacritic/johab.kinds", laid_diacritic_johab_kinds), ("diacritic/charset.names", laid_diacritic_charset_names), ("unicode/utf8.first", laid_unicode_utf8_first)], narrowed := true }
def DetectSignsUptoSaid : Prop := detectSignsUptoRow.holds Tryz.pinned (OpenSpec.upto detectSignsSpec)

end Rows
end Go.Proofs.YtiigknimfibdpaaGreatDoor
