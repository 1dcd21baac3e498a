/-
  NARROWER THAN 'FOR EVERY INPUT', by the rows' own cells (each row's printed sentence says how): WansungRanks: laid · WansungPlaces: laid · WansungSigns: laid · WansungBytes: laid.
  DERIVED. THE GIVEN ROWS OF THIS SEAT. 4 by the template 'for every input the law returns true; each argument reads behind the call as it read before'; 0 by the template 'total and deterministic' (their statements: YtgjndekgnkjknaaDoorTotals.lean).
  GIVEN WITH THE SEED: the statements are not yours to turn. If you find one false, say at which input.
  Laid BY PROGRAM, IN A SANDBOX (cutbox-rows.mjs): the forced cells as the released guide's own fill.sh prints them over the translation 7c29367b3988a107… (all of the seat's roots in one cut). By AI agents, Wed Nov 11 2026. No macro, syntax, notation, axiom, sorry.
-/
import Derived.Test.YtgjndekgnkjknaaDoorChecked
import GoSem.PinnedTables
import GoSem.Claim
import GoSem.ClaimJoined
import GoSem.ClaimMapViews
import Derived.JoinedTies
import Derived.KernelRfl
namespace Go.Proofs.YtgjndekgnkjknaaDoor
/- THE CELL 'sum', in the pinned program and in every row, IS THE sha256 OF THE DUMP (.gsa) THAT YtgjndekgnkjknaaDoorProg.lean LOADS. Nothing in Lean hashes anything: it is a label: what it is worth is what the hold of that sum in a sandbox is worth. -/
noncomputable def Tryd.pinned : Pinned := { name := "ytgjndekgnkjknaadoor", sum := "7c29367b3988a107272c76528005687da0ccd184daeb4ecb200323ed9bc2fda0", checked := Tryd.checked }
namespace Rows
def none {H : Type} : Left H := { results := [], args := [] }

/- WHAT THE LISTED PACKAGE-LEVEL VARIABLES READ AS WHEN THE CALL BEGINS. Each datum BY PROGRAM (the guide's laid-datum.mjs) off the statement by which the dump's own 'gosem.cut.vars' lays the variable. In a bare row this is a premise. The card (YtgjndekgnkjknaaDoorCards.lean) ties it to the program's text. -/
def laid_unicode_utf8_acceptRanges {H : Type} : DataW H := .agg [.agg [.lit (.int .u8 128), .lit (.int .u8 191)], .agg [.lit (.int .u8 160), .lit (.int .u8 191)], .agg [.lit (.int .u8 128), .lit (.int .u8 159)], .agg [.lit (.int .u8 144), .lit (.int .u8 191)], .agg [.lit (.int .u8 128), .lit (.int .u8 143)], .agg [.lit (.int .u8 0), .lit (.int .u8 0)], .agg [.lit (.int .u8 0), .lit (.int .u8 0)], .agg [.lit (.int .u8 0), .lit (.int .u8 0)], .agg [.lit (.int .u8 0), .lit (.int .u8 0)], .agg [.lit (.int .u8 0), .lit (.int .u8 0)], .agg [.lit (.int .u8 0), .lit (.int .u8 0)], .agg [.lit (.int .u8 0), .lit (.int .u8 0)], .agg [.lit (.int .u8 0), .lit (.int .u8 0)], .agg [.lit (.int .u8 0), .lit (.int .u8 0)], .agg [.lit (.int .u8 0), .lit (.int .u8 0)], .agg [.lit (.int .u8 0), .lit (.int .u8 0)]]
/-- One of Go's own tables, pinned by name: the form's constant. -/
def laid_unicode_utf8_first : DataW Unit := Go.Pinned.utf8First

/-- 'diacriticlaw07.WansungRanks': WHATEVER THE INPUT: true; the input reads as it did. -/
def wansungRanksSpec : ChangeSpec := { name := "wansungRanks", fn := fun _ => fun
  | [d] => { results := [.lit (.bool true)], args := [d] }
  | _ => none }
def wansungRanksRow : OpenClaim := { program := "ytgjndekgnkjknaadoor", sum := "7c29367b3988a107272c76528005687da0ccd184daeb4ecb200323ed9bc2fda0", func := "diacritic/diacriticlaw07.WansungRanks", spec := "wansungRanks", inPlace := ["internal/bytealg.IndexByteString", "internal/bytealg.IndexString"], unfollowed := true, recurses := true, named := ["unicode/utf8.first", "unicode/utf8.acceptRanges", "internal/bytealg.MaxLen"], apart := false, laid := [("unicode/utf8.acceptRanges", laid_unicode_utf8_acceptRanges), ("unicode/utf8.first", laid_unicode_utf8_first)] }
def WansungRanksSaid : Prop := wansungRanksRow.holds Tryd.pinned (OpenSpec.ofChange wansungRanksSpec)

/-- ITS FALSE NEIGHBOUR: 'it returns false'. Refute it at one input. -/
def wansungRanksWrong : ChangeSpec := { name := "wansungRanks", fn := fun _ => fun
  | [d] => { results := [.lit (.bool false)], args := [d] }
  | _ => none }
def WansungRanksWrongFalsely : Prop := wansungRanksRow.holds Tryd.pinned (OpenSpec.ofChange wansungRanksWrong)

/-- 'diacriticlaw07.WansungPlaces': WHATEVER THE INPUT: true; the input reads as it did. -/
def wansungPlacesSpec : ChangeSpec := { name := "wansungPlaces", fn := fun _ => fun
  | [d] => { results := [.lit (.bool true)], args := [d] }
  | _ => none }
def wansungPlacesRow : OpenClaim := { program := "ytgjndekgnkjknaadoor", sum := "7c29367b3988a107272c76528005687da0ccd184daeb4ecb200323ed9bc2fda0", func := "diacritic/diacriticlaw07.WansungPlaces", spec := "wansungPlaces", inPlace := ["internal/bytealg.IndexByteString", "internal/bytealg.IndexString"], unfollowed := true, recurses := true, named := ["unicode/utf8.first", "unicode/utf8.acceptRanges", "internal/bytealg.MaxLen"], apart := false, laid := [("unicode/utf8.acceptRanges", laid_unicode_utf8_acceptRanges), ("unicode/utf8.first", laid_unicode_utf8_first)] }
def WansungPlacesSaid : Prop := wansungPlacesRow.holds Tryd.pinned (OpenSpec.ofChange wansungPlacesSpec)

/-- ITS FALSE NEIGHBOUR: 'it returns false'. Refute it at one input. -/
def wansungPlacesWrong : ChangeSpec := { name := "wansungPlaces", fn := fun _ => fun
  | [d] => { results := [.lit (.bool false)], args := [d] }
  | _ => none }
def WansungPlacesWrongFalsely : Prop := wansungPlacesRow.holds Tryd.pinned (OpenSpec.ofChange wansungPlacesWrong)

/-- 'diacriticlaw07.WansungSigns': WHATEVER THE INPUT: true; the input reads as it did. -/
def wansungSignsSpec : ChangeSpec := { name := "wansungSigns", fn := fun _ => fun
  | [d1, d2] => { results := [.lit (.bool true)], args := [d1, d2] }
  | _ => none }
def wansungSignsRow : OpenClaim := { program := "ytgjndekgnkjknaadoor", sum := "7c29367b3988a107272c76528005687da0ccd184daeb4ecb200323ed9bc2fda0", func := "diacritic/diacriticlaw07.WansungSigns", spec := "wansungSigns", inPlace := ["internal/bytealg.IndexByteString", "internal/bytealg.IndexString"], unfollowed := true, recurses := true, named := ["unicode/utf8.first", "unicode/utf8.acceptRanges", "internal/bytealg.MaxLen"], apart := false, laid := [("unicode/utf8.acceptRanges", laid_unicode_utf8_acceptRanges), ("unicode/utf8.first", laid_unicode_utf8_first)] }
def WansungSignsSaid : Prop := wansungSignsRow.holds Tryd.pinned (OpenSpec.ofChange wansungSignsSpec)

/-- ITS FALSE NEIGHBOUR: 'it returns false'. Refute it at one input. -/
def wansungSignsWrong : ChangeSpec := { name := "wansungSigns", fn := fun _ => fun
  | [d1, d2] => { results := [.lit (.bool false)], args := [d1, d2] }
  | _ => none }
def WansungSignsWrongFalsely : Prop := wansungSignsRow.holds Tryd.pinned (OpenSpec.ofChange wansungSignsWrong)

/-- 'diacriticlaw07.WansungBytes': WHATEVER THE INPUT: true; the input reads as it did. -/
def wansungBytesSpec : ChangeSpec := { name := "wansungBytes", fn := fun _ => fun
  | [d] => { results := [.lit (.bool true)], args := [d] }
  | _ => none }
def wansungBytesRow : OpenClaim := { program := "ytgjndekgnkjknaadoor", sum := "7c29367b3988a107272c76528005687da0ccd184daeb4ecb200323ed9bc2fda0", func := "diacritic/diacriticlaw07.WansungBytes", spec := "wansungBytes", inPlace := ["internal/bytealg.IndexByteString", "internal/bytealg.IndexString"], unfollowed := true, recurses := true, named := ["unicode/utf8.first", "unicode/utf8.acceptRanges", "internal/bytealg.MaxLen"], apart := false, laid := [("unicode/utf8.acceptRanges", laid_unicode_utf8_acceptRanges), ("unicode/utf8.first", laid_unicode_utf8_first)] }
def WansungBytesSaid : Prop := wansungBytesRow.holds Tryd.pinned (OpenSpec.ofChange wansungBytesSpec)

/-- ITS FALSE NEIGHBOUR: 'it returns false'. Refute it at one input. -/
def wansungBytesWrong : ChangeSpec := { name := "wansungBytes", fn := fun _ => fun
  | [d] => { results := [.lit (.bool false)], args := [d] }
  | _ => none }
def WansungBytesWrongFalsely : Prop := wansungBytesRow.holds Tryd.pinned (OpenSpec.ofChange wansungBytesWrong)

/- THE SECOND FORM. 'bulk': how many values and letters a reading holds, each counted each time it is reached (what is shared counts as often as it is met; a slice's spare places count too). A statement '..UptoSaid' is the law's where the arguments, and the package variables that the reading takes, are together of bulk at most 1048576: NARROWER than '..Said'. Prove '..Said' where nothing that the law and all that it calls make is longer than what came in: it says more and counts as full. Else prove '..UptoSaid'. A law counts once. -/
mutual
def uptoBulk {H : Type} : DataW H → Nat
  | .lit (.string bytes) => bytes.length + 1
  | .lit _ => 1
  | .nil => 1
  | .ptr d => uptoBulk d + 1
  | .slice elems spare => uptoBulkAll elems + uptoBulkAll spare + 1
  | .agg parts => uptoBulkAll parts + 1
  | .iface _ d => uptoBulk d + 1
  | .map entries => uptoBulkEntries entries + 1
  | .held _ => 1
def uptoBulkAll {H : Type} : List (DataW H) → Nat
  | [] => 0
  | d :: r => uptoBulk d + uptoBulkAll r
def uptoBulkEntries {H : Type} : List (Lit × DataW H) → Nat
  | [] => 0
  | x :: r => uptoBulkEntry x + uptoBulkEntries r
def uptoBulkEntry {H : Type} : Lit × DataW H → Nat
  | (.string bytes, d) => bytes.length + uptoBulk d + 1
  | (_, d) => uptoBulk d + 1
 end
def uptoSmall : (H : Type) → List (DataW H) → Bool := fun _ ds => decide (uptoBulkAll ds ≤ 1048576)
def OpenSpec.upto (s : _root_.Go.ChangeSpec) : _root_.Go.OpenSpec := { _root_.Go.OpenSpec.ofChange s with cond := some uptoSmall }

/-- 'diacriticlaw07.WansungRanks', WHERE WHAT IT READS IS OF BULK AT MOST 1048576: true; the input reads as it did. -/
def wansungRanksUptoRow : OpenClaim := { program := "ytgjndekgnkjknaadoor", sum := "7c29367b3988a107272c76528005687da0ccd184daeb4ecb200323ed9bc2fda0", func := "diacritic/diacriticlaw07.WansungRanks", spec := "wansungRanks", inPlace := ["internal/bytealg.IndexByteString", "internal/bytealg.IndexString"], unfollowed := true, recurses := true, named := ["unicode/utf8.first", "unicode/utf8.acceptRanges", "internal/bytealg.MaxLen"], apart := false, laid := [("unicode/utf8.acceptRanges", laid_unicode_utf8_acceptRanges), ("unicode/utf8.first", laid_unicode_utf8_first)], narrowed := true }
def WansungRanksUptoSaid : Prop := wansungRanksUptoRow.holds Tryd.pinned (OpenSpec.upto wansungRanksSpec)

/-- 'diacriticlaw07.WansungPlaces', WHERE WHAT IT READS IS OF BULK AT MOST 1048576: true; the input reads as it did. -/
def wansungPlacesUptoRow : OpenClaim := { program := "ytgjndekgnkjknaadoor", sum := "7c29367b3988a107272c76528005687da0ccd184daeb4ecb200323ed9bc2fda0", func := "diacritic/diacriticlaw07.WansungPlaces", spec := "wansungPlaces", inPlace := ["internal/bytealg.IndexByteString", "internal/bytealg.IndexString"], unfollowed := true, recurses := true, named := ["unicode/utf8.first", "unicode/utf8.acceptRanges", "internal/bytealg.MaxLen"], apart := false, laid := [("unicode/utf8.acceptRanges", laid_unicode_utf8_acceptRanges), ("unicode/utf8.first", laid_unicode_utf8_first)], narrowed := true }
def WansungPlacesUptoSaid : Prop := wansungPlacesUptoRow.holds Tryd.pinned (OpenSpec.upto wansungPlacesSpec)

/-- 'diacriticlaw07.WansungSigns', WHERE WHAT IT READS IS OF BULK AT MOST 1048576: true; the input reads as it did. -/
def wansungSignsUptoRow : OpenClaim := { program := "ytgjndekgnkjknaadoor", sum := "7c29367b3988a107272c76528005687da0ccd184daeb4ecb200323ed9bc2fda0", func := "diacritic/diacriticlaw07.WansungSigns", spec := "wansungSigns", inPlace := ["internal/bytealg.IndexByteString", "internal/bytealg.IndexString"], unfollowed := true, recurses := true, named := ["unicode/utf8.first", "unicode/utf8.acceptRanges", "internal/bytealg.MaxLen"], apart := false, laid := [("unicode/utf8.acceptRanges", laid_unicode_utf8_acceptRanges), ("unicode/utf8.first", laid_unicode_utf8_first)], narrowed := true }
def WansungSignsUptoSaid : Prop := wansungSignsUptoRow.holds Tryd.pinned (OpenSpec.upto wansungSignsSpec)

/-- 'diacriticlaw07.WansungBytes', WHERE WHAT IT READS IS OF BULK AT MOST 1048576: true; the input reads as it did. -/
def wansungBytesUptoRow : OpenClaim := { program := "ytgjndekgnkjknaadoor", sum := "7c29367b3988a107272c76528005687da0ccd184daeb4ecb200323ed9bc2fda0", func := "diacritic/diacriticlaw07.WansungBytes", spec := "wansungBytes", inPlace := ["internal/bytealg.IndexByteString", "internal/bytealg.IndexString"], unfollowed := true, recurses := true, named := ["unicode/utf8.first", "unicode/utf8.acceptRanges", "internal/bytealg.MaxLen"], apart := false, laid := [("unicode/utf8.acceptRanges", laid_unicode_utf8_acceptRanges), ("unicode/utf8.first", laid_unicode_utf8_first)], narrowed := true }
def WansungBytesUptoSaid : Prop := wansungBytesUptoRow.holds Tryd.pinned (OpenSpec.upto wansungBytesSpec)

end Rows
end Go.Proofs.YtgjndekgnkjknaaDoor
