/-
  NARROWER THAN 'FOR EVERY INPUT', by the rows' own cells (each row's printed sentence says how): BigSigns: laid · BigBytes: laid · BigLonger: laid · BigPairs: laid.
  DERIVED. THE GIVEN ROWS OF THIS SEAT. 4 by the template 'for every input the law returns true; each argument reads behind the call as it read before'; 0 by the template 'total and deterministic' (their statements: YtmpddibdggdngaaDoorTotals.lean).
  GIVEN WITH THE SEED: the statements are not yours to turn. If you find one false, say at which input.
  Laid BY PROGRAM, IN A SANDBOX (cutbox-rows.mjs): the forced cells as the released guide's own fill.sh prints them over the translation 63cb387d87ccadca… (all of the seat's roots in one cut). By AI agents, Wed Nov 11 2026. No macro, syntax, notation, axiom, sorry.
-/
import Derived.Test.YtmpddibdggdngaaDoorChecked
import GoSem.PinnedTables
import GoSem.Claim
import GoSem.ClaimJoined
import GoSem.ClaimMapViews
import Derived.JoinedTies
import Derived.KernelRfl
namespace Go.Proofs.YtmpddibdggdngaaDoor
/- THE CELL 'sum', in the pinned program and in every row, IS THE sha256 OF THE DUMP (.gsa) THAT YtmpddibdggdngaaDoorProg.lean LOADS. Nothing in Lean hashes anything: it is a label: what it is worth is what the hold of that sum in a sandbox is worth. -/
noncomputable def Tryd.pinned : Pinned := { name := "ytmpddibdggdngaadoor", sum := "63cb387d87ccadca9e6e0bd52df2c8f8d41cff86e49170e045ed354fad7f81b1", checked := Tryd.checked }
namespace Rows
def none {H : Type} : Left H := { results := [], args := [] }

/- WHAT THE LISTED PACKAGE-LEVEL VARIABLES READ AS WHEN THE CALL BEGINS. Each datum BY PROGRAM (the guide's laid-datum.mjs) off the statement by which the dump's own 'gosem.cut.vars' lays the variable. In a bare row this is a premise. The card (YtmpddibdggdngaaDoorCards.lean) ties it to the program's text. -/
def laid_unicode_utf8_acceptRanges {H : Type} : DataW H := .agg [.agg [.lit (.int .u8 128), .lit (.int .u8 191)], .agg [.lit (.int .u8 160), .lit (.int .u8 191)], .agg [.lit (.int .u8 128), .lit (.int .u8 159)], .agg [.lit (.int .u8 144), .lit (.int .u8 191)], .agg [.lit (.int .u8 128), .lit (.int .u8 143)], .agg [.lit (.int .u8 0), .lit (.int .u8 0)], .agg [.lit (.int .u8 0), .lit (.int .u8 0)], .agg [.lit (.int .u8 0), .lit (.int .u8 0)], .agg [.lit (.int .u8 0), .lit (.int .u8 0)], .agg [.lit (.int .u8 0), .lit (.int .u8 0)], .agg [.lit (.int .u8 0), .lit (.int .u8 0)], .agg [.lit (.int .u8 0), .lit (.int .u8 0)], .agg [.lit (.int .u8 0), .lit (.int .u8 0)], .agg [.lit (.int .u8 0), .lit (.int .u8 0)], .agg [.lit (.int .u8 0), .lit (.int .u8 0)], .agg [.lit (.int .u8 0), .lit (.int .u8 0)]]
def laid_diacritic_big5_doubles {H : Type} : DataW H := .agg [.agg [.lit (.int .i64 34914), .agg [.lit (.int .i32 202), .lit (.int .i32 772)]], .agg [.lit (.int .i64 34916), .agg [.lit (.int .i32 202), .lit (.int .i32 780)]], .agg [.lit (.int .i64 34979), .agg [.lit (.int .i32 234), .lit (.int .i32 772)]], .agg [.lit (.int .i64 34981), .agg [.lit (.int .i32 234), .lit (.int .i32 780)]]]
/-- One of Go's own tables, pinned by name: the form's constant. -/
def laid_unicode_utf8_first : DataW Unit := Go.Pinned.utf8First

/-- 'diacriticlaw08.BigSigns': WHATEVER THE INPUT: true; the input reads as it did. -/
def bigSignsSpec : ChangeSpec := { name := "bigSigns", fn := fun _ => fun
  | [d1, d2] => { results := [.lit (.bool true)], args := [d1, d2] }
  | _ => none }
def bigSignsRow : OpenClaim := { program := "ytmpddibdggdngaadoor", sum := "63cb387d87ccadca9e6e0bd52df2c8f8d41cff86e49170e045ed354fad7f81b1", func := "diacritic/diacriticlaw08.BigSigns", spec := "bigSigns", inPlace := ["internal/bytealg.IndexByteString", "internal/bytealg.IndexString"], named := ["diacritic/big5.doubles", "unicode/utf8.first", "unicode/utf8.acceptRanges", "internal/bytealg.MaxLen"], apart := false, laid := [("unicode/utf8.acceptRanges", laid_unicode_utf8_acceptRanges), ("diacritic/big5.doubles", laid_diacritic_big5_doubles), ("unicode/utf8.first", laid_unicode_utf8_first)] }
def BigSignsSaid : Prop := bigSignsRow.holds Tryd.pinned (OpenSpec.ofChange bigSignsSpec)

/-- ITS FALSE NEIGHBOUR: 'it returns false'. Refute it at one input. -/
def bigSignsWrong : ChangeSpec := { name := "bigSigns", fn := fun _ => fun
  | [d1, d2] => { results := [.lit (.bool false)], args := [d1, d2] }
  | _ => none }
def BigSignsWrongFalsely : Prop := bigSignsRow.holds Tryd.pinned (OpenSpec.ofChange bigSignsWrong)

/-- 'diacriticlaw08.BigBytes': WHATEVER THE INPUT: true; the input reads as it did. -/
def bigBytesSpec : ChangeSpec := { name := "bigBytes", fn := fun _ => fun
  | [d] => { results := [.lit (.bool true)], args := [d] }
  | _ => none }
def bigBytesRow : OpenClaim := { program := "ytmpddibdggdngaadoor", sum := "63cb387d87ccadca9e6e0bd52df2c8f8d41cff86e49170e045ed354fad7f81b1", func := "diacritic/diacriticlaw08.BigBytes", spec := "bigBytes", inPlace := ["internal/bytealg.IndexByteString", "internal/bytealg.IndexString"], named := ["diacritic/big5.doubles", "unicode/utf8.first", "unicode/utf8.acceptRanges", "internal/bytealg.MaxLen"], apart := false, laid := [("unicode/utf8.acceptRanges", laid_unicode_utf8_acceptRanges), ("diacritic/big5.doubles", laid_diacritic_big5_doubles), ("unicode/utf8.first", laid_unicode_utf8_first)] }
def BigBytesSaid : Prop := bigBytesRow.holds Tryd.pinned (OpenSpec.ofChange bigBytesSpec)

/-- ITS FALSE NEIGHBOUR: 'it returns false'. Refute it at one input. -/
def bigBytesWrong : ChangeSpec := { name := "bigBytes", fn := fun _ => fun
  | [d] => { results := [.lit (.bool false)], args := [d] }
  | _ => none }
def BigBytesWrongFalsely : Prop := bigBytesRow.holds Tryd.pinned (OpenSpec.ofChange bigBytesWrong)

/-- 'diacriticlaw08.BigLonger': WHATEVER THE INPUT: true; the input reads as it did. -/
def bigLongerSpec : ChangeSpec := { name := "bigLonger", fn := fun _ => fun
  | [d1, d2] => { results := [.lit (.bool true)], args := [d1, d2] }
  | _ => none }
def bigLongerRow : OpenClaim := { program := "ytmpddibdggdngaadoor", sum := "63cb387d87ccadca9e6e0bd52df2c8f8d41cff86e49170e045ed354fad7f81b1", func := "diacritic/diacriticlaw08.BigLonger", spec := "bigLonger", inPlace := ["internal/bytealg.IndexByteString", "internal/bytealg.IndexString"], named := ["diacritic/big5.doubles", "unicode/utf8.first", "unicode/utf8.acceptRanges", "internal/bytealg.MaxLen"], apart := false, laid := [("unicode/utf8.acceptRanges", laid_unicode_utf8_acceptRanges), ("diacritic/big5.doubles", laid_diacritic_big5_doubles), ("unicode/utf8.first", laid_unicode_utf8_first)] }
def BigLongerSaid : Prop := bigLongerRow.holds Tryd.pinned (OpenSpec.ofChange bigLongerSpec)

/-- ITS FALSE NEIGHBOUR: 'it returns false'. Refute it at one input. -/
def bigLongerWrong : ChangeSpec := { name := "bigLonger", fn := fun _ => fun
  | [d1, d2] => { results := [.lit (.bool false)], args := [d1, d2] }
  | _ => none }
def BigLongerWrongFalsely : Prop := bigLongerRow.holds Tryd.pinned (OpenSpec.ofChange bigLongerWrong)

/-- 'diacriticlaw08.BigPairs': WHATEVER THE INPUT: true; the input reads as it did. -/
def bigPairsSpec : ChangeSpec := { name := "bigPairs", fn := fun _ => fun
  | [] => { results := [.lit (.bool true)], args := [] }
  | _ => none }
def bigPairsRow : OpenClaim := { program := "ytmpddibdggdngaadoor", sum := "63cb387d87ccadca9e6e0bd52df2c8f8d41cff86e49170e045ed354fad7f81b1", func := "diacritic/diacriticlaw08.BigPairs", spec := "bigPairs", inPlace := ["internal/bytealg.IndexByteString", "internal/bytealg.IndexString"], unfollowed := true, recurses := true, named := ["unicode/utf8.first", "unicode/utf8.acceptRanges", "diacritic/big5.doubles", "internal/bytealg.MaxLen"], apart := false, laid := [("unicode/utf8.acceptRanges", laid_unicode_utf8_acceptRanges), ("diacritic/big5.doubles", laid_diacritic_big5_doubles), ("unicode/utf8.first", laid_unicode_utf8_first)] }
def BigPairsSaid : Prop := bigPairsRow.holds Tryd.pinned (OpenSpec.ofChange bigPairsSpec)

/-- ITS FALSE NEIGHBOUR: 'it returns false'. Refute it at one input. -/
def bigPairsWrong : ChangeSpec := { name := "bigPairs", fn := fun _ => fun
  | [] => { results := [.lit (.bool false)], args := [] }
  | _ => none }
def BigPairsWrongFalsely : Prop := bigPairsRow.holds Tryd.pinned (OpenSpec.ofChange bigPairsWrong)

/- THE SECOND FORM. 'bulk': how many values and letters a reading holds, each counted each time it is reached (what is shared counts as often as it is met; a slice's spare places count too). A statement '..UptoSaid' is the law's where the arguments, and the package variables that the reading takes, are together of bulk at most 1048576: NARROWER than '..Said'. Prove '..Said' where nothing that the law and all that it calls make is longer than what came in: it says more and counts as full. Else prove '..UptoSaid'. A law counts once. -/
mutual
def uptoBulk {H : Type} : DataW H → Nat
  | .lit (.string bytes) => bytes.length + 1
  | .lit _ => 1
  | .nil => 1
  | .ptr d => uptoBulk d + 1
  | .slice elems spare => uptoBulkAll elems + uptoBulkAll spare + 1
  | .agg parts => uptoBulkAll parts + 1
  | .iface _ d => uptoBulk d + 1
  | .map entries => uptoBulkEntries entries + 1
  | .held _ => 1
def uptoBulkAll {H : Type} : List (DataW H) → Nat
  | [] => 0
  | d :: r => uptoBulk d + uptoBulkAll r
def uptoBulkEntries {H : Type} : List (Lit × DataW H) → Nat
  | [] => 0
  | x :: r => uptoBulkEntry x + uptoBulkEntries r
def uptoBulkEntry {H : Type} : Lit × DataW H → Nat
  | (.string bytes, d) => bytes.length + uptoBulk d + 1
  | (_, d) => uptoBulk d + 1
 end
def uptoSmall : (H : Type) → List (DataW H) → Bool := fun _ ds => decide (uptoBulkAll ds ≤ 1048576)
def OpenSpec.upto (s : _root_.Go.ChangeSpec) : _root_.Go.OpenSpec := { _root_.Go.OpenSpec.ofChange s with cond := some uptoSmall }

/-- 'diacriticlaw08.BigSigns', WHERE WHAT IT READS IS OF BULK AT MOST 1048576: true; the input reads as it did. -/
def bigSignsUptoRow : OpenClaim := { program := "ytmpddibdggdngaadoor", sum := "63cb387d87ccadca9e6e0bd52df2c8f8d41cff86e49170e045ed354fad7f81b1", func := "diacritic/diacriticlaw08.BigSigns", spec := "bigSigns", inPlace := ["internal/bytealg.IndexByteString", "internal/bytealg.IndexString"], named := ["diacritic/big5.doubles", "unicode/utf8.first", "unicode/utf8.acceptRanges", "internal/bytealg.MaxLen"], apart := false, laid := [("unicode/utf8.acceptRanges", laid_unicode_utf8_acceptRanges), ("diacritic/big5.doubles", laid_diacritic_big5_doubles), ("unicode/utf8.first", laid_unicode_utf8_first)], narrowed := true }
def BigSignsUptoSaid : Prop := bigSignsUptoRow.holds Tryd.pinned (OpenSpec.upto bigSignsSpec)

/-- 'diacriticlaw08.BigBytes', WHERE WHAT IT READS IS OF BULK AT MOST 1048576: true; the input reads as it did. -/
def bigBytesUptoRow : OpenClaim := { program := "ytmpddibdggdngaadoor", sum := "63cb387d87ccadca9e6e0bd52df2c8f8d41cff86e49170e045ed354fad7f81b1", func := "diacritic/diacriticlaw08.BigBytes", spec := "bigBytes", inPlace := ["internal/bytealg.IndexByteString", "internal/bytealg.IndexString"], named := ["diacritic/big5.doubles", "unicode/utf8.first", "unicode/utf8.acceptRanges", "internal/bytealg.MaxLen"], apart := false, laid := [("unicode/utf8.acceptRanges", laid_unicode_utf8_acceptRanges), ("diacritic/big5.doubles", laid_diacritic_big5_doubles), ("unicode/utf8.first", laid_unicode_utf8_first)], narrowed := true }
def BigBytesUptoSaid : Prop := bigBytesUptoRow.holds Tryd.pinned (OpenSpec.upto bigBytesSpec)

/-- 'diacriticlaw08.BigLonger', WHERE WHAT IT READS IS OF BULK AT MOST 1048576: true; the input reads as it did. -/
def bigLongerUptoRow : OpenClaim := { program := "ytmpddibdggdngaadoor", sum := "63cb387d87ccadca9e6e0bd52df2c8f8d41cff86e49170e045ed354fad7f81b1", func := "diacritic/diacriticlaw08.BigLonger", spec := "bigLonger", inPlace := ["internal/bytealg.IndexByteString", "internal/bytealg.IndexString"], named := ["diacritic/big5.doubles", "unicode/utf8.first", "unicode/utf8.acceptRanges", "internal/bytealg.MaxLen"], apart := false, laid := [("unicode/utf8.acceptRanges", laid_unicode_utf8_acceptRanges), ("diacritic/big5.doubles", laid_diacritic_big5_doubles), ("unicode/utf8.first", laid_unicode_utf8_first)], narrowed := true }
def BigLongerUptoSaid : Prop := bigLongerUptoRow.holds Tryd.pinned (OpenSpec.upto bigLongerSpec)

/-- 'diacriticlaw08.BigPairs', WHERE WHAT IT READS IS OF BULK AT MOST 1048576: true; the input reads as it did. -/
def bigPairsUptoRow : OpenClaim := { program := "ytmpddibdggdngaadoor", sum := "63cb387d87ccadca9e6e0bd52df2c8f8d41cff86e49170e045ed354fad7f81b1", func := "diacritic/diacriticlaw08.BigPairs", spec := "bigPairs", inPlace := ["internal/bytealg.IndexByteString", "internal/bytealg.IndexString"], unfollowed := true, recurses := true, named := ["unicode/utf8.first", "unicode/utf8.acceptRanges", "diacritic/big5.doubles", "internal/bytealg.MaxLen"], apart := false, laid := [("unicode/utf8.acceptRanges", laid_unicode_utf8_acceptRanges), ("diacritic/big5.doubles", laid_diacritic_big5_doubles), ("unicode/utf8.first", laid_unicode_utf8_first)], narrowed := true }
def BigPairsUptoSaid : Prop := bigPairsUptoRow.holds Tryd.pinned (OpenSpec.upto bigPairsSpec)

end Rows
end Go.Proofs.YtmpddibdggdngaaDoor
