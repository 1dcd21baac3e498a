/-
  No cell of these rows narrows 'for every input' (looked for: loops, veiled, ifaces, maps, wideKeys, modest, calm, conditions, laid).
  DERIVED. THE GIVEN ROWS OF THIS SEAT. 6 by the template 'for every input the law returns true; each argument reads behind the call as it read before'; 0 by the template 'total and deterministic' (their statements: YtidlkkhmmgkicaaTotals.lean).
  GIVEN WITH THE SEED: the statements are not yours to turn. If you find one false, say at which input.
  Laid BY PROGRAM, IN A SANDBOX (cutbox-rows.mjs): the forced cells as the released guide's own fill.sh prints them over the translation 3334d456293e6f15… (all of the seat's roots in one cut). By AI agents, Wed Nov 11 2026. No macro, syntax, notation, axiom, sorry.
-/
import Derived.Test.YtidlkkhmmgkicaaChecked
import GoSem.Claim
import GoSem.ClaimJoined
import GoSem.ClaimMapViews
import Derived.JoinedTies
import Derived.KernelRfl
namespace Go.Proofs.Ytidlkkhmmgkicaa
/- THE CELL 'sum', in the pinned program and in every row, IS THE sha256 OF THE DUMP (.gsa) THAT YtidlkkhmmgkicaaProg.lean LOADS. Nothing in Lean hashes anything: it is a label: what it is worth is what the hold of that sum in a sandbox is worth. -/
noncomputable def Try.pinned : Pinned := { name := "ytidlkkhmmgkicaa", sum := "3334d456293e6f152abf0beeabf7bcafeee178d0594a1d8bf843175f17058ed0", checked := Try.checked }
namespace Rows
def none {H : Type} : Left H := { results := [], args := [] }

/-- 'diacriticlaw11.SyncPuts': WHATEVER THE INPUT: true; the input reads as it did. -/
def syncPutsSpec : ChangeSpec := { name := "syncPuts", fn := fun _ => fun
  | [d] => { results := [.lit (.bool true)], args := [d] }
  | _ => none }
def syncPutsRow : OpenClaim := { program := "ytidlkkhmmgkicaa", sum := "3334d456293e6f152abf0beeabf7bcafeee178d0594a1d8bf843175f17058ed0", func := "diacritic/diacriticlaw11.SyncPuts", spec := "syncPuts", apart := false }
def SyncPutsSaid : Prop := syncPutsRow.holds Try.pinned (OpenSpec.ofChange syncPutsSpec)

/-- ITS FALSE NEIGHBOUR: 'it returns false'. Refute it at one input. -/
def syncPutsWrong : ChangeSpec := { name := "syncPuts", fn := fun _ => fun
  | [d] => { results := [.lit (.bool false)], args := [d] }
  | _ => none }
def SyncPutsWrongFalsely : Prop := syncPutsRow.holds Try.pinned (OpenSpec.ofChange syncPutsWrong)

/-- 'diacriticlaw11.SyncBack': WHATEVER THE INPUT: true; the input reads as it did. -/
def syncBackSpec : ChangeSpec := { name := "syncBack", fn := fun _ => fun
  | [d] => { results := [.lit (.bool true)], args := [d] }
  | _ => none }
def syncBackRow : OpenClaim := { program := "ytidlkkhmmgkicaa", sum := "3334d456293e6f152abf0beeabf7bcafeee178d0594a1d8bf843175f17058ed0", func := "diacritic/diacriticlaw11.SyncBack", spec := "syncBack", apart := false }
def SyncBackSaid : Prop := syncBackRow.holds Try.pinned (OpenSpec.ofChange syncBackSpec)

/-- ITS FALSE NEIGHBOUR: 'it returns false'. Refute it at one input. -/
def syncBackWrong : ChangeSpec := { name := "syncBack", fn := fun _ => fun
  | [d] => { results := [.lit (.bool false)], args := [d] }
  | _ => none }
def SyncBackWrongFalsely : Prop := syncBackRow.holds Try.pinned (OpenSpec.ofChange syncBackWrong)

/-- 'diacriticlaw11.SyncParts': WHATEVER THE INPUT: true; the input reads as it did. -/
def syncPartsSpec : ChangeSpec := { name := "syncParts", fn := fun _ => fun
  | [d1, d2] => { results := [.lit (.bool true)], args := [d1, d2] }
  | _ => none }
def syncPartsRow : OpenClaim := { program := "ytidlkkhmmgkicaa", sum := "3334d456293e6f152abf0beeabf7bcafeee178d0594a1d8bf843175f17058ed0", func := "diacritic/diacriticlaw11.SyncParts", spec := "syncParts", apart := false }
def SyncPartsSaid : Prop := syncPartsRow.holds Try.pinned (OpenSpec.ofChange syncPartsSpec)

/-- ITS FALSE NEIGHBOUR: 'it returns false'. Refute it at one input. -/
def syncPartsWrong : ChangeSpec := { name := "syncParts", fn := fun _ => fun
  | [d1, d2] => { results := [.lit (.bool false)], args := [d1, d2] }
  | _ => none }
def SyncPartsWrongFalsely : Prop := syncPartsRow.holds Try.pinned (OpenSpec.ofChange syncPartsWrong)

/-- 'diacriticlaw12.TailReads': WHATEVER THE INPUT: true; the input reads as it did. -/
def tailReadsSpec : ChangeSpec := { name := "tailReads", fn := fun _ => fun
  | [d] => { results := [.lit (.bool true)], args := [d] }
  | _ => none }
def tailReadsRow : OpenClaim := { program := "ytidlkkhmmgkicaa", sum := "3334d456293e6f152abf0beeabf7bcafeee178d0594a1d8bf843175f17058ed0", func := "diacritic/diacriticlaw12.TailReads", spec := "tailReads", inPlace := ["internal/bytealg.IndexByteString", "internal/bytealg.IndexString", "internal/abi.NoEscape", "internal/bytealg.MakeNoZero"], named := ["internal/bytealg.MaxLen"], apart := false }
def TailReadsSaid : Prop := tailReadsRow.holds Try.pinned (OpenSpec.ofChange tailReadsSpec)

/-- ITS FALSE NEIGHBOUR: 'it returns false'. Refute it at one input. -/
def tailReadsWrong : ChangeSpec := { name := "tailReads", fn := fun _ => fun
  | [d] => { results := [.lit (.bool false)], args := [d] }
  | _ => none }
def TailReadsWrongFalsely : Prop := tailReadsRow.holds Try.pinned (OpenSpec.ofChange tailReadsWrong)

/-- 'diacriticlaw12.TailPrints': WHATEVER THE INPUT: true; the input reads as it did. -/
def tailPrintsSpec : ChangeSpec := { name := "tailPrints", fn := fun _ => fun
  | [d] => { results := [.lit (.bool true)], args := [d] }
  | _ => none }
def tailPrintsRow : OpenClaim := { program := "ytidlkkhmmgkicaa", sum := "3334d456293e6f152abf0beeabf7bcafeee178d0594a1d8bf843175f17058ed0", func := "diacritic/diacriticlaw12.TailPrints", spec := "tailPrints", inPlace := ["internal/bytealg.IndexByteString", "internal/bytealg.IndexString", "internal/abi.NoEscape", "internal/bytealg.MakeNoZero"], named := ["internal/bytealg.MaxLen"], apart := false }
def TailPrintsSaid : Prop := tailPrintsRow.holds Try.pinned (OpenSpec.ofChange tailPrintsSpec)

/-- ITS FALSE NEIGHBOUR: 'it returns false'. Refute it at one input. -/
def tailPrintsWrong : ChangeSpec := { name := "tailPrints", fn := fun _ => fun
  | [d] => { results := [.lit (.bool false)], args := [d] }
  | _ => none }
def TailPrintsWrongFalsely : Prop := tailPrintsRow.holds Try.pinned (OpenSpec.ofChange tailPrintsWrong)

/-- 'diacriticlaw12.TailSplits': WHATEVER THE INPUT: true; the input reads as it did. -/
def tailSplitsSpec : ChangeSpec := { name := "tailSplits", fn := fun _ => fun
  | [d1, d2] => { results := [.lit (.bool true)], args := [d1, d2] }
  | _ => none }
def tailSplitsRow : OpenClaim := { program := "ytidlkkhmmgkicaa", sum := "3334d456293e6f152abf0beeabf7bcafeee178d0594a1d8bf843175f17058ed0", func := "diacritic/diacriticlaw12.TailSplits", spec := "tailSplits", inPlace := ["internal/bytealg.IndexByteString", "internal/bytealg.IndexString", "internal/abi.NoEscape", "internal/bytealg.MakeNoZero"], named := ["internal/bytealg.MaxLen"], apart := false }
def TailSplitsSaid : Prop := tailSplitsRow.holds Try.pinned (OpenSpec.ofChange tailSplitsSpec)

/-- ITS FALSE NEIGHBOUR: 'it returns false'. Refute it at one input. -/
def tailSplitsWrong : ChangeSpec := { name := "tailSplits", fn := fun _ => fun
  | [d1, d2] => { results := [.lit (.bool false)], args := [d1, d2] }
  | _ => none }
def TailSplitsWrongFalsely : Prop := tailSplitsRow.holds Try.pinned (OpenSpec.ofChange tailSplitsWrong)

/- THE SECOND FORM. 'bulk': how many values and letters a reading holds, each counted each time it is reached (what is shared counts as often as it is met; a slice's spare places count too). A statement '..UptoSaid' is the law's where the arguments, and the package variables that the reading takes, are together of bulk at most 1048576: NARROWER than '..Said'. Prove '..Said' where nothing that the law and all that it calls make is longer than what came in: it says more and counts as full. Else prove '..UptoSaid'. A law counts once. -/
mutual
def uptoBulk {H : Type} : DataW H → Nat
  | .lit (.string bytes) => bytes.length + 1
  | .lit _ => 1
  | .nil => 1
  | .ptr d => uptoBulk d + 1
  | .slice elems spare => uptoBulkAll elems + uptoBulkAll spare + 1
  | .agg parts => uptoBulkAll parts + 1
  | .iface _ d => uptoBulk d + 1
  | .map entries => uptoBulkEntries entries + 1
  | .held _ => 1
def uptoBulkAll {H : Type} : List (DataW H) → Nat
  | [] => 0
  | d :: r => uptoBulk d + uptoBulkAll r
def uptoBulkEntries {H : Type} : List (Lit × DataW H) → Nat
  | [] => 0
  | x :: r => uptoBulkEntry x + uptoBulkEntries r
def uptoBulkEntry {H : Type} : Lit × DataW H → Nat
  | (.string bytes, d) => bytes.length + uptoBulk d + 1
  | (_, d) => uptoBulk d + 1
 end
def uptoSmall : (H : Type) → List (DataW H) → Bool := fun _ ds => decide (uptoBulkAll ds ≤ 1048576)
def OpenSpec.upto (s : _root_.Go.ChangeSpec) : _root_.Go.OpenSpec := { _root_.Go.OpenSpec.ofChange s with cond := some uptoSmall }

/-- 'diacriticlaw11.SyncPuts', WHERE WHAT IT READS IS OF BULK AT MOST 1048576: true; the input reads as it did. -/
def syncPutsUptoRow : OpenClaim := { program := "ytidlkkhmmgkicaa", sum := "3334d456293e6f152abf0beeabf7bcafeee178d0594a1d8bf843175f17058ed0", func := "diacritic/diacriticlaw11.SyncPuts", spec := "syncPuts", apart := false, narrowed := true }
def SyncPutsUptoSaid : Prop := syncPutsUptoRow.holds Try.pinned (OpenSpec.upto syncPutsSpec)

/-- 'diacriticlaw11.SyncBack', WHERE WHAT IT READS IS OF BULK AT MOST 1048576: true; the input reads as it did. -/
def syncBackUptoRow : OpenClaim := { program := "ytidlkkhmmgkicaa", sum := "3334d456293e6f152abf0beeabf7bcafeee178d0594a1d8bf843175f17058ed0", func := "diacritic/diacriticlaw11.SyncBack", spec := "syncBack", apart := false, narrowed := true }
def SyncBackUptoSaid : Prop := syncBackUptoRow.holds Try.pinned (OpenSpec.upto syncBackSpec)

/-- 'diacriticlaw11.SyncParts', WHERE WHAT IT READS IS OF BULK AT MOST 1048576: true; the input reads as it did. -/
def syncPartsUptoRow : OpenClaim := { program := "ytidlkkhmmgkicaa", sum := "3334d456293e6f152abf0beeabf7bcafeee178d0594a1d8bf843175f17058ed0", func := "diacritic/diacriticlaw11.SyncParts", spec := "syncParts", apart := false, narrowed := true }
def SyncPartsUptoSaid : Prop := syncPartsUptoRow.holds Try.pinned (OpenSpec.upto syncPartsSpec)

/-- 'diacriticlaw12.TailReads', WHERE WHAT IT READS IS OF BULK AT MOST 1048576: true; the input reads as it did. -/
def tailReadsUptoRow : OpenClaim := { program := "ytidlkkhmmgkicaa", sum := "3334d456293e6f152abf0beeabf7bcafeee178d0594a1d8bf843175f17058ed0", func := "diacritic/diacriticlaw12.TailReads", spec := "tailReads", inPlace := ["internal/bytealg.IndexByteString", "internal/bytealg.IndexString", "internal/abi.NoEscape", "internal/bytealg.MakeNoZero"], named := ["internal/bytealg.MaxLen"], apart := false, narrowed := true }
def TailReadsUptoSaid : Prop := tailReadsUptoRow.holds Try.pinned (OpenSpec.upto tailReadsSpec)

/-- 'diacriticlaw12.TailPrints', WHERE WHAT IT READS IS OF BULK AT MOST 1048576: true; the input reads as it did. -/
def tailPrintsUptoRow : OpenClaim := { program := "ytidlkkhmmgkicaa", sum := "3334d456293e6f152abf0beeabf7bcafeee178d0594a1d8bf843175f17058ed0", func := "diacritic/diacriticlaw12.TailPrints", spec := "tailPrints", inPlace := ["internal/bytealg.IndexByteString", "internal/bytealg.IndexString", "internal/abi.NoEscape", "internal/bytealg.MakeNoZero"], named := ["internal/bytealg.MaxLen"], apart := false, narrowed := true }
def TailPrintsUptoSaid : Prop := tailPrintsUptoRow.holds Try.pinned (OpenSpec.upto tailPrintsSpec)

/-- 'diacriticlaw12.TailSplits', WHERE WHAT IT READS IS OF BULK AT MOST 1048576: true; the input reads as it did. -/
def tailSplitsUptoRow : OpenClaim := { program := "ytidlkkhmmgkicaa", sum := "3334d456293e6f152abf0beeabf7bcafeee178d0594a1d8bf843175f17058ed0", func := "diacritic/diacriticlaw12.TailSplits", spec := "tailSplits", inPlace := ["internal/bytealg.IndexByteString", "internal/bytealg.IndexString", "internal/abi.NoEscape", "internal/bytealg.MakeNoZero"], named := ["internal/bytealg.MaxLen"], apart := false, narrowed := true }
def TailSplitsUptoSaid : Prop := tailSplitsUptoRow.holds Try.pinned (OpenSpec.upto tailSplitsSpec)

end Rows
end Go.Proofs.Ytidlkkhmmgkicaa
