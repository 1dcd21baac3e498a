/-
  No cell of these rows narrows 'for every input' (looked for: loops, veiled, ifaces, maps, wideKeys, modest, calm, conditions, laid).
  DERIVED. THE GIVEN ROWS OF THIS SEAT. 4 by the template 'for every input the law returns true; each argument reads behind the call as it read before'; 0 by the template 'total and deterministic' (their statements: YtkhajafjieofhaaTotals.lean).
  GIVEN WITH THE SEED: the statements are not yours to turn. If you find one false, say at which input.
  Laid BY PROGRAM, IN A SANDBOX (cutbox-rows.mjs): the forced cells as the released guide's own fill.sh prints them over the translation 7c2952b6de8efb6c… (all of the seat's roots in one cut). By AI agents, Wed Nov 11 2026. No macro, syntax, notation, axiom, sorry.
-/
import Derived.Test.YtkhajafjieofhaaChecked
import GoSem.Claim
import GoSem.ClaimJoined
import GoSem.ClaimMapViews
import Derived.JoinedTies
import Derived.KernelRfl
namespace Go.Proofs.Ytkhajafjieofhaa
/- THE CELL 'sum', in the pinned program and in every row, IS THE sha256 OF THE DUMP (.gsa) THAT YtkhajafjieofhaaProg.lean LOADS. Nothing in Lean hashes anything: it is a label: what it is worth is what the hold of that sum in a sandbox is worth. -/
noncomputable def Try.pinned : Pinned := { name := "ytkhajafjieofhaa", sum := "7c2952b6de8efb6c862cf0f0602bbaeb864f135a5211a2e2006b6b6092ca4077", checked := Try.checked }
namespace Rows
def none {H : Type} : Left H := { results := [], args := [] }

/-- 'diacriticlaw13.FrameFlags': WHATEVER THE INPUT: true; the input reads as it did. -/
def frameFlagsSpec : ChangeSpec := { name := "frameFlags", fn := fun _ => fun
  | [d1, d2, d3] => { results := [.lit (.bool true)], args := [d1, d2, d3] }
  | _ => none }
def frameFlagsRow : OpenClaim := { program := "ytkhajafjieofhaa", sum := "7c2952b6de8efb6c862cf0f0602bbaeb864f135a5211a2e2006b6b6092ca4077", func := "diacritic/diacriticlaw13.FrameFlags", spec := "frameFlags", inPlace := ["internal/abi.NoEscape", "internal/bytealg.MakeNoZero"], apart := false }
def FrameFlagsSaid : Prop := frameFlagsRow.holds Try.pinned (OpenSpec.ofChange frameFlagsSpec)

/-- ITS FALSE NEIGHBOUR: 'it returns false'. Refute it at one input. -/
def frameFlagsWrong : ChangeSpec := { name := "frameFlags", fn := fun _ => fun
  | [d1, d2, d3] => { results := [.lit (.bool false)], args := [d1, d2, d3] }
  | _ => none }
def FrameFlagsWrongFalsely : Prop := frameFlagsRow.holds Try.pinned (OpenSpec.ofChange frameFlagsWrong)

/-- 'diacriticlaw13.FramePrints': WHATEVER THE INPUT: true; the input reads as it did. -/
def framePrintsSpec : ChangeSpec := { name := "framePrints", fn := fun _ => fun
  | [d1, d2, d3] => { results := [.lit (.bool true)], args := [d1, d2, d3] }
  | _ => none }
def framePrintsRow : OpenClaim := { program := "ytkhajafjieofhaa", sum := "7c2952b6de8efb6c862cf0f0602bbaeb864f135a5211a2e2006b6b6092ca4077", func := "diacritic/diacriticlaw13.FramePrints", spec := "framePrints", inPlace := ["internal/abi.NoEscape", "internal/bytealg.MakeNoZero"], apart := false }
def FramePrintsSaid : Prop := framePrintsRow.holds Try.pinned (OpenSpec.ofChange framePrintsSpec)

/-- ITS FALSE NEIGHBOUR: 'it returns false'. Refute it at one input. -/
def framePrintsWrong : ChangeSpec := { name := "framePrints", fn := fun _ => fun
  | [d1, d2, d3] => { results := [.lit (.bool false)], args := [d1, d2, d3] }
  | _ => none }
def FramePrintsWrongFalsely : Prop := framePrintsRow.holds Try.pinned (OpenSpec.ofChange framePrintsWrong)

/-- 'diacriticlaw13.FrameSizes': WHATEVER THE INPUT: true; the input reads as it did. -/
def frameSizesSpec : ChangeSpec := { name := "frameSizes", fn := fun _ => fun
  | [d1, d2] => { results := [.lit (.bool true)], args := [d1, d2] }
  | _ => none }
def frameSizesRow : OpenClaim := { program := "ytkhajafjieofhaa", sum := "7c2952b6de8efb6c862cf0f0602bbaeb864f135a5211a2e2006b6b6092ca4077", func := "diacritic/diacriticlaw13.FrameSizes", spec := "frameSizes", inPlace := ["internal/abi.NoEscape", "internal/bytealg.MakeNoZero"], apart := false }
def FrameSizesSaid : Prop := frameSizesRow.holds Try.pinned (OpenSpec.ofChange frameSizesSpec)

/-- ITS FALSE NEIGHBOUR: 'it returns false'. Refute it at one input. -/
def frameSizesWrong : ChangeSpec := { name := "frameSizes", fn := fun _ => fun
  | [d1, d2] => { results := [.lit (.bool false)], args := [d1, d2] }
  | _ => none }
def FrameSizesWrongFalsely : Prop := frameSizesRow.holds Try.pinned (OpenSpec.ofChange frameSizesWrong)

/-- 'diacriticlaw13.FrameCuts': WHATEVER THE INPUT: true; the input reads as it did. -/
def frameCutsSpec : ChangeSpec := { name := "frameCuts", fn := fun _ => fun
  | [d1, d2, d3] => { results := [.lit (.bool true)], args := [d1, d2, d3] }
  | _ => none }
def frameCutsRow : OpenClaim := { program := "ytkhajafjieofhaa", sum := "7c2952b6de8efb6c862cf0f0602bbaeb864f135a5211a2e2006b6b6092ca4077", func := "diacritic/diacriticlaw13.FrameCuts", spec := "frameCuts", inPlace := ["internal/abi.NoEscape", "internal/bytealg.MakeNoZero"], apart := false }
def FrameCutsSaid : Prop := frameCutsRow.holds Try.pinned (OpenSpec.ofChange frameCutsSpec)

/-- ITS FALSE NEIGHBOUR: 'it returns false'. Refute it at one input. -/
def frameCutsWrong : ChangeSpec := { name := "frameCuts", fn := fun _ => fun
  | [d1, d2, d3] => { results := [.lit (.bool false)], args := [d1, d2, d3] }
  | _ => none }
def FrameCutsWrongFalsely : Prop := frameCutsRow.holds Try.pinned (OpenSpec.ofChange frameCutsWrong)

/- THE SECOND FORM. 'bulk': how many values and letters a reading holds, each counted each time it is reached (what is shared counts as often as it is met; a slice's spare places count too). A statement '..UptoSaid' is the law's where the arguments, and the package variables that the reading takes, are together of bulk at most 1048576: NARROWER than '..Said'. Prove '..Said' where nothing that the law and all that it calls make is longer than what came in: it says more and counts as full. Else prove '..UptoSaid'. A law counts once. -/
mutual
def uptoBulk {H : Type} : DataW H → Nat
  | .lit (.string bytes) => bytes.length + 1
  | .lit _ => 1
  | .nil => 1
  | .ptr d => uptoBulk d + 1
  | .slice elems spare => uptoBulkAll elems + uptoBulkAll spare + 1
  | .agg parts => uptoBulkAll parts + 1
  | .iface _ d => uptoBulk d + 1
  | .map entries => uptoBulkEntries entries + 1
  | .held _ => 1
def uptoBulkAll {H : Type} : List (DataW H) → Nat
  | [] => 0
  | d :: r => uptoBulk d + uptoBulkAll r
def uptoBulkEntries {H : Type} : List (Lit × DataW H) → Nat
  | [] => 0
  | x :: r => uptoBulkEntry x + uptoBulkEntries r
def uptoBulkEntry {H : Type} : Lit × DataW H → Nat
  | (.string bytes, d) => bytes.length + uptoBulk d + 1
  | (_, d) => uptoBulk d + 1
 end
def uptoSmall : (H : Type) → List (DataW H) → Bool := fun _ ds => decide (uptoBulkAll ds ≤ 1048576)
def OpenSpec.upto (s : _root_.Go.ChangeSpec) : _root_.Go.OpenSpec := { _root_.Go.OpenSpec.ofChange s with cond := some uptoSmall }

/-- 'diacriticlaw13.FrameFlags', WHERE WHAT IT READS IS OF BULK AT MOST 1048576: true; the input reads as it did. -/
def frameFlagsUptoRow : OpenClaim := { program := "ytkhajafjieofhaa", sum := "7c2952b6de8efb6c862cf0f0602bbaeb864f135a5211a2e2006b6b6092ca4077", func := "diacritic/diacriticlaw13.FrameFlags", spec := "frameFlags", inPlace := ["internal/abi.NoEscape", "internal/bytealg.MakeNoZero"], apart := false, narrowed := true }
def FrameFlagsUptoSaid : Prop := frameFlagsUptoRow.holds Try.pinned (OpenSpec.upto frameFlagsSpec)

/-- 'diacriticlaw13.FramePrints', WHERE WHAT IT READS IS OF BULK AT MOST 1048576: true; the input reads as it did. -/
def framePrintsUptoRow : OpenClaim := { program := "ytkhajafjieofhaa", sum := "7c2952b6de8efb6c862cf0f0602bbaeb864f135a5211a2e2006b6b6092ca4077", func := "diacritic/diacriticlaw13.FramePrints", spec := "framePrints", inPlace := ["internal/abi.NoEscape", "internal/bytealg.MakeNoZero"], apart := false, narrowed := true }
def FramePrintsUptoSaid : Prop := framePrintsUptoRow.holds Try.pinned (OpenSpec.upto framePrintsSpec)

/-- 'diacriticlaw13.FrameSizes', WHERE WHAT IT READS IS OF BULK AT MOST 1048576: true; the input reads as it did. -/
def frameSizesUptoRow : OpenClaim := { program := "ytkhajafjieofhaa", sum := "7c2952b6de8efb6c862cf0f0602bbaeb864f135a5211a2e2006b6b6092ca4077", func := "diacritic/diacriticlaw13.FrameSizes", spec := "frameSizes", inPlace := ["internal/abi.NoEscape", "internal/bytealg.MakeNoZero"], apart := false, narrowed := true }
def FrameSizesUptoSaid : Prop := frameSizesUptoRow.holds Try.pinned (OpenSpec.upto frameSizesSpec)

/-- 'diacriticlaw13.FrameCuts', WHERE WHAT IT READS IS OF BULK AT MOST 1048576: true; the input reads as it did. -/
def frameCutsUptoRow : OpenClaim := { program := "ytkhajafjieofhaa", sum := "7c2952b6de8efb6c862cf0f0602bbaeb864f135a5211a2e2006b6b6092ca4077", func := "diacritic/diacriticlaw13.FrameCuts", spec := "frameCuts", inPlace := ["internal/abi.NoEscape", "internal/bytealg.MakeNoZero"], apart := false, narrowed := true }
def FrameCutsUptoSaid : Prop := frameCutsUptoRow.holds Try.pinned (OpenSpec.upto frameCutsSpec)

end Rows
end Go.Proofs.Ytkhajafjieofhaa
