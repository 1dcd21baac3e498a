/-
  No cell of these rows narrows 'for every input' (looked for: loops, veiled, ifaces, maps, wideKeys, modest, calm, conditions, laid).
  DERIVED. THE GIVEN ROWS OF THIS SEAT. 5 by the template 'for every input the law returns true; each argument reads behind the call as it read before'; 0 by the template 'total and deterministic' (their statements: YtkhcmgnempjjcaaTotals.lean).
  GIVEN WITH THE SEED: the statements are not yours to turn. If you find one false, say at which input.
  Laid BY PROGRAM, IN A SANDBOX (cutbox-rows.mjs): the forced cells as the released guide's own fill.sh prints them over the translation 73ce4df21525cfcf… (all of the seat's roots in one cut). By AI agents, Wed Nov 11 2026. No macro, syntax, notation, axiom, sorry.
-/
import Derived.Test.YtkhcmgnempjjcaaChecked
import GoSem.Claim
import GoSem.ClaimJoined
import GoSem.ClaimMapViews
import Derived.JoinedTies
import Derived.KernelRfl
namespace Go.Proofs.Ytkhcmgnempjjcaa
/- THE CELL 'sum', in the pinned program and in every row, IS THE sha256 OF THE DUMP (.gsa) THAT YtkhcmgnempjjcaaProg.lean LOADS. Nothing in Lean hashes anything: it is a label: what it is worth is what the hold of that sum in a sandbox is worth. -/
noncomputable def Try.pinned : Pinned := { name := "ytkhcmgnempjjcaa", sum := "73ce4df21525cfcfb9fc106abc697be5f5563af00e04138e3525cdfe899419c2", checked := Try.checked }
namespace Rows
def none {H : Type} : Left H := { results := [], args := [] }

/-- 'diacriticlaw01.OctetNumbers': WHATEVER THE INPUT: true; the input reads as it did. -/
def octetNumbersSpec : ChangeSpec := { name := "octetNumbers", fn := fun _ => fun
  | [d1, d2] => { results := [.lit (.bool true)], args := [d1, d2] }
  | _ => none }
def octetNumbersRow : OpenClaim := { program := "ytkhcmgnempjjcaa", sum := "73ce4df21525cfcfb9fc106abc697be5f5563af00e04138e3525cdfe899419c2", func := "diacritic/diacriticlaw01.OctetNumbers", spec := "octetNumbers", apart := false }
def OctetNumbersSaid : Prop := octetNumbersRow.holds Try.pinned (OpenSpec.ofChange octetNumbersSpec)

/-- ITS FALSE NEIGHBOUR: 'it returns false'. Refute it at one input. -/
def octetNumbersWrong : ChangeSpec := { name := "octetNumbers", fn := fun _ => fun
  | [d1, d2] => { results := [.lit (.bool false)], args := [d1, d2] }
  | _ => none }
def OctetNumbersWrongFalsely : Prop := octetNumbersRow.holds Try.pinned (OpenSpec.ofChange octetNumbersWrong)

/-- 'diacriticlaw01.OctetSafe': WHATEVER THE INPUT: true; the input reads as it did. -/
def octetSafeSpec : ChangeSpec := { name := "octetSafe", fn := fun _ => fun
  | [d] => { results := [.lit (.bool true)], args := [d] }
  | _ => none }
def octetSafeRow : OpenClaim := { program := "ytkhcmgnempjjcaa", sum := "73ce4df21525cfcfb9fc106abc697be5f5563af00e04138e3525cdfe899419c2", func := "diacritic/diacriticlaw01.OctetSafe", spec := "octetSafe", apart := false }
def OctetSafeSaid : Prop := octetSafeRow.holds Try.pinned (OpenSpec.ofChange octetSafeSpec)

/-- ITS FALSE NEIGHBOUR: 'it returns false'. Refute it at one input. -/
def octetSafeWrong : ChangeSpec := { name := "octetSafe", fn := fun _ => fun
  | [d] => { results := [.lit (.bool false)], args := [d] }
  | _ => none }
def OctetSafeWrongFalsely : Prop := octetSafeRow.holds Try.pinned (OpenSpec.ofChange octetSafeWrong)

/-- 'diacriticlaw01.OctetReads': WHATEVER THE INPUT: true; the input reads as it did. -/
def octetReadsSpec : ChangeSpec := { name := "octetReads", fn := fun _ => fun
  | [d1, d2, d3] => { results := [.lit (.bool true)], args := [d1, d2, d3] }
  | _ => none }
def octetReadsRow : OpenClaim := { program := "ytkhcmgnempjjcaa", sum := "73ce4df21525cfcfb9fc106abc697be5f5563af00e04138e3525cdfe899419c2", func := "diacritic/diacriticlaw01.OctetReads", spec := "octetReads", apart := false }
def OctetReadsSaid : Prop := octetReadsRow.holds Try.pinned (OpenSpec.ofChange octetReadsSpec)

/-- ITS FALSE NEIGHBOUR: 'it returns false'. Refute it at one input. -/
def octetReadsWrong : ChangeSpec := { name := "octetReads", fn := fun _ => fun
  | [d1, d2, d3] => { results := [.lit (.bool false)], args := [d1, d2, d3] }
  | _ => none }
def OctetReadsWrongFalsely : Prop := octetReadsRow.holds Try.pinned (OpenSpec.ofChange octetReadsWrong)

/-- 'diacriticlaw01.OctetJoins': WHATEVER THE INPUT: true; the input reads as it did. -/
def octetJoinsSpec : ChangeSpec := { name := "octetJoins", fn := fun _ => fun
  | [d] => { results := [.lit (.bool true)], args := [d] }
  | _ => none }
def octetJoinsRow : OpenClaim := { program := "ytkhcmgnempjjcaa", sum := "73ce4df21525cfcfb9fc106abc697be5f5563af00e04138e3525cdfe899419c2", func := "diacritic/diacriticlaw01.OctetJoins", spec := "octetJoins", inPlace := ["internal/abi.NoEscape", "internal/bytealg.MakeNoZero"], apart := false }
def OctetJoinsSaid : Prop := octetJoinsRow.holds Try.pinned (OpenSpec.ofChange octetJoinsSpec)

/-- ITS FALSE NEIGHBOUR: 'it returns false'. Refute it at one input. -/
def octetJoinsWrong : ChangeSpec := { name := "octetJoins", fn := fun _ => fun
  | [d] => { results := [.lit (.bool false)], args := [d] }
  | _ => none }
def OctetJoinsWrongFalsely : Prop := octetJoinsRow.holds Try.pinned (OpenSpec.ofChange octetJoinsWrong)

/-- 'diacriticlaw01.OctetNil': WHATEVER THE INPUT: true; the input reads as it did. -/
def octetNilSpec : ChangeSpec := { name := "octetNil", fn := fun _ => fun
  | [d1, d2] => { results := [.lit (.bool true)], args := [d1, d2] }
  | _ => none }
def octetNilRow : OpenClaim := { program := "ytkhcmgnempjjcaa", sum := "73ce4df21525cfcfb9fc106abc697be5f5563af00e04138e3525cdfe899419c2", func := "diacritic/diacriticlaw01.OctetNil", spec := "octetNil", apart := false }
def OctetNilSaid : Prop := octetNilRow.holds Try.pinned (OpenSpec.ofChange octetNilSpec)

/-- ITS FALSE NEIGHBOUR: 'it returns false'. Refute it at one input. -/
def octetNilWrong : ChangeSpec := { name := "octetNil", fn := fun _ => fun
  | [d1, d2] => { results := [.lit (.bool false)], args := [d1, d2] }
  | _ => none }
def OctetNilWrongFalsely : Prop := octetNilRow.holds Try.pinned (OpenSpec.ofChange octetNilWrong)

/- THE SECOND FORM. 'bulk': how many values and letters a reading holds, each counted each time it is reached (what is shared counts as often as it is met; a slice's spare places count too). A statement '..UptoSaid' is the law's where the arguments, and the package variables that the reading takes, are together of bulk at most 1048576: NARROWER than '..Said'. Prove '..Said' where nothing that the law and all that it calls make is longer than what came in: it says more and counts as full. Else prove '..UptoSaid'. A law counts once. -/
mutual
def uptoBulk {H : Type} : DataW H → Nat
  | .lit (.string bytes) => bytes.length + 1
  | .lit _ => 1
  | .nil => 1
  | .ptr d => uptoBulk d + 1
  | .slice elems spare => uptoBulkAll elems + uptoBulkAll spare + 1
  | .agg parts => uptoBulkAll parts + 1
  | .iface _ d => uptoBulk d + 1
  | .map entries => uptoBulkEntries entries + 1
  | .held _ => 1
def uptoBulkAll {H : Type} : List (DataW H) → Nat
  | [] => 0
  | d :: r => uptoBulk d + uptoBulkAll r
def uptoBulkEntries {H : Type} : List (Lit × DataW H) → Nat
  | [] => 0
  | x :: r => uptoBulkEntry x + uptoBulkEntries r
def uptoBulkEntry {H : Type} : Lit × DataW H → Nat
  | (.string bytes, d) => bytes.length + uptoBulk d + 1
  | (_, d) => uptoBulk d + 1
 end
def uptoSmall : (H : Type) → List (DataW H) → Bool := fun _ ds => decide (uptoBulkAll ds ≤ 1048576)
def OpenSpec.upto (s : _root_.Go.ChangeSpec) : _root_.Go.OpenSpec := { _root_.Go.OpenSpec.ofChange s with cond := some uptoSmall }

/-- 'diacriticlaw01.OctetNumbers', WHERE WHAT IT READS IS OF BULK AT MOST 1048576: true; the input reads as it did. -/
def octetNumbersUptoRow : OpenClaim := { program := "ytkhcmgnempjjcaa", sum := "73ce4df21525cfcfb9fc106abc697be5f5563af00e04138e3525cdfe899419c2", func := "diacritic/diacriticlaw01.OctetNumbers", spec := "octetNumbers", apart := false, narrowed := true }
def OctetNumbersUptoSaid : Prop := octetNumbersUptoRow.holds Try.pinned (OpenSpec.upto octetNumbersSpec)

/-- 'diacriticlaw01.OctetSafe', WHERE WHAT IT READS IS OF BULK AT MOST 1048576: true; the input reads as it did. -/
def octetSafeUptoRow : OpenClaim := { program := "ytkhcmgnempjjcaa", sum := "73ce4df21525cfcfb9fc106abc697be5f5563af00e04138e3525cdfe899419c2", func := "diacritic/diacriticlaw01.OctetSafe", spec := "octetSafe", apart := false, narrowed := true }
def OctetSafeUptoSaid : Prop := octetSafeUptoRow.holds Try.pinned (OpenSpec.upto octetSafeSpec)

/-- 'diacriticlaw01.OctetReads', WHERE WHAT IT READS IS OF BULK AT MOST 1048576: true; the input reads as it did. -/
def octetReadsUptoRow : OpenClaim := { program := "ytkhcmgnempjjcaa", sum := "73ce4df21525cfcfb9fc106abc697be5f5563af00e04138e3525cdfe899419c2", func := "diacritic/diacriticlaw01.OctetReads", spec := "octetReads", apart := false, narrowed := true }
def OctetReadsUptoSaid : Prop := octetReadsUptoRow.holds Try.pinned (OpenSpec.upto octetReadsSpec)

/-- 'diacriticlaw01.OctetJoins', WHERE WHAT IT READS IS OF BULK AT MOST 1048576: true; the input reads as it did. -/
def octetJoinsUptoRow : OpenClaim := { program := "ytkhcmgnempjjcaa", sum := "73ce4df21525cfcfb9fc106abc697be5f5563af00e04138e3525cdfe899419c2", func := "diacritic/diacriticlaw01.OctetJoins", spec := "octetJoins", inPlace := ["internal/abi.NoEscape", "internal/bytealg.MakeNoZero"], apart := false, narrowed := true }
def OctetJoinsUptoSaid : Prop := octetJoinsUptoRow.holds Try.pinned (OpenSpec.upto octetJoinsSpec)

/-- 'diacriticlaw01.OctetNil', WHERE WHAT IT READS IS OF BULK AT MOST 1048576: true; the input reads as it did. -/
def octetNilUptoRow : OpenClaim := { program := "ytkhcmgnempjjcaa", sum := "73ce4df21525cfcfb9fc106abc697be5f5563af00e04138e3525cdfe899419c2", func := "diacritic/diacriticlaw01.OctetNil", spec := "octetNil", apart := false, narrowed := true }
def OctetNilUptoSaid : Prop := octetNilUptoRow.holds Try.pinned (OpenSpec.upto octetNilSpec)

end Rows
end Go.Proofs.Ytkhcmgnempjjcaa
