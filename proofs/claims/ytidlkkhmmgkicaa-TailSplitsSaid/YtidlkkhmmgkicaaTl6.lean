/- A byte that comes in, as a number. -/
import Derived.Test.YtidlkkhmmgkicaaTl5
import Derived.OpenShut
namespace Go.Proofs.Ytidlkkhmmgkicaa.tl
open Go.RowKit Go.Lib
theorem u8_of {a : Int} (h : (Lit.int .u8 a).wf = true) : ∃ n : Nat, n < 256 ∧ a = (n : Int) := by
  simp [Lit.wf, IntKind.min, IntKind.max, IntKind.signed, IntKind.bits] at h
  exact ⟨a.toNat, by omega, by omega⟩
end Go.Proofs.Ytidlkkhmmgkicaa.tl
