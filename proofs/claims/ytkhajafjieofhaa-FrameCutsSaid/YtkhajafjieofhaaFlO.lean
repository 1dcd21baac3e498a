/- Numbers that come in. -/
import Derived.Test.YtkhajafjieofhaaFlN
import Derived.Test.YtkhajafjieofhaaFnA
import Derived.OpenShut
namespace Go.Proofs.Ytkhajafjieofhaa.fl
open Go.RowKit Go.Lib
theorem u8_in {a : Int} (h : (Lit.int .u8 a).wf = true) : 0 ≤ a ∧ a ≤ 255 := by
  simp [Lit.wf, IntKind.min, IntKind.max, IntKind.signed, IntKind.bits] at h
  omega
theorem u16_in {a : Int} (h : (Lit.int .u16 a).wf = true) : 0 ≤ a ∧ a ≤ 65535 := by
  simp [Lit.wf, IntKind.min, IntKind.max, IntKind.signed, IntKind.bits] at h
  omega
end Go.Proofs.Ytkhajafjieofhaa.fl
