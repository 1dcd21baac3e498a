/- A reader that is none reads no numbers; the document's example of layer 1 (awake): contracts. -/
import Derived.Test.YtmpddibdggdngaaDoorOctA
namespace Go.Proofs.YtmpddibdggdngaaDoor.oct
open Go.RowKit
set_option linter.unusedVariables false
theorem big_258 (w : World) : Calls Tryd.prog 38 #[.int .u64 258, .int .i64 2] w fun e' w' => e' = .returned (.string ⟨#[1, 2]⟩) ∧ Below w.heap.size w w' := big_any 258 2 2 w (by omega) (by omega) rfl (by omega)
end Go.Proofs.YtmpddibdggdngaaDoor.oct
