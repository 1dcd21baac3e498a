/- The document's example of layer 2; the walk of PointSigns. -/
import Derived.Test.YtgjndekgnkjknaaDoorPt4
namespace Go.Proofs.YtgjndekgnkjknaaDoor.pt
open Go.RowKit Go.Lib
set_option linter.unusedVariables false
theorem scan_example : (scan ⟨#[97, 195, 97]⟩).2 = some 1 := by decide +kernel
theorem txt_example : txt [233] = ⟨#[195, 169]⟩ := by decide +kernel
end Go.Proofs.YtgjndekgnkjknaaDoor.pt
