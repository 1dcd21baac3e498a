/- A reader of layer 1: Take, Peek and Rest at a fault, and new readers: contracts. -/
import Derived.Test.YtgjndekgnkjknaaDoorOct2
namespace Go.Proofs.YtgjndekgnkjknaaDoor.oct
open Go.RowKit
set_option linter.unusedVariables false
end Go.Proofs.YtgjndekgnkjknaaDoor.oct
