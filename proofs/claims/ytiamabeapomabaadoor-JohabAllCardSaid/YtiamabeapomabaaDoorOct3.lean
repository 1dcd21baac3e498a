/- A reader of layer 1: Take, Peek and Rest at a fault, and new readers: contracts. -/
import Derived.Test.YtiamabeapomabaaDoorOct2
namespace Go.Proofs.YtiamabeapomabaaDoor.oct
open Go.RowKit
set_option linter.unusedVariables false
end Go.Proofs.YtiamabeapomabaaDoor.oct
