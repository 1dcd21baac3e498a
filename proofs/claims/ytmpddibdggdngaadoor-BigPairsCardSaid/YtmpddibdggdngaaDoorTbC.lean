/- table of the laws of layer 4, from the answers of a table. -/
import Derived.Test.YtmpddibdggdngaaDoorTb9
import Derived.Test.YtmpddibdggdngaaDoorTbB
namespace Go.Proofs.YtmpddibdggdngaaDoor.tb
open Go.RowKit Go.Lib
set_option linter.unusedVariables false
variable {K : World → Prop} {TB : World → Nat → Value → List (Int × Int) → Prop}
end Go.Proofs.YtmpddibdggdngaaDoor.tb
