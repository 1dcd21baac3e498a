/- table of the laws of layer 4, from the answers of a table. -/
import Derived.Test.YtgjndekgnkjknaaGreatDoorTb9
import Derived.Test.YtgjndekgnkjknaaGreatDoorTbB
namespace Go.Proofs.YtgjndekgnkjknaaGreatDoor.tb
open Go.RowKit Go.Lib
set_option linter.unusedVariables false
variable {K : World → Prop} {TB : World → Nat → Value → List (Int × Int) → Prop}
end Go.Proofs.YtgjndekgnkjknaaGreatDoor.tb
