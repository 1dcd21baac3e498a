/- The document's own answers of layer 7: Sign, RowCode: contracts. -/
import Derived.Test.YtgjndekgnkjknaaGreatDoorWa3
namespace Go.Proofs.YtgjndekgnkjknaaGreatDoor.wa
open Go.RowKit Go.Lib
set_option linter.unusedVariables false
def SgPost (w : World) (l b : Nat) : Ending → World → Prop := fun e w' => e = .returned (.int .i32 ((sgW l b : Nat) : Int)) ∧ Below w.heap.size w w'
theorem sgPost {w w' : World} {l b : Nat} {v : Int} (h : ((sgW l b : Nat) : Int) = v) (hb : Below w.heap.size w w') : SgPost w l b (.returned (.int .i32 v)) w' := ⟨by rw [h], hb⟩
end Go.Proofs.YtgjndekgnkjknaaGreatDoor.wa
