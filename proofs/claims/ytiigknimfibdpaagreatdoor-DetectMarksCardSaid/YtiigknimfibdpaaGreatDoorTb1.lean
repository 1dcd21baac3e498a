/- Rows of pairs of layer 4; the document's answer: Find, Reverse: contracts. -/
import Derived.Test.YtiigknimfibdpaaGreatDoorZ3
import Derived.Test.YtiigknimfibdpaaGreatDoorChecked
import Derived.WalkSmall
import Derived.BigQuiet
import Derived.Deep.QuietTactic
import Derived.Lib.Hide
namespace Go.Proofs.YtiigknimfibdpaaGreatDoor.tb
open Go.RowKit Go.Lib
set_option linter.unusedVariables false
/-- A slice of pairs, none or a row. -/
def RowP (w : World) (A : Option Addr) (n c : Nat) (l : List (Int × Int)) : Prop :=
  (A = none ∧ n = 0 ∧ c = 0 ∧ l = []) ∨ ∃ a, A = some a ∧ n ≤ c ∧ c ≤ maxLen ∧ l.length = n ∧ ∀ i, i < n → w.cell? (a.add (i * 2)) = some (.int .i64 (l.getD i (0, 0)).1) ∧ w.cell? ((a.add (i * 2)).add 1) = some (.int .i32 (l.getD i (0, 0)).2)
theorem ret_int {k : IntKind} {a b : Int} (h : a = b) : Ending.returned (.int k a) = .returned (.int k b) := by rw [h]
end Go.Proofs.YtiigknimfibdpaaGreatDoor.tb
