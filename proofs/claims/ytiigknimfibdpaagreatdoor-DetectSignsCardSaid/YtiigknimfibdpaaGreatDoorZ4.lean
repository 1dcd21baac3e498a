/- Several texts in one. -/
import Derived.Test.YtiigknimfibdpaaGreatDoorChecked
import Derived.Test.YtiigknimfibdpaaGreatDoorZ0
import Derived.WalkSmall
import Derived.Lib.Hide
namespace Go.Proofs.YtiigknimfibdpaaGreatDoor.wa
open Go.RowKit Go.Lib
set_option linter.unusedVariables false
theorem wrap64 {x : Int} (h0 : -9223372036854775808 ≤ x) (h1 : x ≤ 9223372036854775807) : IntKind.i64.wrap x = x := by simp [IntKind.wrap, IntKind.bits, IntKind.signed]; omega
theorem wrap32 {x : Int} (h0 : -2147483648 ≤ x) (h1 : x ≤ 2147483647) : IntKind.i32.wrap x = x := by simp [IntKind.wrap, IntKind.bits, IntKind.signed]; omega
theorem rInt {k : IntKind} {a b : Int} (h : a = b) : Ending.returned (.int k a) = .returned (.int k b) := by rw [h]
theorem rBool {a b : Bool} (h : a = b) : Ending.returned (.bool a) = .returned (.bool b) := by rw [h]
/-- The members' bytes. -/
def memB : ByteArray := ⟨#[101, 102, 102, 48, 55, 57, 51, 48, 51, 98, 48, 49, 49, 51, 48, 50, 56, 48, 49, 49, 51, 48, 48, 48, 48, 49, 49, 49, 101, 55, 98, 48, 53, 57, 51, 48, 51, 98, 48, 49, 49, 49, 50, 51, 98, 48, 49, 57, 55, 48, 48, 97, 48, 49, 49, 49, 48, 54, 98, 57, 53, 57, 51, 48, 50, 98, 48, 53, 49, 51, 48, 51, 50, 48, 49, 49, 49, 48, 50, 98, 48, 49, 49, 51, 48, 48, 97, 48, 49, 49, 49, 48, 54, 98, 56, 55, 57, 51, 48, 51, 48, 48, 49, 49, 51, 48, 48, 56, 48, 48, 48, 49, 48, 48, 98, 48, 49, 49, 51, 48, 48, 48, 48, 49, 49, 49, 48, 50, 98, 48, 51, 57, 51, 48, 48, 48, 48, 48, 48, 49, 52, 54, 98, 48, 53, 57, 51, 50, 51, 98, 48, 53, 49, 55, 48, 51, 98, 48, 49, 49, 51, 48, 48, 48, 48, 49, 48, 51, 48, 48, 48, 48, 48, 48, 48, 48, 51, 98, 48, 49, 49, 55, 48, 50, 57, 48, 48, 49, 51, 50, 49, 56, 48, 49, 49, 49, 48, 48, 48, 48, 48, 48, 49, 48, 101, 98, 48, 49, 53, 51, 48, 51, 48, 48, 49, 48, 51, 48, 50, 48, 48, 48, 48, 51, 48, 50, 51, 48, 49, 49, 49, 48, 48, 48, 48, 48, 48, 49, 48, 54, 98, 56, 49, 49, 51, 48, 51, 48, 48, 49, 48, 49, 48, 49, 51, 48, 49, 49, 51, 48, 48, 51, 48, 49, 49, 49, 48, 48, 48, 48, 48, 48, 49, 50, 50, 98, 56, 53, 53, 51, 48, 48, 48, 48, 48, 48, 48, 48, 50, 98, 48, 49, 49, 51, 97, 102, 98, 48, 55, 57, 55, 48, 51, 98, 48, 49, 49, 51, 48, 50, 49, 48, 49, 49, 51, 48, 48, 48, 48, 48, 48, 48, 56, 51, 98, 48, 100, 49, 98, 48, 51, 98, 48, 49, 49, 51, 49, 51, 51, 48, 49, 49, 51, 48, 48, 48, 48, 48, 49, 49, 99, 50, 98, 48, 53, 49, 51, 48, 49, 48, 48, 49, 49, 49, 48, 48, 48, 48, 48, 48, 48, 48, 48, 98, 48, 49, 49, 49, 48, 50, 97, 48, 49, 49, 51, 48, 50, 98, 48, 49, 57, 51, 48, 49, 48, 48, 48, 48, 49, 48, 48, 48, 48, 48, 48, 49, 48, 48, 51, 48, 49, 49, 49, 48, 50, 51, 48, 49, 48, 51, 52, 54, 98, 48, 55, 49, 51, 48, 48, 48, 48, 49, 49, 49, 52, 50, 98, 48, 53, 49, 51, 56, 102, 98, 56, 102, 57, 55, 48, 51, 98, 48, 49, 49, 51, 48, 48, 48, 48, 48, 48, 49, 48, 48, 48, 48, 48, 48, 48, 52, 97, 98, 48, 100, 57, 55, 48, 51, 98, 48, 49, 49, 51, 48, 51, 48, 48, 49, 49, 49, 48, 48, 48, 48, 48, 49, 49, 50, 97, 98, 49, 53, 57, 51, 48, 48, 48, 48, 49, 49, 49, 48, 49, 48, 48, 48, 48, 49, 48, 48, 98, 48, 49, 49, 49, 48, 48, 48, 48, 48, 48, 49, 48, 50, 98, 48, 49, 49, 51, 48, 49, 48, 48, 48, 48, 49, 48, 50, 48, 48, 48, 48, 49, 48, 50, 97, 48, 49, 49, 49, 48, 50, 49, 48, 49, 49, 49, 48, 50, 98, 48, 53, 57, 51, 48, 48, 48, 48, 48, 48, 49, 48, 55, 98, 48, 49, 57, 51, 56, 51, 98, 48, 49, 49, 51, 48, 51, 98, 48, 49, 49, 51, 48, 48, 48, 48, 48, 48, 48, 48, 48, 48, 48, 48, 48, 48, 56, 51, 98, 48, 100, 49, 51, 48, 51, 98, 48, 49, 49, 51, 48, 49, 48, 48, 48, 48, 49, 48, 48, 48, 48, 48, 48, 48, 48, 50, 48, 48, 49, 49, 51, 48, 48, 48, 48, 49, 48, 49, 48, 48, 48, 48, 48, 48, 49, 48, 48, 48, 48, 48, 49, 49, 48, 48, 48, 48, 48, 48, 48, 48, 50, 49, 56, 49, 49, 51, 48, 48, 48, 48, 48, 48, 48, 48, 48, 48, 48, 48, 48, 49, 48, 50, 51, 48, 49, 49, 49, 48, 48, 48, 48, 48, 48, 48, 48, 48, 98, 48, 49, 57, 51, 48, 48, 51, 48, 49, 49, 49, 48, 50, 98, 48, 49, 49, 49, 99, 55, 98, 48, 49, 49, 51, 48, 51, 98, 48, 49, 49, 51, 48, 50, 56, 48, 48, 49, 51, 48, 48, 48, 48, 48, 48, 48, 56, 51, 98, 48, 49, 49, 51, 48, 50, 98, 48, 49, 49, 51, 48, 51, 98, 48, 49, 49, 51, 48, 48, 97, 48, 48, 49, 49, 48, 50, 98, 48, 49, 49, 51, 48, 50, 48, 48, 48, 49, 49, 48, 49, 48, 48, 48, 48, 48, 48, 50, 98, 48, 49, 49, 49, 48, 50, 97, 48, 49, 49, 49, 48, 50, 98, 48, 49, 49, 51, 48, 49, 48, 48, 48, 48, 49, 48, 48, 48, 48, 48, 48, 49, 48, 50, 57, 48, 49, 49, 51, 48, 50, 98, 48, 49, 49, 51, 54, 54, 98, 48, 49, 49, 51, 48, 48, 48, 48, 48, 48, 48, 48, 50, 98, 48, 49, 49, 51, 97, 54, 98, 48, 55, 100, 51, 48, 55, 98, 48, 49, 49, 51, 48, 50, 48, 48, 49, 48, 51, 48, 48, 48, 48, 48, 48, 48, 56, 54, 98, 48, 53, 49, 51, 48, 51, 98, 48, 49, 49, 51, 48, 98, 56, 48, 49, 49, 51, 48, 48, 48, 48, 48, 48, 49, 48, 50, 98, 48, 53, 49, 98, 48, 51, 48, 48, 48, 49, 49, 48, 48, 48, 48, 48, 48, 48, 48, 50, 97, 48, 49, 49, 49, 48, 48, 97, 48, 49, 49, 49, 97, 50, 98, 48, 55, 57, 55, 48, 48, 97, 48, 49, 49, 49, 48, 48, 48, 48, 48, 48, 49, 48, 48, 48, 48, 49, 49, 49, 48, 48, 57, 48, 49, 49, 49, 48, 48, 57, 48, 49, 49, 49, 48, 48, 48, 48, 48, 48, 48, 50, 98, 98, 48, 53, 57, 51, 50, 50, 98, 48, 102, 57, 102, 50, 51, 98, 48, 49, 49, 51, 48, 48, 50, 48, 48, 49, 51, 48, 48, 48, 48, 48, 48, 48, 48, 54, 98, 48, 53, 57, 51, 48, 51, 98, 48, 49, 57, 51, 50, 51, 97, 48, 49, 49, 51, 48, 48, 48, 48, 48, 49, 49, 48, 50, 98, 48, 49, 49, 55, 48, 49, 48, 48, 48, 49, 49, 48, 49, 48, 48, 48, 48, 49, 48, 48, 51, 48, 49, 49, 51, 48, 48, 48, 48, 48, 49, 49, 54, 50, 98, 48, 55, 57, 51, 48, 49, 48, 48, 49, 48, 49, 48, 48, 48, 48, 48, 48, 49, 48, 50, 48, 48, 49, 49, 51, 48, 50, 57, 48, 49, 49, 49, 48, 48, 98, 48, 49, 49, 51, 48, 48, 48, 48, 48, 48, 48, 48, 101, 98, 48, 53, 49, 51, 56, 51, 98, 48, 53, 49, 51, 48, 51, 98, 48, 49, 49, 51, 48, 48, 49, 48, 48, 48, 51, 48, 48, 48, 48, 48, 48, 48, 48, 51, 57, 48, 49, 57, 51, 48, 50, 48, 48, 48, 48, 49, 48, 51, 98, 48, 48, 48, 51, 48, 48, 48, 48, 48, 48, 48, 48, 50, 51, 48, 49, 49, 51, 48, 48, 48, 48, 48, 48, 48, 48, 48, 48, 48, 48, 48, 48, 48, 48, 48, 48, 48, 48, 49, 48, 50, 48, 48, 48, 48, 49, 48, 50, 57, 48, 49, 49, 51, 48, 48, 48, 48, 48, 48, 48, 48, 48, 48, 48, 48, 48, 48, 48, 48, 48, 48, 48, 48, 48, 48, 50, 48, 48, 48, 48, 49, 48, 48, 51, 48, 49, 49, 49, 48, 48, 48, 48, 48, 48, 48, 48, 50, 98, 48, 49, 49, 51, 50, 51, 98, 48, 55, 57, 98, 48, 51, 98, 48, 49, 49, 51, 48, 50, 98, 48, 49, 49, 51, 48, 50, 49, 48, 49, 49, 49, 52, 51, 98, 48, 100, 57, 102, 48, 51, 98, 48, 49, 49, 51, 48, 51, 98, 48, 49, 49, 51, 48, 50, 48, 48, 49, 49, 49, 50, 50, 98, 48, 53, 49, 55, 48, 50, 48, 48, 49, 49, 51, 48, 49, 57, 48, 49, 49, 49, 48, 48, 98, 48, 49, 49, 49, 48, 50, 98, 48, 49, 49, 51, 54, 97, 98, 48, 49, 57, 51, 48, 49, 48, 48, 48, 48, 49, 48, 50, 49, 48, 49, 49, 51, 48, 50, 98, 48, 49, 49, 51, 48, 50, 57, 48, 49, 48, 51, 48, 50, 98, 48, 51, 49, 51, 48, 48, 48, 48, 48, 48, 48, 52, 50, 98, 56, 49, 57, 51, 56, 51, 51, 48, 49, 49, 98, 48, 51, 51, 48, 49, 49, 51, 48, 50, 48, 48, 48, 48, 48, 48, 48, 48, 48, 48, 48, 48, 48, 51, 51, 48, 53, 49, 51, 48, 48, 48, 48, 49, 49, 49, 48, 48, 48, 48, 48, 48, 48, 48, 48, 48, 48, 48, 49, 48, 48, 50, 51, 48, 53, 57, 51, 48, 49, 48, 48, 48, 49, 51, 48, 49, 48, 48, 48, 48, 49, 48, 48, 51, 48, 49, 49, 49, 48, 48, 48, 48, 48, 48, 49, 48, 50, 51, 48, 49, 49, 51, 48, 49, 48, 48, 48, 48, 49, 48, 48, 48, 48, 48, 48, 49, 48, 48, 48, 48, 48, 49, 49, 48, 50, 48, 48, 48, 48, 48, 48, 48, 51, 56, 53, 49, 51, 48, 48, 49, 48, 49, 49, 49, 48, 50, 98, 48, 49, 49, 51, 54, 51, 98, 56, 55, 55, 51, 48, 51, 98, 48, 49, 49, 51, 97, 50, 98, 48, 57, 49, 51, 48, 48, 50, 48, 49, 49, 49, 53, 55, 102, 48, 55, 98, 51, 48, 50, 98, 48, 49, 49, 51, 101, 51, 102, 48, 100, 49, 55, 48, 49, 98, 48, 49, 49, 49, 48, 97, 98, 57, 55, 49, 51, 48, 51, 98, 48, 49, 49, 51, 48, 50, 57, 48, 48, 49, 51, 48, 50, 98, 48, 49, 49, 51, 48, 50, 98, 48, 49, 49, 51, 48, 50, 98, 48, 55, 49, 51, 48, 51, 51, 48, 49, 49, 51, 48, 50, 51, 48, 49, 49, 51, 48, 50, 98, 48, 49, 49, 51, 48, 97, 98, 48, 49, 49, 51, 102, 101, 98, 52, 49, 49, 51, 48, 48, 57, 48, 49, 49, 49, 52, 55, 98, 56, 55, 49, 51, 48, 55, 98, 48, 53, 100, 51, 48, 51, 98, 48, 49, 49, 51, 48, 50, 49, 48, 49, 53, 51, 48, 48, 48, 48, 49, 49, 49, 48, 54, 98, 48, 53, 49, 51, 48, 50, 98, 48, 49, 49, 51, 48, 51, 51, 48, 49, 49, 49, 48, 48, 48, 48, 48, 48, 49, 56, 101, 98, 48, 53, 49, 51, 48, 50, 97, 48, 49, 48, 51, 48, 51, 48, 48, 48, 48, 49, 48, 50, 98, 48, 49, 49, 49, 48, 50, 48, 48, 48, 49, 51, 48, 50, 98, 48, 55, 49, 51, 48, 49, 48, 48, 48, 48, 49, 48, 48, 48, 48, 48, 48, 49, 48, 48, 98, 48, 49, 49, 51, 48, 48, 49, 48, 49, 49, 49, 48, 50, 98, 48, 49, 49, 51, 48, 48, 48, 48, 48, 48, 48, 54, 54, 98, 48, 53, 57, 51, 48, 51, 98, 48, 57, 53, 51, 48, 51, 98, 48, 49, 49, 51, 48, 50, 48, 48, 48, 49, 49, 48, 48, 48, 48, 48, 48, 48, 48, 51, 98, 48, 49, 49, 51, 48, 50, 48, 48, 48, 48, 49, 48, 49, 48, 48, 48, 48, 49, 48, 48, 48, 48, 48, 48, 48, 48, 97, 98, 48, 49, 49, 51, 48, 49, 48, 48, 49, 48, 51, 48, 49, 48, 48, 48, 48, 49, 48, 48, 51, 48, 49, 49, 49, 48, 50, 48, 48, 48, 48, 48, 48, 50, 51, 48, 49, 49, 51, 48, 51, 48, 48, 48, 48, 49, 48, 48, 48, 48, 48, 48, 48, 48, 48, 48, 48, 48, 48, 49, 48, 48, 48, 48, 48, 48, 49, 48, 50, 57, 48, 48, 48, 49, 48, 48, 48, 48, 48, 48, 48, 56, 54, 51, 48, 49, 49, 51, 48, 55, 98, 48, 49, 53, 51, 48, 51, 98, 48, 49, 49, 51, 48, 50, 49, 48, 49, 53, 49, 48, 48, 48, 48, 48, 48, 48, 48, 51, 98, 48, 49, 49, 51, 48, 50, 98, 48, 49, 49, 51, 48, 49, 48, 48, 48, 49, 49, 48, 50, 48, 48, 48, 49, 49, 48, 50, 98, 48, 49, 49, 51, 48, 50, 48, 48, 49, 49, 49, 48, 48, 48, 48, 48, 48, 48, 48, 50, 98, 48, 49, 49, 49, 48, 48, 49, 48, 48, 48, 49, 48, 50, 98, 48, 49, 49, 51, 48, 49, 48, 48, 48, 48, 49, 48, 48, 48, 48, 48, 49, 49, 48, 50, 98, 48, 49, 49, 49, 48, 50, 49, 48, 49, 49, 49, 48, 50, 98, 48, 49, 49, 51, 48, 48, 48, 48, 48, 48, 48, 48, 50, 98, 48, 51, 57, 51, 48, 50, 98, 48, 49, 49, 51, 48, 51, 98, 48, 49, 49, 51, 48, 50, 48, 48, 48, 48, 51, 48, 48, 48, 48, 48, 48, 48, 48, 51, 98, 48, 49, 57, 51, 48, 50, 98, 48, 49, 49, 51, 48, 51, 98, 48, 49, 49, 49, 48, 48, 48, 48, 48, 48, 49, 48, 50, 98, 48, 49, 49, 51, 48, 50, 49, 48, 49, 49, 51, 48, 50, 48, 48, 48, 48, 49, 48, 48, 48, 48, 49, 48, 49, 48, 48, 48, 48, 48, 48, 49, 48, 50, 98, 48, 49, 49, 51, 48, 50, 48, 48, 49, 49, 49, 48, 50, 48, 48, 48, 48, 49, 48, 50, 98, 48, 49, 49, 51, 48, 48, 49, 48, 49, 49, 49, 48, 50, 51, 48, 49, 49, 51, 48, 48, 48, 48, 48, 48, 48, 48, 50, 98, 48, 49, 49, 51, 48, 51, 98, 48, 51, 49, 51, 48, 51, 98, 48, 49, 49, 51, 48, 50, 48, 48, 48, 48, 49, 48, 48, 48, 48, 48, 48, 48, 48, 51, 98, 48, 53, 49, 51, 48, 50, 98, 48, 49, 49, 51, 48, 49, 48, 48, 48, 49, 49, 48, 48, 48, 48, 48, 49, 49, 52, 50, 98, 48, 49, 49, 51, 48, 48, 48, 48, 48, 49, 49, 48, 48, 48, 48, 48, 48, 49, 48, 50, 56, 48, 48, 49, 49, 48, 48, 48, 48, 48, 48, 49, 48, 50, 98, 48, 49, 49, 51, 48, 49, 48, 48, 48, 48, 49, 48, 48, 48, 48, 48, 48, 49, 48, 50, 51, 48, 49, 49, 51, 48, 50, 49, 48, 49, 49, 49, 48, 48, 98, 48, 53, 57, 51, 48, 48, 51, 48, 49, 49, 49, 48, 50, 98, 48, 49, 49, 51, 50, 51, 98, 48, 53, 49, 55, 48, 51, 98, 48, 49, 49, 51, 48, 48, 48, 48, 48, 48, 51, 48, 48, 48, 48, 48, 48, 48, 48, 51, 98, 48, 49, 49, 51, 48, 50, 98, 48, 49, 49, 51, 48, 51, 51, 48, 49, 49, 49, 48, 48, 97, 48, 49, 48, 49, 48, 50, 98, 48, 49, 49, 51, 48, 50, 48, 48, 48, 48, 49, 48, 48, 48, 48, 48, 48, 48, 48, 48, 48, 48, 48, 49, 49, 48, 48, 97, 48, 49, 49, 49, 48, 50, 98, 48, 53, 57, 51, 48, 50, 48, 48, 48, 48, 49, 48, 48, 48, 48, 48, 48, 48, 48, 48, 57, 48, 49, 49, 49, 48, 50, 57, 48, 49, 49, 49, 48, 48, 98, 48, 49, 49, 49, 48, 48, 48, 48, 48, 48, 48, 48, 50, 98, 48, 49, 49, 51, 48, 50, 98, 50, 49, 49, 51, 48, 51, 98, 48, 49, 49, 51, 48, 50, 48, 48, 48, 48, 49, 48, 48, 48, 48, 48, 48, 48, 48, 50, 98, 48, 53, 49, 51, 48, 50, 98, 48, 49, 49, 51, 48, 51, 98, 48, 49, 49, 51, 48, 48, 50, 48, 49, 49, 49, 50, 50, 98, 50, 49, 49, 51, 48, 50, 56, 48, 49, 49, 51, 48, 50, 56, 48, 48, 49, 51, 48, 50, 97, 48, 49, 49, 51, 48, 48, 97, 48, 49, 49, 49, 48, 50, 57, 50, 49, 49, 51, 48, 50, 49, 48, 49, 49, 49, 48, 50, 48, 48, 49, 49, 51, 48, 50, 98, 48, 49, 49, 51, 48, 50, 57, 48, 49, 49, 51, 50, 50, 98, 48, 51, 100, 51, 48, 50, 51, 48, 49, 49, 49, 48, 50, 98, 48, 49, 49, 51]⟩
/-- A digit of base sixteen. -/
def dg (c : Nat) : Nat := if 97 ≤ c then c - 97 + 10 else c - 48
theorem digit_any (c : Nat) (w : World) (h0 : 48 ≤ c) (h1 : c < 256) : Calls Tryz.prog 81 #[.int .u8 c] w fun e w' => e = .returned (.int .i64 ((dg c : Nat) : Int)) ∧ w = w' := by
  unfold dg
  have g0 : (48 : Int) ≤ (c : Int) := by omega
  have g1 : (c : Int) < 256 := by omega
  by_cases h : 97 ≤ c
  · rw [if_pos h]
    have g2 : (97 : Int) ≤ (c : Int) := by omega
    have e : Hid (((c - 97 + 10 : Nat) : Int) = (c : Int) - 97 + 10) := Lib.hid (by omega)
    go_enter Tryz.func81, Tryz.ntmps81
    go_wp2
    go_ret
    exact ⟨rInt (by rw [e.out]), rfl⟩
  · rw [if_neg h]
    have g2 : ¬ (97 : Int) ≤ (c : Int) := by omega
    have e : Hid (((c - 48 : Nat) : Int) = (c : Int) - 48) := Lib.hid (by omega)
    go_enter Tryz.func81, Tryz.ntmps81
    go_wp2
    go_ret
    exact ⟨rInt (by rw [e.out]), rfl⟩
/-- Digits, the highest first, as a number; one of them. -/
def num16 (l : List Nat) : Nat := l.foldl (fun a d => a * 16 + d) 0
theorem fold16 : ∀ (l : List Nat) (a : Nat), l.foldl (fun a d => a * 16 + d) a = a * 16 ^ l.length + num16 l
  | [], a => by simp [num16]
  | d :: l, a => by
    have e : num16 (d :: l) = l.foldl (fun a d => a * 16 + d) (0 * 16 + d) := rfl
    rw [List.foldl_cons, fold16 l (a * 16 + d), e, fold16 l (0 * 16 + d), List.length_cons, Nat.pow_succ, Nat.add_mul, Nat.zero_mul, Nat.zero_add, Nat.mul_assoc, Nat.mul_comm 16]
    omega
theorem num16_lt : ∀ (l : List Nat), (∀ d ∈ l, d < 16) → num16 l < 16 ^ l.length
  | [], _ => by simp [num16]
  | d :: l, h => by
    have e : num16 (d :: l) = l.foldl (fun a d => a * 16 + d) (0 * 16 + d) := rfl
    have h1 := num16_lt l (fun x hx => h x (List.mem_cons_of_mem _ hx))
    have h2 := h d List.mem_cons_self
    rw [e, fold16 l, List.length_cons, Nat.pow_succ, Nat.zero_mul, Nat.zero_add]
    have h3 : d * 16 ^ l.length ≤ 15 * 16 ^ l.length := Nat.mul_le_mul_right _ (by omega)
    omega
theorem digit_of : ∀ (l : List Nat), (∀ d ∈ l, d < 16) → ∀ i, i < l.length → num16 l / 16 ^ (l.length - 1 - i) % 16 = l.getD i 0
  | [], _, i, h => by simp at h
  | d :: l, h, i, hi => by
    have e : num16 (d :: l) = l.foldl (fun a d => a * 16 + d) (0 * 16 + d) := rfl
    have h1 := num16_lt l (fun x hx => h x (List.mem_cons_of_mem _ hx))
    have h2 := h d List.mem_cons_self
    rw [e, fold16 l, Nat.zero_mul, Nat.zero_add, List.length_cons, Nat.add_sub_cancel]
    cases i with
    | zero =>
      rw [Nat.sub_zero, Nat.mul_comm, Nat.mul_add_div (Nat.pow_pos (by omega)), Nat.div_eq_of_lt h1, Nat.add_zero]
      simp; omega
    | succ i =>
      have hi' : i < l.length := by simpa using hi
      have ih := digit_of l (fun x hx => h x (List.mem_cons_of_mem _ hx)) i hi'
      rw [show l.length - (i + 1) = l.length - 1 - i by omega]
      have e2 : 16 ^ l.length = 16 ^ (l.length - 1 - i) * (16 * 16 ^ i) := by
        rw [← Nat.pow_succ', ← Nat.pow_add]; congr 1; omega
      rw [e2, show d * (16 ^ (l.length - 1 - i) * (16 * 16 ^ i)) = 16 ^ (l.length - 1 - i) * (16 * (d * 16 ^ i)) by
        rw [Nat.mul_left_comm d, Nat.mul_left_comm d], Nat.mul_add_div (Nat.pow_pos (by omega)), Nat.add_mod, Nat.mul_mod_right, Nat.zero_add, Nat.mod_mod, ih]
      simp
def memD : List Nat := memB.data.toList.map fun c => dg c.toNat
theorem memB_size : memB.size = 2793 := by decide +kernel
theorem memB_all : memB.data.toList.all (fun c => decide (48 ≤ c.toNat ∧ dg c.toNat < 16)) = true := by decide +kernel
theorem mem_num : num16 memD = mem := by decide +kernel
theorem mem_at (i : Nat) (h : i < memB.size) : 48 ≤ (memB[i]).toNat ∧ dg (memB[i]).toNat = mem / 16 ^ (2792 - i) % 16 := by
  have hs := memB_size
  have hl : memB.data.toList.length = 2793 := by rw [Array.length_toList]; exact hs
  have hg : memB.data.toList[i]? = some (memB[i]) := by rw [Array.getElem?_toList]; exact Array.getElem?_eq_getElem h
  have ha := List.all_eq_true.1 memB_all _ (List.mem_of_getElem? hg)
  rw [decide_eq_true_eq] at ha
  refine ⟨ha.1, ?_⟩
  have hd : ∀ d ∈ memD, d < 16 := fun d hd => by
    obtain ⟨c, hc, rfl⟩ := List.mem_map.1 hd
    have := List.all_eq_true.1 memB_all c hc
    rw [decide_eq_true_eq] at this
    exact this.2
  have hl2 : memD.length = 2793 := by unfold memD; rw [List.length_map, hl]
  have h1 := digit_of memD hd i (by omega)
  rw [mem_num, hl2] at h1
  rw [show 2792 - i = 2793 - 1 - i by omega, h1]
  unfold memD
  simp [List.getD, List.getElem?_map, hg]
/-- A bit of a number, by its digit. -/
theorem bit_of (m e b : Nat) (h : b < 4) : m / 16 ^ e % 16 / 2 ^ b % 2 = m / 2 ^ (4 * e + b) % 2 := by
  have e1 : 16 ^ e = 2 ^ (4 * e) := by rw [Nat.pow_mul]
  rw [e1, Nat.pow_add, ← Nat.div_div_eq_div_mul]
  generalize m / 2 ^ (4 * e) = x
  have hb : b = 0 ∨ b = 1 ∨ b = 2 ∨ b = 3 := by omega
  rcases hb with rfl | rfl | rfl | rfl <;> omega
theorem digit_mem (i : Nat) (h : i < memB.size) (w : World) : Calls Tryz.prog 81 #[.int .u8 ((memB[i]).toNat : Int)] w fun e w' => e = .returned (.int .i64 ((mem / 16 ^ (2792 - i) % 16 : Nat) : Int)) ∧ w = w' := by
  have h1 := mem_at i h
  have h2 := digit_any (memB[i]).toNat w h1.1 (memB[i]).toNat_lt
  rw [h1.2] at h2
  exact h2
theorem index_at (t : TypeId) (s : ByteArray) (i : Nat) (hi : i < s.size) (w : World) (h : Tryz.prog.underlying t = some .string) : (Instr.index t (.string s) (.int .i64 (i : Int))).run Tryz.prog w = .ok (.int .u8 ((s[i]).toNat : Int)) w := by
  rw [run_index_string w t s .i64 i h]
  simp [hi]
theorem half_half (x b : Nat) : x / 2 ^ b / 2 = x / 2 ^ (b + 1) := by rw [Nat.pow_succ, Nat.div_div_eq_div_mul]
set_option maxRecDepth 100000 in
set_option maxHeartbeats 2000000 in
theorem in_any (n : Nat) (w : World) (hn : n < 11172) : Calls Tryz.prog 48 #[.int .i64 n] w fun e w' => e = .returned (.bool (inB n)) ∧ w = w' := by
  have h0 : (0 : Int) ≤ (n : Int) := by omega
  have h1 : (n : Int) < 11172 := by omega
  obtain ⟨i, hi⟩ : ∃ i : Nat, i = n / 28 * 7 + 6 - n % 28 / 4 := ⟨_, rfl⟩
  have him : i < memB.size := by rw [memB_size]; omega
  obtain ⟨r, hr⟩ : ∃ r : Nat, r = n % 28 % 4 := ⟨_, rfl⟩
  have hV : Hid (∀ d : Nat, d = mem / 16 ^ (2792 - i) % 16 / 2 ^ r → ((d : Int) % 2 == 1) = inB n) := Lib.hid (fun d hd => by
    unfold inB
    have e := bit_of mem (2792 - i) r (by omega)
    rw [show 4 * (2792 - i) + r = 28 * (398 - n / 28) + n % 28 by omega] at e
    rw [← e, ← hd]
    rcases Nat.mod_two_eq_zero_or_one d with h | h
    · rw [h, show ((d : Int) % 2) = 0 by omega]; rfl
    · rw [h, show ((d : Int) % 2) = 1 by omega]; rfl)
  have HD := Lib.hid (fun w2 => digit_mem i him w2)
  have hix := fun wx => index_at 9 memB i him wx Tryz.underlying9
  generalize ((memB[i]).toNat : Int) = C at *
  unfold memB at hix
  obtain ⟨D, hD⟩ : ∃ D : Nat, D = mem / 16 ^ (2792 - i) % 16 := ⟨_, rfl⟩
  rw [← hD] at HD hV
  have hD16 : D < 16 := by rw [hD]; exact Nat.mod_lt _ (by omega)
  have ei : (n : Int) / 28 * 7 + 6 - (n : Int) % 28 / 4 = (i : Int) := by omega
  have er : (n : Int) % 28 % 4 = (r : Int) := by omega
  have r0 : (r : Int) < 4 := by omega
  generalize inB n = V at *
  clear hi hr hD him
  go_enter Tryz.func48, Tryz.ntmps48
  go_wp2_with (go_at_call 81; refine (HD.out _).mono ?_; rintro e2 w2 ⟨rfl, rfl⟩)
  go_loopw [4, 5] (fun d t wr => ∃ j x : Nat, j ≤ r ∧ Hid (x = D / 2 ^ j) ∧ t = .int .i64 j ∧ d = .int .i64 x ∧ w = wr) (fun _ t _ => r - (RowKit.intOf t).toNat)
  case atStart => exact ⟨0, D, Nat.zero_le _, Lib.hid (by simp), rfl, rfl, rfl⟩
  case round =>
    obtain ⟨j, x, hj, hx, rfl, rfl, rfl⟩ := hrel
    have hx16 : x < 16 := by rw [hx.out]; exact Nat.lt_of_le_of_lt (Nat.div_le_self _ _) hD16
    by_cases hlt : j < r
    · have g1 : (j : Int) < (r : Int) := by omega
      obtain ⟨y, hy⟩ : ∃ y : Nat, y = x / 2 := ⟨_, rfl⟩
      have e2 : (x : Int) / 2 = (y : Int) := by omega
      have hyx : Hid (y = D / 2 ^ (j + 1)) := Lib.hid (by rw [hy, hx.out, half_half])
      have y0 : (y : Int) < 16 := by omega
      clear hy
      go_wp2_with fail
      go_roundw
      case rel => exact ⟨j + 1, y, by omega, hyx, by go_num, rfl, by first | rfl | trivial⟩
      case measure => simp [RowKit.intOf]; omega
    · obtain rfl : j = r := by omega
      have hv := Lib.hid (hV.out x hx.out)
      go_wp2_with fail
      go_ret
      exact ⟨rBool hv.out, rfl⟩
end Go.Proofs.YtiigknimfibdpaaGreatDoor.wa
namespace Go.Proofs.YtiigknimfibdpaaGreatDoor.wa
open Go.RowKit Go.Lib
set_option linter.unusedVariables false
theorem wrapU8 {x : Int} (h0 : 0 ≤ x) (h1 : x < 256) : IntKind.u8.wrap x = x := by simp [IntKind.wrap, IntKind.bits, IntKind.signed]; omega
theorem below_yes (n c : Int) (w : World) (h0 : 0 ≤ n) (h1 : n < c) : Calls Tryz.prog 177 #[.int .i64 n, .int .i64 c] w fun e w' => e = .returned (.bool true) ∧ w = w' := by
  go_enter Tryz.func177, Tryz.ntmps177
  go_wp2
  go_ret
  exact ⟨rfl, rfl⟩
theorem below_no (n c : Int) (w : World) (h : n < 0 ∨ c ≤ n) : Calls Tryz.prog 177 #[.int .i64 n, .int .i64 c] w fun e w' => e = .returned (.bool false) ∧ w = w' := by
  by_cases h0 : 0 ≤ n
  · have h1 : ¬ n < c := by omega
    go_enter Tryz.func177, Tryz.ntmps177
    go_wp2
    go_ret
    exact ⟨rfl, rfl⟩
  · go_enter Tryz.func177, Tryz.ntmps177
    go_wp2
    go_ret
    exact ⟨rfl, rfl⟩
theorem ahead_any (p i : Int) (w : World) (h0 : 44032 ≤ p) (h1 : p ≤ 55203) (h2 : 0 ≤ i) (h3 : i ≤ 2350) : Calls Tryz.prog 164 #[.int .i32 p, .int .i64 i] w fun e w' => e = .returned (.int .i64 (p - 44032 - i)) ∧ w = w' := by
  have e1 : IntKind.i32.wrap (p - 44032) = p - 44032 := wrap32 (by omega) (by omega)
  have e2 : IntKind.i64.wrap (p - 44032) = p - 44032 := wrap64 (by omega) (by omega)
  have e3 : IntKind.i64.wrap (p - 44032 - i) = p - 44032 - i := wrap64 (by omega) (by omega)
  go_enter Tryz.func164, Tryz.ntmps164
  go_wp2
  go_ret
  exact ⟨rfl, rfl⟩
/-- What secondNumber answers. -/
def snV (b : Nat) : Value := match sec b with
  | some t => .tuple #[.int .i64 (t : Int), .bool true]
  | none => .tuple #[.int .i64 0, .bool false]
set_option maxRecDepth 100000 in
theorem secnum_any (b : Nat) (w : World) (hb : b < 256) : Calls Tryz.prog 175 #[.int .u8 b] w fun e w' => e = .returned (snV b) ∧ w = w' := by
  have g0 : (0 : Int) ≤ (b : Int) := by omega
  have g1 : (b : Int) < 256 := by omega
  unfold snV sec
  by_cases h1 : 65 ≤ b ∧ b ≤ 90
  · have k0 : (65 : Int) ≤ (b : Int) := by omega
    have k1 : (b : Int) ≤ 90 := by omega
    have e1 : IntKind.u8.wrap ((b : Int) - 65) = (b : Int) - 65 := wrapU8 (by omega) (by omega)
    have e2 : IntKind.i64.wrap ((b : Int) - 65) = (b : Int) - 65 := wrap64 (by omega) (by omega)
    have e3 : Hid (((b - 65 : Nat) : Int) = (b : Int) - 65) := Lib.hid (by omega)
    rw [if_pos h1]
    clear h1
    go_enter Tryz.func175, Tryz.ntmps175
    go_wp2
    go_ret2
    exact ⟨by rw [e3.out]; rfl, rfl⟩
  · rw [if_neg h1]
    by_cases h2 : 97 ≤ b ∧ b ≤ 122
    · have k0 : (97 : Int) ≤ (b : Int) := by omega
      have k1 : (b : Int) ≤ 122 := by omega
      have e1 : IntKind.u8.wrap ((b : Int) - 97) = (b : Int) - 97 := wrapU8 (by omega) (by omega)
      have e2 : IntKind.i64.wrap ((b : Int) - 97) = (b : Int) - 97 := wrap64 (by omega) (by omega)
      have e4 : IntKind.i64.wrap (26 + ((b : Int) - 97)) = 26 + ((b : Int) - 97) := wrap64 (by omega) (by omega)
      have e3 : Hid (((b - 97 + 26 : Nat) : Int) = 26 + ((b : Int) - 97)) := Lib.hid (by omega)
      rw [if_pos h2]
      clear h1 h2
      go_enter Tryz.func175, Tryz.ntmps175
      go_wp2
      go_ret2
      exact ⟨by rw [e3.out]; rfl, rfl⟩
    · rw [if_neg h2]
      by_cases h3 : 129 ≤ b ∧ b ≤ 254
      · have k0 : (129 : Int) ≤ (b : Int) := by omega
        have k1 : (b : Int) ≤ 254 := by omega
        have e1 : IntKind.u8.wrap ((b : Int) - 129) = (b : Int) - 129 := wrapU8 (by omega) (by omega)
        have e2 : IntKind.i64.wrap ((b : Int) - 129) = (b : Int) - 129 := wrap64 (by omega) (by omega)
        have e4 : IntKind.i64.wrap (52 + ((b : Int) - 129)) = 52 + ((b : Int) - 129) := wrap64 (by omega) (by omega)
        have e3 : Hid (((b - 129 + 52 : Nat) : Int) = 52 + ((b : Int) - 129)) := Lib.hid (by omega)
        rw [if_pos h3]
        clear h1 h2 h3
        go_enter Tryz.func175, Tryz.ntmps175
        go_wp2
        go_ret2
        exact ⟨by rw [e3.out]; rfl, rfl⟩
      · rw [if_neg h3]
        have hc : (b : Int) < 65 ∨ ((90 : Int) < b ∧ (b : Int) < 97) ∨ ((122 : Int) < b ∧ (b : Int) < 129) ∨ (254 : Int) < b := by omega
        clear h1 h2 h3
        rcases hc with h | ⟨h, h'⟩ | ⟨h, h'⟩ | h
        all_goals
          go_enter Tryz.func175, Tryz.ntmps175
          go_wp2
          go_ret2
          exact ⟨rfl, rfl⟩
theorem secB_I (t : Nat) (w : World) (h : t < 178) : Calls Tryz.prog 210 #[.int .i64 t] w fun e w' => e = .returned (.int .i64 ((secB t : Nat) : Int)) ∧ w = w' := by
  have g0 : (0 : Int) ≤ (t : Int) := by omega
  by_cases h1 : t < 26
  · have k : (t : Int) < 26 := by omega
    have e3 : Hid (((secB t : Nat) : Int) = 65 + (t : Int)) := Lib.hid (by unfold secB; rw [if_pos h1]; omega)
    go_enter Tryz.func210, Tryz.ntmps210
    go_wp2
    go_ret
    exact ⟨rInt e3.out.symm, rfl⟩
  · have k : ¬ (t : Int) < 26 := by omega
    by_cases h2 : t < 52
    · have k2 : (t : Int) < 52 := by omega
      have e3 : Hid (((secB t : Nat) : Int) = 97 + (t : Int) - 26)   := Lib.hid (by unfold secB; rw [if_neg h1, if_pos h2]; omega)
      go_enter Tryz.func210, Tryz.ntmps210
      go_wp2
      go_ret
      exact ⟨rInt e3.out.symm, rfl⟩
    · have k2 : ¬ (t : Int) < 52 := by omega
      have k3 : (t : Int) < 178 := by omega
      have e3 : Hid (((secB t : Nat) : Int) = 129 + (t : Int) - 52)   := Lib.hid (by unfold secB; rw [if_neg h1, if_neg h2]; omega)
      go_enter Tryz.func210, Tryz.ntmps210
      go_wp2
      go_ret
      exact ⟨rInt e3.out.symm, rfl⟩
end Go.Proofs.YtiigknimfibdpaaGreatDoor.wa
namespace Go.Proofs.YtiigknimfibdpaaGreatDoor.wa
open Go.RowKit Go.Lib
set_option linter.unusedVariables false
theorem kF_zero (b : Bool) (n k : Nat) : kF b 0 n k = 0 := rfl
theorem kF_hit0 {b : Bool} {f n : Nat} (h : inB n = b) : kF b (f + 1) n 0 = 44032 + n := by conv => lhs; unfold kF; rw [if_pos h, if_pos rfl]
theorem kF_hit1 {b : Bool} {f n k : Nat} (h : inB n = b) : kF b (f + 1) n (k + 1) = kF b f (n + 1) k := by conv => lhs; unfold kF; rw [if_pos h, if_neg (by omega), Nat.add_sub_cancel]
theorem kF_miss {b : Bool} {f n k : Nat} (h : ¬ inB n = b) : kF b (f + 1) n k = kF b f (n + 1) k := by conv => lhs; unfold kF; rw [if_neg h]
/-- The k-th; 0: there is none. -/
def kthI (k : Int) (b : Bool) : Int := if k < 0 then 0 else (kth k.toNat b : Nat)
theorem kthI_nat (k : Nat) (b : Bool) : kthI k b = (kth k b : Nat) := by unfold kthI; rw [if_neg (by omega), Int.toNat_natCast]
set_option maxRecDepth 100000 in
set_option maxHeartbeats 2000000 in
theorem kth_any (k : Int) (b : Bool) (w : World) (hk : k ≤ 1000000) : Calls Tryz.prog 88 #[.int .i64 k, .bool b] w fun e w' => e = .returned (.int .i32 (kthI k b)) ∧ w = w' := by
  by_cases hneg : k < 0
  · have e : kthI k b = 0 := if_pos hneg
    rw [e]
    go_enter Tryz.func88, Tryz.ntmps88
    go_wp2
    go_ret
    exact ⟨rfl, rfl⟩
  obtain ⟨q, rfl⟩ : ∃ q : Nat, k = (q : Int) := ⟨k.toNat, by omega⟩
  rw [kthI_nat]
  obtain ⟨R, hR⟩ : ∃ R, R = kth q b := ⟨_, rfl⟩
  rw [← hR]
  have HR : Hid (kF b 11172 0 q = R) := Lib.hid hR.symm
  have q1 : (q : Int) ≤ 1000000 := hk
  have q0 : ¬ (q : Int) < 0 := hneg
  clear hR hk hneg
  generalize hQ : (q : Int) = Q at *
  have HQ := Lib.hid hQ
  clear hQ
  have FIN : Hid (∀ v : Int, v = (R : Int) → Ending.returned (.int .i32 v) = .returned (.int .i32 (R : Int))) := Lib.hid (fun v h => by rw [h])
  go_enter Tryz.func88, Tryz.ntmps88
  go_wp2_with fail
  go_loopw [0, 5] (fun kk t wr => ∃ (n f k : Nat) (N K : Int), Hid (n + f = 11172 ∧ N = (n : Int) ∧ K = (k : Int) ∧ k ≤ q) ∧ Hid (kF b f n k = R) ∧ t = .int .i64 N ∧ kk = .int .i64 K ∧ w = wr) (fun _ t _ => 11172 - (RowKit.intOf t).toNat)
  case atStart => exact ⟨0, 11172, q, 0, Q, Lib.hid ⟨rfl, rfl, HQ.out.symm, Nat.le_refl _⟩, HR, rfl, rfl, rfl⟩
  case round =>
    obtain ⟨n, f, k, N, K, hn, hkf, rfl, rfl, rfl⟩ := hrel
    have k0 : 0 ≤ K := by have := hn.out; omega
    have k1 : K ≤ 1000000 := by have := hn.out; have := HQ.out; omega
    have n0 : 0 ≤ N := by have := hn.out; omega
    by_cases hlt : N < 11172
    · obtain ⟨f, rfl⟩ : ∃ f', f = f' + 1 := ⟨f - 1, by have := hn.out; omega⟩
      have HI := Lib.hid (fun w2 => in_any n w2 (by have := hn.out; omega))
      rw [← hn.out.2.1] at HI
      by_cases hb : inB n = b
      · have hbb : (inB n == b) = true := by rw [hb]; exact beq_self_eq_true b
        by_cases hz : K = 0
        · subst hz
          have hres : Hid ((44032 + N : Int) = (R : Int)) := Lib.hid (by
            have h1 := hkf.out
            have h2 := hn.out
            obtain rfl : k = 0 := by omega
            rw [kF_hit0 hb] at h1
            omega)
          clear hb
          generalize inB n = V at *
          go_wp2_with (go_at_call 48; refine (HI.out _).mono ?_; rintro e2 w2 ⟨rfl, rfl⟩)
          go_ret
          exact ⟨FIN.out _ hres.out, rfl⟩
        · obtain ⟨k', hk'⟩ : ∃ k', k = k' + 1 := ⟨k - 1, by have := hn.out; omega⟩
          have hres : Hid (kF b f (n + 1) k' = R) := Lib.hid (by
            have h1 := hkf.out
            rw [hk', kF_hit1 hb] at h1
            exact h1)
          have hzz : (K == 0) = false := beq_eq_false_iff_ne.2 hz
          have HKK := Lib.hid hk'
          clear hb hk'
          generalize inB n = V at *
          go_wp2_with (go_at_call 48; refine (HI.out _).mono ?_; rintro e2 w2 ⟨rfl, rfl⟩)
          go_roundw
          case rel => exact ⟨n + 1, f, k', N + 1, K - 1, Lib.hid (by have := hn.out; have := HKK.out; omega), hres, rfl, rfl, by first | rfl | trivial⟩
          case measure => simp [RowKit.intOf]; omega
      · have hbb : (inB n == b) = false := beq_eq_false_iff_ne.2 hb
        have hres : Hid (kF b f (n + 1) k = R) := Lib.hid (by
          have h1 := hkf.out
          rw [kF_miss hb] at h1
          exact h1)
        clear hb
        generalize inB n = V at *
        go_wp2_with (go_at_call 48; refine (HI.out _).mono ?_; rintro e2 w2 ⟨rfl, rfl⟩)
        go_roundw
        case rel => exact ⟨n + 1, f, k, N + 1, K, Lib.hid (by have := hn.out; omega), hres, rfl, rfl, by first | rfl | trivial⟩
        case measure => simp [RowKit.intOf]; omega
    · have hres : Hid ((0 : Int) = (R : Int)) := Lib.hid (by
        have h1 := hkf.out
        have h2 := hn.out
        obtain rfl : f = 0 := by omega
        rw [kF_zero] at h1
        omega)
      go_wp2_with fail
      go_ret
      exact ⟨FIN.out _ hres.out, rfl⟩
/-- The number of a second byte; -1: it is none. -/
def secI (b : Nat) : Int := match sec b with
  | some t => (t : Nat)
  | none => -1
theorem secI_1 {b : Nat} (h : 65 ≤ b ∧ b ≤ 90) : secI b = (b : Int) - 65 := by unfold secI sec; rw [if_pos h]; show ((b - 65 : Nat) : Int) = _; omega
theorem secI_2 {b : Nat} (h : 97 ≤ b ∧ b ≤ 122) : secI b = (b : Int) - 97 + 26 := by unfold secI sec; rw [if_neg (by omega), if_pos h]; show ((b - 97 + 26 : Nat) : Int) = _; omega
theorem secI_3 {b : Nat} (h : 129 ≤ b ∧ b ≤ 254) : secI b = (b : Int) - 129 + 52 := by unfold secI sec; rw [if_neg (by omega), if_neg (by omega), if_pos h]; show ((b - 129 + 52 : Nat) : Int) = _; omega
theorem secI_0 {b : Nat} (h1 : ¬ (65 ≤ b ∧ b ≤ 90)) (h2 : ¬ (97 ≤ b ∧ b ≤ 122)) (h3 : ¬ (129 ≤ b ∧ b ≤ 254)) : secI b = -1 := by unfold secI sec; rw [if_neg h1, if_neg h2, if_neg h3]
set_option maxRecDepth 100000 in
set_option maxHeartbeats 1000000 in
theorem second_any (b : Nat) (w : World) (hb : b < 256) : Calls Tryz.prog 87 #[.int .i64 b] w fun e w' => e = .returned (.int .i64 (secI b)) ∧ w = w' := by
  have hh : b < 65 ∨ (65 ≤ b ∧ b ≤ 90) ∨ (91 ≤ b ∧ b < 97) ∨ (97 ≤ b ∧ b ≤ 122) ∨ (123 ≤ b ∧ b < 129) ∨ (129 ≤ b ∧ b ≤ 254) ∨ b = 255 := by omega
  obtain ⟨V, hV⟩ : ∃ V, V = secI b := ⟨_, rfl⟩
  rw [← hV]
  generalize hB : (b : Int) = B
  rcases hh with h | h | h | h | h | h | h
  · have hv : V = -1 := by rw [hV, secI_0 (by omega) (by omega) (by omega)]
    subst hv
    have g0 : ¬ 65 ≤ B := by omega
    have g1 : ¬ 97 ≤ B := by omega
    have g2 : ¬ 129 ≤ B := by omega
    clear hV hB h
    go_enter Tryz.func87, Tryz.ntmps87
    go_wp2
    go_ret
    exact ⟨rfl, rfl⟩
  · have hv : V = B - 65 := by rw [hV, secI_1 h]; omega
    subst hv
    have g0 : 65 ≤ B := by omega
    have g1 : B ≤ 90 := by omega
    clear hV hB h
    go_enter Tryz.func87, Tryz.ntmps87
    go_wp2
    go_ret
    exact ⟨rfl, rfl⟩
  · have hv : V = -1 := by rw [hV, secI_0 (by omega) (by omega) (by omega)]
    subst hv
    have g0 : 65 ≤ B := by omega
    have g3 : ¬ B ≤ 90 := by omega
    have g1 : ¬ 97 ≤ B := by omega
    have g2 : ¬ 129 ≤ B := by omega
    clear hV hB h
    go_enter Tryz.func87, Tryz.ntmps87
    go_wp2
    go_ret
    exact ⟨rfl, rfl⟩
  · have hv : V = B - 97 + 26 := by rw [hV, secI_2 h]; omega
    subst hv
    have g0 : 65 ≤ B := by omega
    have g3 : ¬ B ≤ 90 := by omega
    have g1 : 97 ≤ B := by omega
    have g2 : B ≤ 122 := by omega
    clear hV hB h
    go_enter Tryz.func87, Tryz.ntmps87
    go_wp2
    go_ret
    exact ⟨rfl, rfl⟩
  · have hv : V = -1 := by rw [hV, secI_0 (by omega) (by omega) (by omega)]
    subst hv
    have g0 : 65 ≤ B := by omega
    have g3 : ¬ B ≤ 90 := by omega
    have g1 : 97 ≤ B := by omega
    have g4 : ¬ B ≤ 122 := by omega
    have g2 : ¬ 129 ≤ B := by omega
    clear hV hB h
    go_enter Tryz.func87, Tryz.ntmps87
    go_wp2
    go_ret
    exact ⟨rfl, rfl⟩
  · have hv : V = B - 129 + 52 := by rw [hV, secI_3 h]; omega
    subst hv
    have g0 : 65 ≤ B := by omega
    have g3 : ¬ B ≤ 90 := by omega
    have g1 : 97 ≤ B := by omega
    have g4 : ¬ B ≤ 122 := by omega
    have g2 : 129 ≤ B := by omega
    have g5 : B ≤ 254 := by omega
    clear hV hB h
    go_enter Tryz.func87, Tryz.ntmps87
    go_wp2
    go_ret
    exact ⟨rfl, rfl⟩
  · have hv : V = -1 := by rw [hV, secI_0 (by omega) (by omega) (by omega)]
    subst hv
    obtain rfl : B = 255 := by omega
    clear hV hB h
    go_enter Tryz.func87, Tryz.ntmps87
    go_wp2
    go_ret
    exact ⟨rfl, rfl⟩
set_option maxRecDepth 100000 in
set_option maxHeartbeats 1000000 in
theorem span_any (b f l p : Nat) (w : World) (hb : b < 256) (hf : f < 256) (hp : p < 65536) : Calls Tryz.prog 125 #[.int .i64 b, .int .i64 f, .int .i64 l, .int .i32 p] w fun e w' => e = .returned (.int .i32 ((spn b f l p : Nat) : Int)) ∧ w = w' := by
  obtain ⟨V, hV⟩ : ∃ V : Int, V = ((spn b f l p : Nat) : Int) := ⟨_, rfl⟩
  rw [← hV]
  unfold spn at hV
  have hl : ∃ L : Int, L = (l : Int) := ⟨_, rfl⟩
  obtain ⟨L, hL⟩ := hl
  rw [← hL]
  generalize hB : (b : Int) = B at *
  generalize hF : (f : Int) = F at *
  generalize hP : (p : Int) = P at *
  by_cases h1 : b < f
  · rw [if_pos (.inl h1)] at hV
    obtain rfl : V = 0 := by rw [hV]; rfl
    have g0 : B < F := by omega
    clear hV hB hF hP hL h1
    go_enter Tryz.func125, Tryz.ntmps125
    go_wp2
    go_ret
    exact ⟨rfl, rfl⟩
  by_cases h2 : l < b
  · rw [if_pos (.inr h2)] at hV
    obtain rfl : V = 0 := by rw [hV]; rfl
    have g0 : ¬ B < F := by omega
    have g1 : L < B := by omega
    clear hV hB hF hP hL h1 h2
    go_enter Tryz.func125, Tryz.ntmps125
    go_wp2
    go_ret
    exact ⟨rfl, rfl⟩
  · rw [if_neg (by omega)] at hV
    obtain rfl : V = P + (B - F) := by omega
    have g0 : ¬ B < F := by omega
    have g1 : ¬ L < B := by omega
    have g2 : B - F < 256 := by omega
    have g3 : 0 ≤ B - F := by omega
    have g4 : 0 ≤ P := by omega
    have g5 : P < 65536 := by omega
    have w1 : IntKind.i32.wrap (B - F) = B - F := wrap32 (by omega) (by omega)
    have w2 : IntKind.i64.wrap (B - F) = B - F := wrap64 (by omega) (by omega)
    have w3 : IntKind.i32.wrap (P + (B - F)) = P + (B - F) := wrap32 (by omega) (by omega)
    clear hV hB hF hP hL h1 h2
    go_enter Tryz.func125, Tryz.ntmps125
    go_wp2
    go_ret
    exact ⟨rfl, rfl⟩
end Go.Proofs.YtiigknimfibdpaaGreatDoor.wa
namespace Go.Proofs.YtiigknimfibdpaaGreatDoor.jo
open Go.RowKit Go.Lib
set_option linter.unusedVariables false
theorem wrap64 {x : Int} (h0 : -9223372036854775808 ≤ x) (h1 : x ≤ 9223372036854775807) : IntKind.i64.wrap x = x := by simp [IntKind.wrap, IntKind.bits, IntKind.signed]; omega
theorem wrap32 {x : Int} (h0 : -2147483648 ≤ x) (h1 : x ≤ 2147483647) : IntKind.i32.wrap x = x := by simp [IntKind.wrap, IntKind.bits, IntKind.signed]; omega
theorem rInt {k : IntKind} {a b : Int} (h : a = b) : Ending.returned (.int k a) = .returned (.int k b) := by rw [h]
/-- The number of a medial's code: -1: none; -2: it isn't there. -/
def medI (c : Nat) : Int := if med c = 98 then -2 else if med c = 99 then -1 else med c
def finI (c : Nat) : Int := if fin c = 98 then -2 else fin c
def medLI : List Int := [-2, -2, -1, 0, 1, 2, 3, 4, -2, -2, 5, 6, 7, 8, 9, 10, -2, -2, 11, 12, 13, 14, 15, 16, -2, -2, 17, 18, 19, 20, -2, -2]
theorem medI_is : ∀ c < 32, medLI[c]? = some (medI c) := by decide
/-- A literal of numbers, in memory. -/
theorem lit_cell (w : World) (l : List Int) (t c : Nat) (z : Int) (h : l[c]? = some z) : (w.alloc (.cells (l.map (Value.int .i64)).toArray t)).cell? ⟨w.heap.size, c, none⟩ = some (.int .i64 z) := by
  rw [World.cell?_alloc_mark]; simp [h]
set_option maxRecDepth 100000 in
set_option maxHeartbeats 4000000 in
theorem medial_any (c : Nat) (w : World) (hc : c < 32) : Calls Tryz.prog 90 #[.int .i64 c] w fun e w' => e = .returned (.int .i64 (medI c)) ∧ Below w.heap.size w w' := by
  have hl := lit_cell w medLI 3 c _ (medI_is c hc)
  have g0 : (0 : Int) ≤ (c : Int) := by omega
  have g1 : (c : Int) < 32 := by omega
  generalize medI c = M at *
  simp only [medLI, List.map_cons, List.map_nil] at hl
  go_enter Tryz.func90, Tryz.ntmps90
  go_wp2
  go_ret
  exact ⟨rfl, (Below.refl _ _).alloc (Nat.le_refl _) _⟩
set_option maxRecDepth 100000 in
theorem final_any (c : Nat) (w : World) (hc : c < 32) : Calls Tryz.prog 91 #[.int .i64 c] w fun e w' => e = .returned (.int .i64 (finI c)) ∧ Below w.heap.size w w' := by
  unfold finI fin
  by_cases h : c = 0 ∨ c = 18 ∨ 29 < c
  · rw [if_pos h, if_pos rfl]
    rcases h with rfl | rfl | h
    · go_enter Tryz.func91, Tryz.ntmps91
      go_wp2
      go_ret
      exact ⟨rfl, Below.refl _ _⟩
    · go_enter Tryz.func91, Tryz.ntmps91
      go_wp2
      go_ret
      exact ⟨rfl, Below.refl _ _⟩
    · have n0 : ((c : Int) == 0) = false := beq_eq_false_iff_ne.2 (by omega)
      have n1 : ((c : Int) == 18) = false := beq_eq_false_iff_ne.2 (by omega)
      have n2 : (29 : Int) < (c : Int) := by omega
      go_enter Tryz.func91, Tryz.ntmps91
      go_wp2
      go_ret
      exact ⟨rfl, Below.refl _ _⟩
  · rw [if_neg h]
    have n0 : ((c : Int) == 0) = false := beq_eq_false_iff_ne.2 (by omega)
    have n1 : ((c : Int) == 18) = false := beq_eq_false_iff_ne.2 (by omega)
    have n2 : ¬ (29 : Int) < (c : Int) := by omega
    by_cases h2 : c < 18
    · rw [if_pos h2, if_neg (by omega)]
      have n3 : (c : Int) < 18 := by omega
      have e1 : Hid (((c - 1 : Nat) : Int) = (c : Int) - 1) := Lib.hid (by omega)
      go_enter Tryz.func91, Tryz.ntmps91
      go_wp2
      go_ret
      exact ⟨rInt (by rw [e1.out]), Below.refl _ _⟩
    · rw [if_neg h2, if_neg (by omega)]
      have n3 : ¬ (c : Int) < 18 := by omega
      have e1 : Hid (((c - 2 : Nat) : Int) = (c : Int) - 2) := Lib.hid (by omega)
      go_enter Tryz.func91, Tryz.ntmps91
      go_wp2
      go_ret
      exact ⟨rInt (by rw [e1.out]), Below.refl _ _⟩
theorem alo_drop (p n : Nat) (h : n < 30) : aloFrom p n (aloL.drop n) = if aloL.getD n 0 = p then 12593 + n else aloFrom p (n + 1) (aloL.drop (n + 1)) := by
  have hl : n < aloL.length := h
  rw [List.drop_eq_getElem_cons hl, aloFrom]
  simp [List.getD, List.getElem?_eq_getElem hl]
theorem lit_alo (w : World) (t : Nat) : ∀ k, k < 30 → (w.alloc (.cells (aloL.map fun (n : Nat) => Value.int .i64 (n : Int)).toArray t)).cell? ⟨w.heap.size, k, none⟩ = some (.int .i64 ((aloL.getD k 0 : Nat) : Int)) := fun k h => by
  have hl : k < aloL.length := h
  rw [World.cell?_alloc_mark]; simp [List.getD, List.getElem?_eq_getElem hl]
set_option maxRecDepth 100000 in
set_option maxHeartbeats 1000000 in
theorem alone_any (p : Nat) (w : World) : Calls Tryz.prog 92 #[.int .i64 p] w fun e w' => e = .returned (.int .i32 ((alo p : Nat) : Int)) ∧ Below w.heap.size w w' := by
  obtain ⟨R, hR⟩ : ∃ R, R = alo p := ⟨_, rfl⟩
  rw [← hR]
  have HR := Lib.hid hR
  have H0 := Lib.hid (lit_alo w 3)
  clear hR
  go_enter Tryz.func92, Tryz.ntmps92
  go_wp2_with fail
  go_loopw [4] (fun i wr => ∃ n : Nat, n ≤ 30 ∧ i = .int .i64 n ∧ aloFrom p n (aloL.drop n) = R ∧ (∀ k, k < 30 → wr.cell? ⟨w.heap.size, k, none⟩ = some (.int .i64 ((aloL.getD k 0 : Nat) : Int))) ∧ Below w.heap.size w wr) (fun i _ => 30 - (RowKit.intOf i).toNat)
  case atStart => exact ⟨0, by omega, rfl, by rw [HR.out]; rfl, H0.out, (Below.refl _ _).alloc (Nat.le_refl _) _⟩
  case round =>
    obtain ⟨n, hn, rfl, hr, hc, hB⟩ := hrel
    have HB := Lib.hid hB; have HC := Lib.hid hc; have HRR := Lib.hid hr
    clear hB hc hr
    by_cases hlt : n < 30
    · have hcn := HC.out n hlt
      have g0 : (n : Int) < 30 := by omega
      have g1 : (0 : Int) ≤ (n : Int) := by omega
      have hu := Lib.hid (alo_drop p n hlt)
      generalize aloL.getD n 0 = Q at *
      by_cases hq : Q = p
      · have e1 : ((Q : Int) == (p : Int)) = true := by rw [hq]; exact beq_self_eq_true _
        have hR2 : Hid ((R : Int) = 12593 + (n : Int)) := Lib.hid (by rw [← HRR.out, hu.out, if_pos hq]; omega)
        have hw1 : IntKind.i32.wrap (12593 + (n : Int)) = 12593 + (n : Int) := wrap32 (by omega) (by omega)
        clear hq
        go_wp2_with fail
        go_ret
        exact ⟨rInt (by rw [hR2.out]), HB.out⟩
      · have e1 : ((Q : Int) == (p : Int)) = false := beq_eq_false_iff_ne.2 (by omega)
        have hR2 : Hid (aloFrom p (n + 1) (aloL.drop (n + 1)) = R) := Lib.hid (by rw [← HRR.out, hu.out, if_neg hq])
        clear hq
        go_wp2_with fail
        go_roundw
        case rel => exact ⟨n + 1, by omega, by go_num, hR2.out, HC.out, HB.out⟩
        case measure => simp [RowKit.intOf]; omega
    · obtain rfl : n = 30 := by omega
      have hR2 : Hid ((R : Int) = 0) := Lib.hid (by rw [← HRR.out]; rfl)
      go_wp2_with fail
      go_ret
      exact ⟨rInt (by rw [hR2.out]), HB.out⟩
end Go.Proofs.YtiigknimfibdpaaGreatDoor.jo
namespace Go.Proofs.YtiigknimfibdpaaGreatDoor.jo
open Go.RowKit Go.Lib
set_option linter.unusedVariables false
theorem med_cases (c : Nat) (h : c < 32) : med c = 98 ∨ med c = 99 ∨ med c ≤ 20 := by
  have : ∀ c < 32, med c = 98 ∨ med c = 99 ∨ med c ≤ 20 := by decide
  exact this c h
theorem fin_cases (c : Nat) (h : c < 32) : fin c = 98 ∨ fin c ≤ 27 := by
  have : ∀ c < 32, fin c = 98 ∨ fin c ≤ 27 := by decide
  exact this c h
/-- The sign of sixteen bits; 0: there is none. -/
def sg (c : Nat) : Nat := if c < 32768 then 0 else sgn c
/-- The document's Sign, told by the three codes. -/
def sgP (I m f : Nat) : Nat := if I = 0 ∨ 20 < I ∨ m = 98 ∨ f = 98 then 0
    else if 2 ≤ I ∧ m < 98 then 44032 + ((I - 2) * 21 + m) * 28 + f
    else if I = 1 ∧ m < 98 ∧ f = 0 then 12623 + m
    else if 2 ≤ I ∧ m = 99 ∧ f = 0 then alo (I - 2)
    else if I = 1 ∧ m = 99 ∧ 0 < f then alo (100 + f)
    else 0
theorem sgn_is (c : Nat) : sgn c = sgP (c / 1024 % 32) (med (c / 32 % 32)) (fin (c % 32)) := rfl
/-- A number: -1: none; -2: it isn't there. -/
def nI (m : Nat) : Int := if m = 98 then -2 else if m = 99 then -1 else m
theorem nI_le {m : Nat} (h : m ≤ 27) : nI m = m := by unfold nI; rw [if_neg (by omega), if_neg (by omega)]
def MedC (c : Int) (mi : Int) : Prop := ∀ w2, Calls Tryz.prog 90 #[.int .i64 (c / 32 % 32)] w2 fun e w' => e = .returned (.int .i64 mi) ∧ Below w2.heap.size w2 w'
def FinC (c : Int) (fi : Int) : Prop := ∀ w2, Calls Tryz.prog 91 #[.int .i64 (c % 32)] w2 fun e w' => e = .returned (.int .i64 fi) ∧ Below w2.heap.size w2 w'
def Post6 (S : Nat) (w : World) : Ending → World → Prop := fun e w' => e = .returned (.int .i32 (S : Int)) ∧ Below w.heap.size w w'
theorem post6 {S : Nat} {w w' : World} {v : Int} (h : (S : Int) = v) (hb : Below w.heap.size w w') : Post6 S w (.returned (.int .i32 v)) w' := ⟨by rw [h], hb⟩
theorem ans6 {S T : Nat} {v : Int} (h : Hid (S = T)) (h2 : (T : Int) = v) : (S : Int) = v := by rw [h.out]; exact h2
set_option maxRecDepth 100000 in
set_option maxHeartbeats 8000000 in
theorem rs_core (c : Int) (I m f : Nat) (w : World) (g0 : 32768 ≤ c) (g1 : c < 65536) (e1 : c / 1024 % 32 = (I : Int)) (hI : I < 32) (m1 : m = 98 ∨ m = 99 ∨ m ≤ 20) (f1 : f = 98 ∨ f ≤ 27)
    (HM : Hid (MedC c (nI m))) (HF : Hid (FinC c (nI f))) : Calls Tryz.prog 59 #[.int .i64 c] w (Post6 (sgP I m f) w) := by
  obtain ⟨S, hS⟩ : ∃ S, S = sgP I m f := ⟨_, rfl⟩
  rw [← hS]
  have HS := Lib.hid hS
  have HA := Lib.hid (fun p w2 => alone_any p w2)
  clear hS
  have hI0 : I = 0 ∨ I = 1 ∨ (∃ k, I = k + 2 ∧ k ≤ 18) ∨ 20 < I := by
    by_cases h : I < 2
    · omega
    · by_cases h2 : 20 < I
      · omega
      · exact .inr (.inr (.inl ⟨I - 2, by omega, by omega⟩))
  have HH := Lib.hid (⟨m1, f1⟩ : (m = 98 ∨ m = 99 ∨ m ≤ 20) ∧ (f = 98 ∨ f ≤ 27))
  clear m1 f1
  have hI2 := hI
  clear hI
  rcases hI0 with rfl | rfl | ⟨k, rfl, hk⟩ | hI0
  · replace e1 : c / 1024 % 32 = 0 := e1
    go_enter Tryz.func59, Tryz.ntmps59
    go_wp2_with (first | (go_at_call 90; refine (HM.out _).mono ?_; rintro e2 w2 ⟨rfl, hb2⟩) | (go_at_call 91; refine (HF.out _).mono ?_; rintro e3 w3 ⟨rfl, hb3⟩))
    go_ret
    exact post6 (ans6 HS (by simp [sgP])) (hb2.trans (hb3.mono hb2.size))
  · obtain ⟨m1, f1⟩ := HH.out
    replace e1 : c / 1024 % 32 = 1 := e1
    rcases m1 with rfl | rfl | hm
    · clear f1
      replace HM : Hid (MedC c (-2)) := HM
      go_enter Tryz.func59, Tryz.ntmps59
      go_wp2_with (first | (go_at_call 90; refine (HM.out _).mono ?_; rintro e2 w2 ⟨rfl, hb2⟩) | (go_at_call 91; refine (HF.out _).mono ?_; rintro e3 w3 ⟨rfl, hb3⟩))
      go_ret
      exact post6 (ans6 HS (by simp [sgP])) (hb2.trans (hb3.mono hb2.size))
    · replace HM : Hid (MedC c (-1)) := HM
      by_cases hf0 : f = 0
      · subst hf0
        replace HF : Hid (FinC c 0) := HF
        go_enter Tryz.func59, Tryz.ntmps59
        go_wp2_with (first | (go_at_call 90; refine (HM.out _).mono ?_; rintro e2 w2 ⟨rfl, hb2⟩) | (go_at_call 91; refine (HF.out _).mono ?_; rintro e3 w3 ⟨rfl, hb3⟩))
        go_ret
        exact post6 (ans6 HS (by simp [sgP])) (hb2.trans (hb3.mono hb2.size))
      by_cases hf8 : f = 98
      · subst hf8
        replace HF : Hid (FinC c (-2)) := HF
        go_enter Tryz.func59, Tryz.ntmps59
        go_wp2_with (first | (go_at_call 90; refine (HM.out _).mono ?_; rintro e2 w2 ⟨rfl, hb2⟩) | (go_at_call 91; refine (HF.out _).mono ?_; rintro e3 w3 ⟨rfl, hb3⟩))
        go_ret
        exact post6 (ans6 HS (by simp [sgP])) (hb2.trans (hb3.mono hb2.size))
      have hf : f ≤ 27 := by omega
      rw [nI_le hf] at HF
      have p0 : (0 : Int) < (f : Int) := by omega
      have p1 : (f : Int) ≤ 27 := by omega
      have p2 : ((f : Int) == -2) = false := beq_eq_false_iff_ne.2 (by omega)
      have p3 : ((f : Int) == 0) = false := beq_eq_false_iff_ne.2 (by omega)
      · have q1 : ((100 + f : Nat) : Int) = 100 + (f : Int) := by omega
        go_enter Tryz.func59, Tryz.ntmps59
        go_wp2_with (first | (go_at_call 90; refine (HM.out _).mono ?_; rintro e2 w2 ⟨rfl, hb2⟩) | (go_at_call 91; refine (HF.out _).mono ?_; rintro e3 w3 ⟨rfl, hb3⟩) | (go_at_call 92; refine (HA.out (100 + f) _).mono ?_; rintro e4 w4 ⟨rfl, hb4⟩))
        go_ret
        exact post6 (ans6 HS (by unfold sgP; rw [if_neg (by omega), if_neg (by omega), if_neg (by omega), if_neg (by omega), if_pos (by omega)])) ((hb2.trans (hb3.mono hb2.size)).trans (hb4.mono (hb2.trans (hb3.mono hb2.size)).size))
    · rw [nI_le (by omega)] at HM
      have n0 : (0 : Int) ≤ (m : Int) := by omega
      have n1 : (m : Int) ≤ 20 := by omega
      have n2 : ((m : Int) == -2) = false := beq_eq_false_iff_ne.2 (by omega)
      by_cases hf0 : f = 0
      · subst hf0
        replace HF : Hid (FinC c 0) := HF
        go_enter Tryz.func59, Tryz.ntmps59
        go_wp2_with (first | (go_at_call 90; refine (HM.out _).mono ?_; rintro e2 w2 ⟨rfl, hb2⟩) | (go_at_call 91; refine (HF.out _).mono ?_; rintro e3 w3 ⟨rfl, hb3⟩))
        go_ret
        exact post6 (ans6 HS (by unfold sgP; rw [if_neg (by simp; omega), if_neg (by omega), if_pos (by omega)]; omega)) (hb2.trans (hb3.mono hb2.size))
      by_cases hf8 : f = 98
      · subst hf8
        replace HF : Hid (FinC c (-2)) := HF
        go_enter Tryz.func59, Tryz.ntmps59
        go_wp2_with (first | (go_at_call 90; refine (HM.out _).mono ?_; rintro e2 w2 ⟨rfl, hb2⟩) | (go_at_call 91; refine (HF.out _).mono ?_; rintro e3 w3 ⟨rfl, hb3⟩))
        go_ret
        exact post6 (ans6 HS (by simp [sgP])) (hb2.trans (hb3.mono hb2.size))
      have hf : f ≤ 27 := by omega
      rw [nI_le hf] at HF
      have p0 : (0 : Int) < (f : Int) := by omega
      have p1 : (f : Int) ≤ 27 := by omega
      have p2 : ((f : Int) == -2) = false := beq_eq_false_iff_ne.2 (by omega)
      have p3 : ((f : Int) == 0) = false := beq_eq_false_iff_ne.2 (by omega)
      · go_enter Tryz.func59, Tryz.ntmps59
        go_wp2_with (first | (go_at_call 90; refine (HM.out _).mono ?_; rintro e2 w2 ⟨rfl, hb2⟩) | (go_at_call 91; refine (HF.out _).mono ?_; rintro e3 w3 ⟨rfl, hb3⟩))
        go_ret
        exact post6 (ans6 HS (by unfold sgP; rw [if_neg (by omega), if_neg (by omega), if_neg (by omega), if_neg (by omega), if_neg (by omega)]; rfl)) (hb2.trans (hb3.mono hb2.size))
  · obtain ⟨m1, f1⟩ := HH.out
    replace e1 : c / 1024 % 32 = (k : Int) + 2 := by rw [e1]; omega
    have k0 : (0 : Int) ≤ (k : Int) := by omega
    have k1 : (k : Int) ≤ 18 := by omega
    rcases m1 with rfl | rfl | hm
    · clear f1
      replace HM : Hid (MedC c (-2)) := HM
      go_enter Tryz.func59, Tryz.ntmps59
      go_wp2_with (first | (go_at_call 90; refine (HM.out _).mono ?_; rintro e2 w2 ⟨rfl, hb2⟩) | (go_at_call 91; refine (HF.out _).mono ?_; rintro e3 w3 ⟨rfl, hb3⟩))
      go_ret
      exact post6 (ans6 HS (by simp [sgP])) (hb2.trans (hb3.mono hb2.size))
    · replace HM : Hid (MedC c (-1)) := HM
      by_cases hf0 : f = 0
      · subst hf0
        replace HF : Hid (FinC c 0) := HF
        go_enter Tryz.func59, Tryz.ntmps59
        go_wp2_with (first | (go_at_call 90; refine (HM.out _).mono ?_; rintro e2 w2 ⟨rfl, hb2⟩) | (go_at_call 91; refine (HF.out _).mono ?_; rintro e3 w3 ⟨rfl, hb3⟩) | (go_at_call 92; refine (HA.out k _).mono ?_; rintro e4 w4 ⟨rfl, hb4⟩))
        go_ret
        exact post6 (ans6 HS (by unfold sgP; rw [if_neg (by omega), if_neg (by omega), if_neg (by omega), if_pos (by omega), Nat.add_sub_cancel])) ((hb2.trans (hb3.mono hb2.size)).trans (hb4.mono (hb2.trans (hb3.mono hb2.size)).size))
      by_cases hf8 : f = 98
      · subst hf8
        replace HF : Hid (FinC c (-2)) := HF
        go_enter Tryz.func59, Tryz.ntmps59
        go_wp2_with (first | (go_at_call 90; refine (HM.out _).mono ?_; rintro e2 w2 ⟨rfl, hb2⟩) | (go_at_call 91; refine (HF.out _).mono ?_; rintro e3 w3 ⟨rfl, hb3⟩))
        go_ret
        exact post6 (ans6 HS (by simp [sgP])) (hb2.trans (hb3.mono hb2.size))
      have hf : f ≤ 27 := by omega
      rw [nI_le hf] at HF
      have p0 : (0 : Int) < (f : Int) := by omega
      have p1 : (f : Int) ≤ 27 := by omega
      have p2 : ((f : Int) == -2) = false := beq_eq_false_iff_ne.2 (by omega)
      have p3 : ((f : Int) == 0) = false := beq_eq_false_iff_ne.2 (by omega)
      · go_enter Tryz.func59, Tryz.ntmps59
        go_wp2_with (first | (go_at_call 90; refine (HM.out _).mono ?_; rintro e2 w2 ⟨rfl, hb2⟩) | (go_at_call 91; refine (HF.out _).mono ?_; rintro e3 w3 ⟨rfl, hb3⟩))
        go_ret
        exact post6 (ans6 HS (by unfold sgP; rw [if_neg (by omega), if_neg (by omega), if_neg (by omega), if_neg (by omega), if_neg (by omega)]; rfl)) (hb2.trans (hb3.mono hb2.size))
    · rw [nI_le (by omega)] at HM
      have n0 : (0 : Int) ≤ (m : Int) := by omega
      have n1 : (m : Int) ≤ 20 := by omega
      have n2 : ((m : Int) == -2) = false := beq_eq_false_iff_ne.2 (by omega)
      by_cases hf0 : f = 0
      · subst hf0
        replace HF : Hid (FinC c 0) := HF
        go_enter Tryz.func59, Tryz.ntmps59
        go_wp2_with (first | (go_at_call 90; refine (HM.out _).mono ?_; rintro e2 w2 ⟨rfl, hb2⟩) | (go_at_call 91; refine (HF.out _).mono ?_; rintro e3 w3 ⟨rfl, hb3⟩))
        go_ret
        exact post6 (ans6 HS (by unfold sgP; rw [if_neg (by omega), if_pos (by omega)]; omega)) (hb2.trans (hb3.mono hb2.size))
      by_cases hf8 : f = 98
      · subst hf8
        replace HF : Hid (FinC c (-2)) := HF
        go_enter Tryz.func59, Tryz.ntmps59
        go_wp2_with (first | (go_at_call 90; refine (HM.out _).mono ?_; rintro e2 w2 ⟨rfl, hb2⟩) | (go_at_call 91; refine (HF.out _).mono ?_; rintro e3 w3 ⟨rfl, hb3⟩))
        go_ret
        exact post6 (ans6 HS (by simp [sgP])) (hb2.trans (hb3.mono hb2.size))
      have hf : f ≤ 27 := by omega
      rw [nI_le hf] at HF
      have p0 : (0 : Int) < (f : Int) := by omega
      have p1 : (f : Int) ≤ 27 := by omega
      have p2 : ((f : Int) == -2) = false := beq_eq_false_iff_ne.2 (by omega)
      have p3 : ((f : Int) == 0) = false := beq_eq_false_iff_ne.2 (by omega)
      · go_enter Tryz.func59, Tryz.ntmps59
        go_wp2_with (first | (go_at_call 90; refine (HM.out _).mono ?_; rintro e2 w2 ⟨rfl, hb2⟩) | (go_at_call 91; refine (HF.out _).mono ?_; rintro e3 w3 ⟨rfl, hb3⟩))
        go_ret
        exact post6 (ans6 HS (by unfold sgP; rw [if_neg (by omega), if_pos (by omega)]; omega)) (hb2.trans (hb3.mono hb2.size))
  · have j0 : (20 : Int) < (I : Int) := by omega
    have j1 : (I : Int) < 32 := by omega
    go_enter Tryz.func59, Tryz.ntmps59
    go_wp2_with (first | (go_at_call 90; refine (HM.out _).mono ?_; rintro e2 w2 ⟨rfl, hb2⟩) | (go_at_call 91; refine (HF.out _).mono ?_; rintro e3 w3 ⟨rfl, hb3⟩))
    go_ret
    exact post6 (ans6 HS (by unfold sgP; rw [if_pos (by omega)]; rfl)) (hb2.trans (hb3.mono hb2.size))
theorem refsign_any (c : Nat) (w : World) (hc : c < 65536) : Calls Tryz.prog 59 #[.int .i64 c] w fun e w' => e = .returned (.int .i32 ((sg c : Nat) : Int)) ∧ Below w.heap.size w w' := by
  unfold sg
  by_cases h0 : c < 32768
  · rw [if_pos h0]
    generalize hC : (c : Int) = C
    have g0 : C < 32768 := by omega
    clear hC h0 hc
    go_enter Tryz.func59, Tryz.ntmps59
    go_wp2
    go_ret
    exact ⟨rfl, Below.refl _ _⟩
  · rw [if_neg h0, sgn_is]
    have e2 : ((c / 32 % 32 : Nat) : Int) = (c : Int) / 32 % 32 := by omega
    have e3 : ((c % 32 : Nat) : Int) = (c : Int) % 32 := by omega
    refine rs_core c (c / 1024 % 32) (med (c / 32 % 32)) (fin (c % 32)) w (by omega) (by omega) (by omega) (by omega) (med_cases _ (by omega)) (fin_cases _ (by omega)) (Lib.hid fun w2 => ?_) (Lib.hid fun w2 => ?_)
    · have h := medial_any (c / 32 % 32) w2 (by omega)
      rw [e2] at h
      exact h
    · have h := final_any (c % 32) w2 (by omega)
      rw [e3] at h
      have h2 : finI (c % 32) = nI (fin (c % 32)) := by
        unfold finI nI
        rcases fin_cases (c % 32) (by omega) with h | h
        · rw [h]; rfl
        · rw [if_neg (by omega), if_neg (by omega), if_neg (by omega)]
      rw [← h2]
      exact h
end Go.Proofs.YtiigknimfibdpaaGreatDoor.jo
namespace Go.Proofs.YtiigknimfibdpaaGreatDoor.jo
open Go.RowKit Go.Lib
set_option linter.unusedVariables false
theorem medC_le (m : Nat) (h : m ≤ 20) : medC m ≤ 29 ∧ 3 ≤ medC m := by
  unfold medC; (repeat' split) <;> omega
theorem finC_le (f : Nat) (h : f ≤ 27) : finC f ≤ 29 ∧ 1 ≤ finC f := by
  unfold finC; split <;> omega
theorem aloL_has : ∀ k < 30, aloL.getD k 0 ≤ 18 ∨ (103 ≤ aloL.getD k 0 ∧ aloL.getD k 0 ≤ 118) := by decide
theorem code_le {p : Nat} (h : hasJ p) : 32768 ≤ code p ∧ code p < 65536 := by
  unfold hasJ at h
  unfold code
  by_cases h0 : 44032 ≤ p ∧ p ≤ 55203
  · rw [if_pos h0]
    have h1 := medC_le ((p - 44032) / 28 % 21) (by omega)
    have h2 := finC_le ((p - 44032) % 28) (by omega)
    omega
  · rw [if_neg h0]
    by_cases h3 : 12623 ≤ p ∧ p ≤ 12643
    · rw [if_pos h3]
      have h1 := medC_le (p - 12623) (by omega)
      omega
    · rw [if_neg h3, if_pos (by omega)]
      have h4 := aloL_has (p - 12593) (by omega)
      split
      · omega
      · have h2 := finC_le (aloL.getD (p - 12593) 0 - 100) (by omega)
        omega
end Go.Proofs.YtiigknimfibdpaaGreatDoor.jo
