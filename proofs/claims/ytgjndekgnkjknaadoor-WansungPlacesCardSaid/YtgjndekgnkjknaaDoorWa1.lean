/- The document's own answers of layer 7: Digit, In: contracts. -/
import Derived.Test.YtgjndekgnkjknaaDoorChecked
import Derived.Test.YtgjndekgnkjknaaDoorWa0
import Derived.WalkSmall
import Derived.Lib.Hide
namespace Go.Proofs.YtgjndekgnkjknaaDoor.wa
open Go.RowKit Go.Lib
set_option linter.unusedVariables false
theorem wrap64 {x : Int} (h0 : -9223372036854775808 ≤ x) (h1 : x ≤ 9223372036854775807) : IntKind.i64.wrap x = x := by simp [IntKind.wrap, IntKind.bits, IntKind.signed]; omega
theorem wrap32 {x : Int} (h0 : -2147483648 ≤ x) (h1 : x ≤ 2147483647) : IntKind.i32.wrap x = x := by simp [IntKind.wrap, IntKind.bits, IntKind.signed]; omega
theorem rInt {k : IntKind} {a b : Int} (h : a = b) : Ending.returned (.int k a) = .returned (.int k b) := by rw [h]
theorem rBool {a b : Bool} (h : a = b) : Ending.returned (.bool a) = .returned (.bool b) := by rw [h]
/-- The members' bytes. -/
def memB : ByteArray := ⟨#[101, 102, 102, 48, 55, 57, 51, 48, 51, 98, 48, 49, 49, 51, 48, 50, 56, 48, 49, 49, 51, 48, 48, 48, 48, 49, 49, 49, 101, 55, 98, 48, 53, 57, 51, 48, 51, 98, 48, 49, 49, 49, 50, 51, 98, 48, 49, 57, 55, 48, 48, 97, 48, 49, 49, 49, 48, 54, 98, 57, 53, 57, 51, 48, 50, 98, 48, 53, 49, 51, 48, 51, 50, 48, 49, 49, 49, 48, 50, 98, 48, 49, 49, 51, 48, 48, 97, 48, 49, 49, 49, 48, 54, 98, 56, 55, 57, 51, 48, 51, 48, 48, 49, 49, 51, 48, 48, 56, 48, 48, 48, 49, 48, 48, 98, 48, 49, 49, 51, 48, 48, 48, 48, 49, 49, 49, 48, 50, 98, 48, 51, 57, 51, 48, 48, 48, 48, 48, 48, 49, 52, 54, 98, 48, 53, 57, 51, 50, 51, 98, 48, 53, 49, 55, 48, 51, 98, 48, 49, 49, 51, 48, 48, 48, 48, 49, 48, 51, 48, 48, 48, 48, 48, 48, 48, 48, 51, 98, 48, 49, 49, 55, 48, 50, 57, 48, 48, 49, 51, 50, 49, 56, 48, 49, 49, 49, 48, 48, 48, 48, 48, 48, 49, 48, 101, 98, 48, 49, 53, 51, 48, 51, 48, 48, 49, 48, 51, 48, 50, 48, 48, 48, 48, 51, 48, 50, 51, 48, 49, 49, 49, 48, 48, 48, 48, 48, 48, 49, 48, 54, 98, 56, 49, 49, 51, 48, 51, 48, 48, 49, 48, 49, 48, 49, 51, 48, 49, 49, 51, 48, 48, 51, 48, 49, 49, 49, 48, 48, 48, 48, 48, 48, 49, 50, 50, 98, 56, 53, 53, 51, 48, 48, 48, 48, 48, 48, 48, 48, 50, 98, 48, 49, 49, 51, 97, 102, 98, 48, 55, 57, 55, 48, 51, 98, 48, 49, 49, 51, 48, 50, 49, 48, 49, 49, 51, 48, 48, 48, 48, 48, 48, 48, 56, 51, 98, 48, 100, 49, 98, 48, 51, 98, 48, 49, 49, 51, 49, 51, 51, 48, 49, 49, 51, 48, 48, 48, 48, 48, 49, 49, 99, 50, 98, 48, 53, 49, 51, 48, 49, 48, 48, 49, 49, 49, 48, 48, 48, 48, 48, 48, 48, 48, 48, 98, 48, 49, 49, 49, 48, 50, 97, 48, 49, 49, 51, 48, 50, 98, 48, 49, 57, 51, 48, 49, 48, 48, 48, 48, 49, 48, 48, 48, 48, 48, 48, 49, 48, 48, 51, 48, 49, 49, 49, 48, 50, 51, 48, 49, 48, 51, 52, 54, 98, 48, 55, 49, 51, 48, 48, 48, 48, 49, 49, 49, 52, 50, 98, 48, 53, 49, 51, 56, 102, 98, 56, 102, 57, 55, 48, 51, 98, 48, 49, 49, 51, 48, 48, 48, 48, 48, 48, 49, 48, 48, 48, 48, 48, 48, 48, 52, 97, 98, 48, 100, 57, 55, 48, 51, 98, 48, 49, 49, 51, 48, 51, 48, 48, 49, 49, 49, 48, 48, 48, 48, 48, 49, 49, 50, 97, 98, 49, 53, 57, 51, 48, 48, 48, 48, 49, 49, 49, 48, 49, 48, 48, 48, 48, 49, 48, 48, 98, 48, 49, 49, 49, 48, 48, 48, 48, 48, 48, 49, 48, 50, 98, 48, 49, 49, 51, 48, 49, 48, 48, 48, 48, 49, 48, 50, 48, 48, 48, 48, 49, 48, 50, 97, 48, 49, 49, 49, 48, 50, 49, 48, 49, 49, 49, 48, 50, 98, 48, 53, 57, 51, 48, 48, 48, 48, 48, 48, 49, 48, 55, 98, 48, 49, 57, 51, 56, 51, 98, 48, 49, 49, 51, 48, 51, 98, 48, 49, 49, 51, 48, 48, 48, 48, 48, 48, 48, 48, 48, 48, 48, 48, 48, 48, 56, 51, 98, 48, 100, 49, 51, 48, 51, 98, 48, 49, 49, 51, 48, 49, 48, 48, 48, 48, 49, 48, 48, 48, 48, 48, 48, 48, 48, 50, 48, 48, 49, 49, 51, 48, 48, 48, 48, 49, 48, 49, 48, 48, 48, 48, 48, 48, 49, 48, 48, 48, 48, 48, 49, 49, 48, 48, 48, 48, 48, 48, 48, 48, 50, 49, 56, 49, 49, 51, 48, 48, 48, 48, 48, 48, 48, 48, 48, 48, 48, 48, 48, 49, 48, 50, 51, 48, 49, 49, 49, 48, 48, 48, 48, 48, 48, 48, 48, 48, 98, 48, 49, 57, 51, 48, 48, 51, 48, 49, 49, 49, 48, 50, 98, 48, 49, 49, 49, 99, 55, 98, 48, 49, 49, 51, 48, 51, 98, 48, 49, 49, 51, 48, 50, 56, 48, 48, 49, 51, 48, 48, 48, 48, 48, 48, 48, 56, 51, 98, 48, 49, 49, 51, 48, 50, 98, 48, 49, 49, 51, 48, 51, 98, 48, 49, 49, 51, 48, 48, 97, 48, 48, 49, 49, 48, 50, 98, 48, 49, 49, 51, 48, 50, 48, 48, 48, 49, 49, 48, 49, 48, 48, 48, 48, 48, 48, 50, 98, 48, 49, 49, 49, 48, 50, 97, 48, 49, 49, 49, 48, 50, 98, 48, 49, 49, 51, 48, 49, 48, 48, 48, 48, 49, 48, 48, 48, 48, 48, 48, 49, 48, 50, 57, 48, 49, 49, 51, 48, 50, 98, 48, 49, 49, 51, 54, 54, 98, 48, 49, 49, 51, 48, 48, 48, 48, 48, 48, 48, 48, 50, 98, 48, 49, 49, 51, 97, 54, 98, 48, 55, 100, 51, 48, 55, 98, 48, 49, 49, 51, 48, 50, 48, 48, 49, 48, 51, 48, 48, 48, 48, 48, 48, 48, 56, 54, 98, 48, 53, 49, 51, 48, 51, 98, 48, 49, 49, 51, 48, 98, 56, 48, 49, 49, 51, 48, 48, 48, 48, 48, 48, 49, 48, 50, 98, 48, 53, 49, 98, 48, 51, 48, 48, 48, 49, 49, 48, 48, 48, 48, 48, 48, 48, 48, 50, 97, 48, 49, 49, 49, 48, 48, 97, 48, 49, 49, 49, 97, 50, 98, 48, 55, 57, 55, 48, 48, 97, 48, 49, 49, 49, 48, 48, 48, 48, 48, 48, 49, 48, 48, 48, 48, 49, 49, 49, 48, 48, 57, 48, 49, 49, 49, 48, 48, 57, 48, 49, 49, 49, 48, 48, 48, 48, 48, 48, 48, 50, 98, 98, 48, 53, 57, 51, 50, 50, 98, 48, 102, 57, 102, 50, 51, 98, 48, 49, 49, 51, 48, 48, 50, 48, 48, 49, 51, 48, 48, 48, 48, 48, 48, 48, 48, 54, 98, 48, 53, 57, 51, 48, 51, 98, 48, 49, 57, 51, 50, 51, 97, 48, 49, 49, 51, 48, 48, 48, 48, 48, 49, 49, 48, 50, 98, 48, 49, 49, 55, 48, 49, 48, 48, 48, 49, 49, 48, 49, 48, 48, 48, 48, 49, 48, 48, 51, 48, 49, 49, 51, 48, 48, 48, 48, 48, 49, 49, 54, 50, 98, 48, 55, 57, 51, 48, 49, 48, 48, 49, 48, 49, 48, 48, 48, 48, 48, 48, 49, 48, 50, 48, 48, 49, 49, 51, 48, 50, 57, 48, 49, 49, 49, 48, 48, 98, 48, 49, 49, 51, 48, 48, 48, 48, 48, 48, 48, 48, 101, 98, 48, 53, 49, 51, 56, 51, 98, 48, 53, 49, 51, 48, 51, 98, 48, 49, 49, 51, 48, 48, 49, 48, 48, 48, 51, 48, 48, 48, 48, 48, 48, 48, 48, 51, 57, 48, 49, 57, 51, 48, 50, 48, 48, 48, 48, 49, 48, 51, 98, 48, 48, 48, 51, 48, 48, 48, 48, 48, 48, 48, 48, 50, 51, 48, 49, 49, 51, 48, 48, 48, 48, 48, 48, 48, 48, 48, 48, 48, 48, 48, 48, 48, 48, 48, 48, 48, 48, 49, 48, 50, 48, 48, 48, 48, 49, 48, 50, 57, 48, 49, 49, 51, 48, 48, 48, 48, 48, 48, 48, 48, 48, 48, 48, 48, 48, 48, 48, 48, 48, 48, 48, 48, 48, 48, 50, 48, 48, 48, 48, 49, 48, 48, 51, 48, 49, 49, 49, 48, 48, 48, 48, 48, 48, 48, 48, 50, 98, 48, 49, 49, 51, 50, 51, 98, 48, 55, 57, 98, 48, 51, 98, 48, 49, 49, 51, 48, 50, 98, 48, 49, 49, 51, 48, 50, 49, 48, 49, 49, 49, 52, 51, 98, 48, 100, 57, 102, 48, 51, 98, 48, 49, 49, 51, 48, 51, 98, 48, 49, 49, 51, 48, 50, 48, 48, 49, 49, 49, 50, 50, 98, 48, 53, 49, 55, 48, 50, 48, 48, 49, 49, 51, 48, 49, 57, 48, 49, 49, 49, 48, 48, 98, 48, 49, 49, 49, 48, 50, 98, 48, 49, 49, 51, 54, 97, 98, 48, 49, 57, 51, 48, 49, 48, 48, 48, 48, 49, 48, 50, 49, 48, 49, 49, 51, 48, 50, 98, 48, 49, 49, 51, 48, 50, 57, 48, 49, 48, 51, 48, 50, 98, 48, 51, 49, 51, 48, 48, 48, 48, 48, 48, 48, 52, 50, 98, 56, 49, 57, 51, 56, 51, 51, 48, 49, 49, 98, 48, 51, 51, 48, 49, 49, 51, 48, 50, 48, 48, 48, 48, 48, 48, 48, 48, 48, 48, 48, 48, 48, 51, 51, 48, 53, 49, 51, 48, 48, 48, 48, 49, 49, 49, 48, 48, 48, 48, 48, 48, 48, 48, 48, 48, 48, 48, 49, 48, 48, 50, 51, 48, 53, 57, 51, 48, 49, 48, 48, 48, 49, 51, 48, 49, 48, 48, 48, 48, 49, 48, 48, 51, 48, 49, 49, 49, 48, 48, 48, 48, 48, 48, 49, 48, 50, 51, 48, 49, 49, 51, 48, 49, 48, 48, 48, 48, 49, 48, 48, 48, 48, 48, 48, 49, 48, 48, 48, 48, 48, 49, 49, 48, 50, 48, 48, 48, 48, 48, 48, 48, 51, 56, 53, 49, 51, 48, 48, 49, 48, 49, 49, 49, 48, 50, 98, 48, 49, 49, 51, 54, 51, 98, 56, 55, 55, 51, 48, 51, 98, 48, 49, 49, 51, 97, 50, 98, 48, 57, 49, 51, 48, 48, 50, 48, 49, 49, 49, 53, 55, 102, 48, 55, 98, 51, 48, 50, 98, 48, 49, 49, 51, 101, 51, 102, 48, 100, 49, 55, 48, 49, 98, 48, 49, 49, 49, 48, 97, 98, 57, 55, 49, 51, 48, 51, 98, 48, 49, 49, 51, 48, 50, 57, 48, 48, 49, 51, 48, 50, 98, 48, 49, 49, 51, 48, 50, 98, 48, 49, 49, 51, 48, 50, 98, 48, 55, 49, 51, 48, 51, 51, 48, 49, 49, 51, 48, 50, 51, 48, 49, 49, 51, 48, 50, 98, 48, 49, 49, 51, 48, 97, 98, 48, 49, 49, 51, 102, 101, 98, 52, 49, 49, 51, 48, 48, 57, 48, 49, 49, 49, 52, 55, 98, 56, 55, 49, 51, 48, 55, 98, 48, 53, 100, 51, 48, 51, 98, 48, 49, 49, 51, 48, 50, 49, 48, 49, 53, 51, 48, 48, 48, 48, 49, 49, 49, 48, 54, 98, 48, 53, 49, 51, 48, 50, 98, 48, 49, 49, 51, 48, 51, 51, 48, 49, 49, 49, 48, 48, 48, 48, 48, 48, 49, 56, 101, 98, 48, 53, 49, 51, 48, 50, 97, 48, 49, 48, 51, 48, 51, 48, 48, 48, 48, 49, 48, 50, 98, 48, 49, 49, 49, 48, 50, 48, 48, 48, 49, 51, 48, 50, 98, 48, 55, 49, 51, 48, 49, 48, 48, 48, 48, 49, 48, 48, 48, 48, 48, 48, 49, 48, 48, 98, 48, 49, 49, 51, 48, 48, 49, 48, 49, 49, 49, 48, 50, 98, 48, 49, 49, 51, 48, 48, 48, 48, 48, 48, 48, 54, 54, 98, 48, 53, 57, 51, 48, 51, 98, 48, 57, 53, 51, 48, 51, 98, 48, 49, 49, 51, 48, 50, 48, 48, 48, 49, 49, 48, 48, 48, 48, 48, 48, 48, 48, 51, 98, 48, 49, 49, 51, 48, 50, 48, 48, 48, 48, 49, 48, 49, 48, 48, 48, 48, 49, 48, 48, 48, 48, 48, 48, 48, 48, 97, 98, 48, 49, 49, 51, 48, 49, 48, 48, 49, 48, 51, 48, 49, 48, 48, 48, 48, 49, 48, 48, 51, 48, 49, 49, 49, 48, 50, 48, 48, 48, 48, 48, 48, 50, 51, 48, 49, 49, 51, 48, 51, 48, 48, 48, 48, 49, 48, 48, 48, 48, 48, 48, 48, 48, 48, 48, 48, 48, 48, 49, 48, 48, 48, 48, 48, 48, 49, 48, 50, 57, 48, 48, 48, 49, 48, 48, 48, 48, 48, 48, 48, 56, 54, 51, 48, 49, 49, 51, 48, 55, 98, 48, 49, 53, 51, 48, 51, 98, 48, 49, 49, 51, 48, 50, 49, 48, 49, 53, 49, 48, 48, 48, 48, 48, 48, 48, 48, 51, 98, 48, 49, 49, 51, 48, 50, 98, 48, 49, 49, 51, 48, 49, 48, 48, 48, 49, 49, 48, 50, 48, 48, 48, 49, 49, 48, 50, 98, 48, 49, 49, 51, 48, 50, 48, 48, 49, 49, 49, 48, 48, 48, 48, 48, 48, 48, 48, 50, 98, 48, 49, 49, 49, 48, 48, 49, 48, 48, 48, 49, 48, 50, 98, 48, 49, 49, 51, 48, 49, 48, 48, 48, 48, 49, 48, 48, 48, 48, 48, 49, 49, 48, 50, 98, 48, 49, 49, 49, 48, 50, 49, 48, 49, 49, 49, 48, 50, 98, 48, 49, 49, 51, 48, 48, 48, 48, 48, 48, 48, 48, 50, 98, 48, 51, 57, 51, 48, 50, 98, 48, 49, 49, 51, 48, 51, 98, 48, 49, 49, 51, 48, 50, 48, 48, 48, 48, 51, 48, 48, 48, 48, 48, 48, 48, 48, 51, 98, 48, 49, 57, 51, 48, 50, 98, 48, 49, 49, 51, 48, 51, 98, 48, 49, 49, 49, 48, 48, 48, 48, 48, 48, 49, 48, 50, 98, 48, 49, 49, 51, 48, 50, 49, 48, 49, 49, 51, 48, 50, 48, 48, 48, 48, 49, 48, 48, 48, 48, 49, 48, 49, 48, 48, 48, 48, 48, 48, 49, 48, 50, 98, 48, 49, 49, 51, 48, 50, 48, 48, 49, 49, 49, 48, 50, 48, 48, 48, 48, 49, 48, 50, 98, 48, 49, 49, 51, 48, 48, 49, 48, 49, 49, 49, 48, 50, 51, 48, 49, 49, 51, 48, 48, 48, 48, 48, 48, 48, 48, 50, 98, 48, 49, 49, 51, 48, 51, 98, 48, 51, 49, 51, 48, 51, 98, 48, 49, 49, 51, 48, 50, 48, 48, 48, 48, 49, 48, 48, 48, 48, 48, 48, 48, 48, 51, 98, 48, 53, 49, 51, 48, 50, 98, 48, 49, 49, 51, 48, 49, 48, 48, 48, 49, 49, 48, 48, 48, 48, 48, 49, 49, 52, 50, 98, 48, 49, 49, 51, 48, 48, 48, 48, 48, 49, 49, 48, 48, 48, 48, 48, 48, 49, 48, 50, 56, 48, 48, 49, 49, 48, 48, 48, 48, 48, 48, 49, 48, 50, 98, 48, 49, 49, 51, 48, 49, 48, 48, 48, 48, 49, 48, 48, 48, 48, 48, 48, 49, 48, 50, 51, 48, 49, 49, 51, 48, 50, 49, 48, 49, 49, 49, 48, 48, 98, 48, 53, 57, 51, 48, 48, 51, 48, 49, 49, 49, 48, 50, 98, 48, 49, 49, 51, 50, 51, 98, 48, 53, 49, 55, 48, 51, 98, 48, 49, 49, 51, 48, 48, 48, 48, 48, 48, 51, 48, 48, 48, 48, 48, 48, 48, 48, 51, 98, 48, 49, 49, 51, 48, 50, 98, 48, 49, 49, 51, 48, 51, 51, 48, 49, 49, 49, 48, 48, 97, 48, 49, 48, 49, 48, 50, 98, 48, 49, 49, 51, 48, 50, 48, 48, 48, 48, 49, 48, 48, 48, 48, 48, 48, 48, 48, 48, 48, 48, 48, 49, 49, 48, 48, 97, 48, 49, 49, 49, 48, 50, 98, 48, 53, 57, 51, 48, 50, 48, 48, 48, 48, 49, 48, 48, 48, 48, 48, 48, 48, 48, 48, 57, 48, 49, 49, 49, 48, 50, 57, 48, 49, 49, 49, 48, 48, 98, 48, 49, 49, 49, 48, 48, 48, 48, 48, 48, 48, 48, 50, 98, 48, 49, 49, 51, 48, 50, 98, 50, 49, 49, 51, 48, 51, 98, 48, 49, 49, 51, 48, 50, 48, 48, 48, 48, 49, 48, 48, 48, 48, 48, 48, 48, 48, 50, 98, 48, 53, 49, 51, 48, 50, 98, 48, 49, 49, 51, 48, 51, 98, 48, 49, 49, 51, 48, 48, 50, 48, 49, 49, 49, 50, 50, 98, 50, 49, 49, 51, 48, 50, 56, 48, 49, 49, 51, 48, 50, 56, 48, 48, 49, 51, 48, 50, 97, 48, 49, 49, 51, 48, 48, 97, 48, 49, 49, 49, 48, 50, 57, 50, 49, 49, 51, 48, 50, 49, 48, 49, 49, 49, 48, 50, 48, 48, 49, 49, 51, 48, 50, 98, 48, 49, 49, 51, 48, 50, 57, 48, 49, 49, 51, 50, 50, 98, 48, 51, 100, 51, 48, 50, 51, 48, 49, 49, 49, 48, 50, 98, 48, 49, 49, 51]⟩
/-- A digit of base sixteen. -/
def dg (c : Nat) : Nat := if 97 ≤ c then c - 97 + 10 else c - 48
theorem digit_any (c : Nat) (w : World) (h0 : 48 ≤ c) (h1 : c < 256) : Calls Tryd.prog 24 #[.int .u8 c] w fun e w' => e = .returned (.int .i64 ((dg c : Nat) : Int)) ∧ w = w' := by
  unfold dg
  have g0 : (48 : Int) ≤ (c : Int) := by omega
  have g1 : (c : Int) < 256 := by omega
  by_cases h : 97 ≤ c
  · rw [if_pos h]
    have g2 : (97 : Int) ≤ (c : Int) := by omega
    have e : Hid (((c - 97 + 10 : Nat) : Int) = (c : Int) - 97 + 10) := Lib.hid (by omega)
    go_enter Tryd.func24, Tryd.ntmps24
    go_wp2
    go_ret
    exact ⟨rInt (by rw [e.out]), rfl⟩
  · rw [if_neg h]
    have g2 : ¬ (97 : Int) ≤ (c : Int) := by omega
    have e : Hid (((c - 48 : Nat) : Int) = (c : Int) - 48) := Lib.hid (by omega)
    go_enter Tryd.func24, Tryd.ntmps24
    go_wp2
    go_ret
    exact ⟨rInt (by rw [e.out]), rfl⟩
/-- Digits, the highest first, as a number; one of them. -/
def num16 (l : List Nat) : Nat := l.foldl (fun a d => a * 16 + d) 0
theorem fold16 : ∀ (l : List Nat) (a : Nat), l.foldl (fun a d => a * 16 + d) a = a * 16 ^ l.length + num16 l
  | [], a => by simp [num16]
  | d :: l, a => by
    have e : num16 (d :: l) = l.foldl (fun a d => a * 16 + d) (0 * 16 + d) := rfl
    rw [List.foldl_cons, fold16 l (a * 16 + d), e, fold16 l (0 * 16 + d), List.length_cons, Nat.pow_succ, Nat.add_mul, Nat.zero_mul, Nat.zero_add, Nat.mul_assoc, Nat.mul_comm 16]
    omega
theorem num16_lt : ∀ (l : List Nat), (∀ d ∈ l, d < 16) → num16 l < 16 ^ l.length
  | [], _ => by simp [num16]
  | d :: l, h => by
    have e : num16 (d :: l) = l.foldl (fun a d => a * 16 + d) (0 * 16 + d) := rfl
    have h1 := num16_lt l (fun x hx => h x (List.mem_cons_of_mem _ hx))
    have h2 := h d List.mem_cons_self
    rw [e, fold16 l, List.length_cons, Nat.pow_succ, Nat.zero_mul, Nat.zero_add]
    have h3 : d * 16 ^ l.length ≤ 15 * 16 ^ l.length := Nat.mul_le_mul_right _ (by omega)
    omega
theorem digit_of : ∀ (l : List Nat), (∀ d ∈ l, d < 16) → ∀ i, i < l.length → num16 l / 16 ^ (l.length - 1 - i) % 16 = l.getD i 0
  | [], _, i, h => by simp at h
  | d :: l, h, i, hi => by
    have e : num16 (d :: l) = l.foldl (fun a d => a * 16 + d) (0 * 16 + d) := rfl
    have h1 := num16_lt l (fun x hx => h x (List.mem_cons_of_mem _ hx))
    have h2 := h d List.mem_cons_self
    rw [e, fold16 l, Nat.zero_mul, Nat.zero_add, List.length_cons, Nat.add_sub_cancel]
    cases i with
    | zero =>
      rw [Nat.sub_zero, Nat.mul_comm, Nat.mul_add_div (Nat.pow_pos (by omega)), Nat.div_eq_of_lt h1, Nat.add_zero]
      simp; omega
    | succ i =>
      have hi' : i < l.length := by simpa using hi
      have ih := digit_of l (fun x hx => h x (List.mem_cons_of_mem _ hx)) i hi'
      rw [show l.length - (i + 1) = l.length - 1 - i by omega]
      have e2 : 16 ^ l.length = 16 ^ (l.length - 1 - i) * (16 * 16 ^ i) := by
        rw [← Nat.pow_succ', ← Nat.pow_add]; congr 1; omega
      rw [e2, show d * (16 ^ (l.length - 1 - i) * (16 * 16 ^ i)) = 16 ^ (l.length - 1 - i) * (16 * (d * 16 ^ i)) by
        rw [Nat.mul_left_comm d, Nat.mul_left_comm d], Nat.mul_add_div (Nat.pow_pos (by omega)), Nat.add_mod, Nat.mul_mod_right, Nat.zero_add, Nat.mod_mod, ih]
      simp
def memD : List Nat := memB.data.toList.map fun c => dg c.toNat
theorem memB_size : memB.size = 2793 := by decide +kernel
theorem memB_all : memB.data.toList.all (fun c => decide (48 ≤ c.toNat ∧ dg c.toNat < 16)) = true := by decide +kernel
theorem mem_num : num16 memD = mem := by decide +kernel
theorem mem_at (i : Nat) (h : i < memB.size) : 48 ≤ (memB[i]).toNat ∧ dg (memB[i]).toNat = mem / 16 ^ (2792 - i) % 16 := by
  have hs := memB_size
  have hl : memB.data.toList.length = 2793 := by rw [Array.length_toList]; exact hs
  have hg : memB.data.toList[i]? = some (memB[i]) := by rw [Array.getElem?_toList]; exact Array.getElem?_eq_getElem h
  have ha := List.all_eq_true.1 memB_all _ (List.mem_of_getElem? hg)
  rw [decide_eq_true_eq] at ha
  refine ⟨ha.1, ?_⟩
  have hd : ∀ d ∈ memD, d < 16 := fun d hd => by
    obtain ⟨c, hc, rfl⟩ := List.mem_map.1 hd
    have := List.all_eq_true.1 memB_all c hc
    rw [decide_eq_true_eq] at this
    exact this.2
  have hl2 : memD.length = 2793 := by unfold memD; rw [List.length_map, hl]
  have h1 := digit_of memD hd i (by omega)
  rw [mem_num, hl2] at h1
  rw [show 2792 - i = 2793 - 1 - i by omega, h1]
  unfold memD
  simp [List.getD, List.getElem?_map, hg]
/-- A bit of a number, by its digit. -/
theorem bit_of (m e b : Nat) (h : b < 4) : m / 16 ^ e % 16 / 2 ^ b % 2 = m / 2 ^ (4 * e + b) % 2 := by
  have e1 : 16 ^ e = 2 ^ (4 * e) := by rw [Nat.pow_mul]
  rw [e1, Nat.pow_add, ← Nat.div_div_eq_div_mul]
  generalize m / 2 ^ (4 * e) = x
  have hb : b = 0 ∨ b = 1 ∨ b = 2 ∨ b = 3 := by omega
  rcases hb with rfl | rfl | rfl | rfl <;> omega
theorem digit_mem (i : Nat) (h : i < memB.size) (w : World) : Calls Tryd.prog 24 #[.int .u8 ((memB[i]).toNat : Int)] w fun e w' => e = .returned (.int .i64 ((mem / 16 ^ (2792 - i) % 16 : Nat) : Int)) ∧ w = w' := by
  have h1 := mem_at i h
  have h2 := digit_any (memB[i]).toNat w h1.1 (memB[i]).toNat_lt
  rw [h1.2] at h2
  exact h2
theorem index_at (t : TypeId) (s : ByteArray) (i : Nat) (hi : i < s.size) (w : World) (h : Tryd.prog.underlying t = some .string) : (Instr.index t (.string s) (.int .i64 (i : Int))).run Tryd.prog w = .ok (.int .u8 ((s[i]).toNat : Int)) w := by
  rw [run_index_string w t s .i64 i h]
  simp [hi]
theorem half_half (x b : Nat) : x / 2 ^ b / 2 = x / 2 ^ (b + 1) := by rw [Nat.pow_succ, Nat.div_div_eq_div_mul]
set_option maxRecDepth 100000 in
set_option maxHeartbeats 2000000 in
theorem in_any (n : Nat) (w : World) (hn : n < 11172) : Calls Tryd.prog 9 #[.int .i64 n] w fun e w' => e = .returned (.bool (inB n)) ∧ w = w' := by
  have h0 : (0 : Int) ≤ (n : Int) := by omega
  have h1 : (n : Int) < 11172 := by omega
  obtain ⟨i, hi⟩ : ∃ i : Nat, i = n / 28 * 7 + 6 - n % 28 / 4 := ⟨_, rfl⟩
  have him : i < memB.size := by rw [memB_size]; omega
  obtain ⟨r, hr⟩ : ∃ r : Nat, r = n % 28 % 4 := ⟨_, rfl⟩
  have hV : Hid (∀ d : Nat, d = mem / 16 ^ (2792 - i) % 16 / 2 ^ r → ((d : Int) % 2 == 1) = inB n) := Lib.hid (fun d hd => by
    unfold inB
    have e := bit_of mem (2792 - i) r (by omega)
    rw [show 4 * (2792 - i) + r = 28 * (398 - n / 28) + n % 28 by omega] at e
    rw [← e, ← hd]
    rcases Nat.mod_two_eq_zero_or_one d with h | h
    · rw [h, show ((d : Int) % 2) = 0 by omega]; rfl
    · rw [h, show ((d : Int) % 2) = 1 by omega]; rfl)
  have HD := Lib.hid (fun w2 => digit_mem i him w2)
  have hix := fun wx => index_at 9 memB i him wx Tryd.underlying9
  generalize ((memB[i]).toNat : Int) = C at *
  unfold memB at hix
  obtain ⟨D, hD⟩ : ∃ D : Nat, D = mem / 16 ^ (2792 - i) % 16 := ⟨_, rfl⟩
  rw [← hD] at HD hV
  have hD16 : D < 16 := by rw [hD]; exact Nat.mod_lt _ (by omega)
  have ei : (n : Int) / 28 * 7 + 6 - (n : Int) % 28 / 4 = (i : Int) := by omega
  have er : (n : Int) % 28 % 4 = (r : Int) := by omega
  have r0 : (r : Int) < 4 := by omega
  generalize inB n = V at *
  clear hi hr hD him
  go_enter Tryd.func9, Tryd.ntmps9
  go_wp2_with (go_at_call 24; refine (HD.out _).mono ?_; rintro e2 w2 ⟨rfl, rfl⟩)
  go_loopw [4, 5] (fun d t wr => ∃ j x : Nat, j ≤ r ∧ Hid (x = D / 2 ^ j) ∧ t = .int .i64 j ∧ d = .int .i64 x ∧ w = wr) (fun _ t _ => r - (RowKit.intOf t).toNat)
  case atStart => exact ⟨0, D, Nat.zero_le _, Lib.hid (by simp), rfl, rfl, rfl⟩
  case round =>
    obtain ⟨j, x, hj, hx, rfl, rfl, rfl⟩ := hrel
    have hx16 : x < 16 := by rw [hx.out]; exact Nat.lt_of_le_of_lt (Nat.div_le_self _ _) hD16
    by_cases hlt : j < r
    · have g1 : (j : Int) < (r : Int) := by omega
      obtain ⟨y, hy⟩ : ∃ y : Nat, y = x / 2 := ⟨_, rfl⟩
      have e2 : (x : Int) / 2 = (y : Int) := by omega
      have hyx : Hid (y = D / 2 ^ (j + 1)) := Lib.hid (by rw [hy, hx.out, half_half])
      have y0 : (y : Int) < 16 := by omega
      clear hy
      go_wp2_with fail
      go_roundw
      case rel => exact ⟨j + 1, y, by omega, hyx, by go_num, rfl, by first | rfl | trivial⟩
      case measure => simp [RowKit.intOf]; omega
    · obtain rfl : j = r := by omega
      have hv := Lib.hid (hV.out x hx.out)
      go_wp2_with fail
      go_ret
      exact ⟨rBool hv.out, rfl⟩
end Go.Proofs.YtgjndekgnkjknaaDoor.wa
