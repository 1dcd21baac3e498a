/- The reader of layer 1 where it is none (nil), and the small calls that every reader goes through: contracts. -/
import Derived.Test.YtgjndekgnkjknaaDoorChecked
import Derived.WalkKit
import Derived.WalkSmall
import Derived.BigQuiet
import Derived.Deep.QuietTactic
import Derived.Lib.Hide
namespace Go.Proofs.YtgjndekgnkjknaaDoor.oct
open Go.RowKit
theorem ret_int {k : IntKind} {a b : Int} (h : a = b) : Ending.returned (.int k a) = .returned (.int k b) := by rw [h]

theorem bounded_any (n : Int) (w : World) (h0 : -9223372036854775808 ≤ n) (h1 : n ≤ 9223372036854775807) : Calls Tryd.prog 47 #[.int .i64 n] w fun e w' => e = .returned (.int .i64 (min (max n 0) 8)) ∧ w = w' := by
  go_enter Tryd.func47, Tryd.ntmps47
  go_wp2
  all_goals
    go_ret
    exact ⟨ret_int (by omega), rfl⟩
end Go.Proofs.YtgjndekgnkjknaaDoor.oct
