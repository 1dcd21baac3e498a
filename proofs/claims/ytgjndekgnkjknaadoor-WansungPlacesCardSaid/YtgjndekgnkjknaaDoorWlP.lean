/- The walks of Ranks and Places, at the landed code. -/
import Derived.Test.YtgjndekgnkjknaaDoorWl6
import Derived.Test.YtgjndekgnkjknaaDoorWa7
import Derived.Test.YtgjndekgnkjknaaDoorWa8
import Derived.OpenShut
namespace Go.Proofs.YtgjndekgnkjknaaDoor.wa
open Go.RowKit
theorem ranks_in (p : Int) (w : World) (hp : (Lit.int .i32 p).wf = true) (hT : pt.Tabs w) : Calls Tryd.prog 3 #[.int .i32 p] w fun e w' => e = .returned (.bool true) ∧ Below w.heap.size w w' := by
  have h := bounds_i32 hp
  exact ranks_walk pl_land p w (by omega) (by omega) hT
theorem places_in (k : Int) (w : World) (hp : (Lit.int .i64 k).wf = true) (hT : pt.Tabs w) : Calls Tryd.prog 4 #[.int .i64 k] w fun e w' => e = .returned (.bool true) ∧ Below w.heap.size w w' := by
  have h := bounds_i64 hp
  exact places_walk pl_land k w (by omega) (by omega) hT
end Go.Proofs.YtgjndekgnkjknaaDoor.wa
