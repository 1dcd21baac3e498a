/- The document's answer of layer 5: Nth, Sign, Byte: contracts. -/
import Derived.Test.YtmpddibdggdngaaDoorSg0
namespace Go.Proofs.YtmpddibdggdngaaDoor.sg
open Go.RowKit Go.Lib
set_option linter.unusedVariables false
theorem ret_int {k : IntKind} {a b : Int} (h : a = b) : Ending.returned (.int k a) = .returned (.int k b) := by rw [h]
/-- Where a byte stands among those that differ. -/
theorem sgn_rus (c : Int) (n : Nat) (hc : c = 1 ∨ c = 2) (h : 128 ≤ n) (hx : c = 2 → n ≠ 164 ∧ n ≠ 166 ∧ n ≠ 167 ∧ n ≠ 173 ∧ n ≠ 180 ∧ n ≠ 182 ∧ n ≠ 183 ∧ n ≠ 189) : sgn c n = ((rusL.getD (n - 128) 0 : Nat) : Int) := by
  unfold sgn
  rw [if_neg (by omega), if_neg (by omega), if_neg (by omega), if_neg (by omega), if_neg (by omega), if_neg (by omega), if_neg (by omega), if_neg (by omega), if_neg (by omega), if_neg (by omega)]
end Go.Proofs.YtmpddibdggdngaaDoor.sg
