/- Rows of pairs of layer 4; the document's answer: Find, Reverse: contracts. -/
import Derived.Test.YtmpddibdggdngaaDoorTb0
import Derived.Test.YtmpddibdggdngaaDoorChecked
import Derived.WalkSmall
import Derived.BigQuiet
import Derived.Deep.QuietTactic
import Derived.Lib.Hide
namespace Go.Proofs.YtmpddibdggdngaaDoor.tb
open Go.RowKit Go.Lib
set_option linter.unusedVariables false
theorem add_of (a : Addr) (i j : Nat) : (a.add i).add j = a.add (i + j) := by
  unfold Addr.add
  by_cases hi : i = 0 <;> by_cases hj : j = 0 <;> simp [hi, hj, Nat.add_assoc]
/-- A slice of pairs, none or a row. -/
def RowP (w : World) (A : Option Addr) (n c : Nat) (l : List (Int × Int)) : Prop :=
  (A = none ∧ n = 0 ∧ c = 0 ∧ l = []) ∨ ∃ a, A = some a ∧ n ≤ c ∧ c ≤ maxLen ∧ l.length = n ∧ ∀ i, i < n → w.cell? (a.add (i * 2)) = some (.int .i64 (l.getD i (0, 0)).1) ∧ w.cell? ((a.add (i * 2)).add 1) = some (.int .i32 (l.getD i (0, 0)).2)
theorem RowP.len {w : World} {A : Option Addr} {n c : Nat} {l : List (Int × Int)} (h : RowP w A n c l) : l.length = n := by
  rcases h with ⟨_, h1, _, h2⟩ | ⟨a, _, _, _, h, _⟩
  · rw [h1, h2]; rfl
  · exact h
theorem RowP.below {w w' : World} {A : Option Addr} {n c : Nat} {l : List (Int × Int)} (h : RowP w A n c l) (hb : Below w.heap.size w w') : RowP w' A n c l := by
  rcases h with h | ⟨a, h1, h2, h3, h4, h5⟩
  · exact .inl h
  · exact .inr ⟨a, h1, h2, h3, h4, fun i hi => ⟨(hb.cell (World.block_lt_of_cell? w _ (h5 i hi).1)).trans (h5 i hi).1, (hb.cell (World.block_lt_of_cell? w _ (h5 i hi).2)).trans (h5 i hi).2⟩⟩
theorem RowP.at {w : World} {A : Option Addr} {n c : Nat} {l : List (Int × Int)} (h : RowP w A n c l) (i : Nat) (hi : i < n) : ∃ a, A = some a ∧ n ≤ c ∧ c ≤ maxLen ∧ w.cell? (a.add (i * 2)) = some (.int .i64 (l.getD i (0, 0)).1) ∧ w.cell? ((a.add (i * 2)).add 1) = some (.int .i32 (l.getD i (0, 0)).2) := by
  rcases h with ⟨_, h1, _, _⟩ | ⟨a, h1, h2, h3, _, h5⟩
  · omega
  · exact ⟨a, h1, h2, h3, (h5 i hi).1, (h5 i hi).2⟩
theorem ret_int {k : IntKind} {a b : Int} (h : a = b) : Ending.returned (.int k a) = .returned (.int k b) := by rw [h]
end Go.Proofs.YtmpddibdggdngaaDoor.tb
