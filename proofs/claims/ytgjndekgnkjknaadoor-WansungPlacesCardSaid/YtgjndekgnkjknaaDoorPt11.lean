/- Same of the laws of layer 2; Text of a row: contracts. -/
import Derived.Test.YtgjndekgnkjknaaDoorPt5
import Derived.Deep.DrawnRows
namespace Go.Proofs.YtgjndekgnkjknaaDoor.pt
open Go.RowKit Go.Lib
set_option linter.unusedVariables false
/-- A slice of numbers, none or a row. -/
def RowI (w : World) (p : Option Addr) (len cap : Nat) (zs : List Int) : Prop :=
  (p = none ∧ len = 0 ∧ cap = 0 ∧ zs = []) ∨ ∃ a, p = some a ∧ len ≤ cap ∧ cap ≤ maxLen ∧ zs.length = len ∧ ∀ i, i < len → w.cell? (a.add i) = some (.int .i32 (zs.getD i 0))
theorem RowI.len {w : World} {p : Option Addr} {len cap : Nat} {zs : List Int} (h : RowI w p len cap zs) : zs.length = len := by
  rcases h with ⟨_, h1, _, h2⟩ | ⟨a, _, _, _, h, _⟩
  · rw [h1, h2]; rfl
  · exact h
theorem RowI.below {w w' : World} {p : Option Addr} {len cap : Nat} {zs : List Int} (h : RowI w p len cap zs) (hb : Below w.heap.size w w') : RowI w' p len cap zs := by
  rcases h with h | ⟨a, h1, h2, h3, h4, h5⟩
  · exact .inl h
  · exact .inr ⟨a, h1, h2, h3, h4, fun i hi => (hb.cell (World.block_lt_of_cell? w _ (h5 i hi))).trans (h5 i hi)⟩
theorem RowI.at {w : World} {p : Option Addr} {len cap : Nat} {zs : List Int} (h : RowI w p len cap zs) (i : Nat) (hi : i < len) : ∃ a, p = some a ∧ len ≤ cap ∧ cap ≤ maxLen ∧ w.cell? (a.add i) = some (.int .i32 (zs.getD i 0)) := by
  rcases h with ⟨_, h1, _, _⟩ | ⟨a, h1, h2, h3, _, h5⟩
  · omega
  · exact ⟨a, h1, h2, h3, h5 i hi⟩
end Go.Proofs.YtgjndekgnkjknaaDoor.pt
