/- Same of the laws of layer 2; Text of a row: contracts. -/
import Derived.Test.YtiokdeomdeenbaaDoorPt5
import Derived.Deep.DrawnRows
namespace Go.Proofs.YtiokdeomdeenbaaDoor.pt
open Go.RowKit Go.Lib
set_option linter.unusedVariables false
/-- A slice of numbers, none or a row. -/
def RowI (w : World) (p : Option Addr) (len cap : Nat) (zs : List Int) : Prop :=
  (p = none ∧ len = 0 ∧ cap = 0 ∧ zs = []) ∨ ∃ a, p = some a ∧ len ≤ cap ∧ cap ≤ maxLen ∧ zs.length = len ∧ ∀ i, i < len → w.cell? (a.add i) = some (.int .i32 (zs.getD i 0))
theorem RowI.len {w : World} {p : Option Addr} {len cap : Nat} {zs : List Int} (h : RowI w p len cap zs) : zs.length = len := by
  rcases h with ⟨_, h1, _, h2⟩ | ⟨a, _, _, _, h, _⟩
  · rw [h1, h2]; rfl
  · exact h
theorem RowI.below {w w' : World} {p : Option Addr} {len cap : Nat} {zs : List Int} (h : RowI w p len cap zs) (hb : Below w.heap.size w w') : RowI w' p len cap zs := by
  rcases h with h | ⟨a, h1, h2, h3, h4, h5⟩
  · exact .inl h
  · exact .inr ⟨a, h1, h2, h3, h4, fun i hi => (hb.cell (World.block_lt_of_cell? w _ (h5 i hi))).trans (h5 i hi)⟩
theorem RowI.at {w : World} {p : Option Addr} {len cap : Nat} {zs : List Int} (h : RowI w p len cap zs) (i : Nat) (hi : i < len) : ∃ a, p = some a ∧ len ≤ cap ∧ cap ≤ maxLen ∧ w.cell? (a.add i) = some (.int .i32 (zs.getD i 0)) := by
  rcases h with ⟨_, h1, _, _⟩ | ⟨a, h1, h2, h3, _, h5⟩
  · omega
  · exact ⟨a, h1, h2, h3, h5 i hi⟩
set_option maxRecDepth 100000 in
theorem text_nil (w : World) : Calls Tryd.prog 55 #[.slice none 0 0] w fun e w' => e = .returned (.tuple #[.string ⟨#[]⟩, .bool true]) ∧ Below w.heap.size w w' := by
  have hmk : ∀ w2, (Instr.makeSlice 101 (.int .i64 0) (.int .i64 0)).run Tryd.prog w2 = _ := fun w2 => mk_bytes 0 (by decide) w2
  have hcv := conv_row (w.alloc (.cells (madeCells #[.int .u8 0] 0) 5)) w.heap.size (.slice (some ⟨w.heap.size, 0, none⟩) 0 0) [] (World.ownsRow_made w _ 0 (Nat.le_refl _) (by unfold maxLen; omega) (by simp [madeCells]))
  have e0 : strOfNums [] = ⟨#[]⟩ := rfl
  rw [e0] at hcv
  go_enter Tryd.func55, Tryd.ntmps55
  go_wp2_with fail
  refine wp_loop_rounds 1 ?_
  rw [rounds_succ]
  go_wp2_with fail
  go_ret2
  exact ⟨rfl, by repeat (first | (with_reducible exact Below.refl _ _) | (with_reducible refine Below.setCell ?_ (by simp) _) | (with_reducible refine Below.alloc ?_ (by simp) _))⟩
theorem text_row (p : Option Addr) (n c : Nat) (zs : List Int) (w : World) (h : RowI w p n c zs) (hn : n ≤ 4000) : Calls Tryd.prog 55 #[.slice p n c] w fun e w' => e = .returned (.tuple #[.string (if zs.all validRune then txt zs else ⟨#[]⟩), .bool (zs.all validRune)]) ∧ Below w.heap.size w w' := by
  rcases h with ⟨rfl, rfl, rfl, rfl⟩ | ⟨a, rfl, h1, h2, h3, h4⟩
  · exact text_nil w
  · exact text_any a n c zs w h3 h1 h2 hn h4
end Go.Proofs.YtiokdeomdeenbaaDoor.pt
