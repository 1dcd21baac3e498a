/- Check of layer 2: a contract. -/
import Derived.Test.YtgjndekgnkjknaaDoorPt0
namespace Go.Proofs.YtgjndekgnkjknaaDoor.pt
open Go.RowKit Go.Lib
set_option linter.unusedVariables false
/-- A fault by a place. -/
def fe : Option Nat → Int
  | none => 0
  | some _ => 2
def fa : Option Nat → Int
  | none => 0
  | some a => (a : Int)
/-- A block of two numbers. -/
structure F2 (w : World) (b : Nat) (x y : Int) : Prop where
  lt : b < w.heap.size
  c0 : w.cell? ⟨b, 0, none⟩ = some (.int .i64 x)
  c1 : w.cell? ⟨b, 1, none⟩ = some (.int .i64 y)
  f0 : w.frozen? ⟨b, 0, none⟩ = false
  f1 : w.frozen? ⟨b, 1, none⟩ = false
theorem F2.below {w w' : World} {b B : Nat} {x y : Int} (h : F2 w b x y) (hb : Below B w w') (hB : b < B) : F2 w' b x y := by
  have H : ∀ o, w'.cell? ⟨b, o, none⟩ = w.cell? ⟨b, o, none⟩ := fun o => hb.cell (p := ⟨b, o, none⟩) hB
  have F : ∀ o, w'.frozen? ⟨b, o, none⟩ = w.frozen? ⟨b, o, none⟩ := fun o => hb.frozen (p := ⟨b, o, none⟩) hB
  exact ⟨Nat.lt_of_lt_of_le h.lt hb.size, (H 0).trans h.c0, (H 1).trans h.c1, (F 0).trans h.f0, (F 1).trans h.f1⟩
theorem f2_new (w : World) (x y : Int) (t : Nat) : F2 (w.alloc (.cells #[.int .i64 x, .int .i64 y] t)) w.heap.size x y := by
  have F : ∀ o, (w.alloc (.cells #[.int .i64 x, .int .i64 y] t)).frozen? ⟨w.heap.size, o, none⟩ = false := fun o => by
    have := World.frozen?_alloc_mark w #[.int .i64 x, .int .i64 y] t 0 0 o
    rw [this]; simp
  refine ⟨by simp, ?_, ?_, F 0, F 1⟩ <;> rw [World.cell?_alloc_mark] <;> rfl
end Go.Proofs.YtgjndekgnkjknaaDoor.pt
