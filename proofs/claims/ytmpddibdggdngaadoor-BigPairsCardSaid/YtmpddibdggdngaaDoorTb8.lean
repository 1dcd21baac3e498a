/- A table of one word, whatever it holds: Is of the laws of layer 4, from contracts of Pairs and Size. -/
import Derived.Test.YtmpddibdggdngaaDoorTb6
namespace Go.Proofs.YtmpddibdggdngaaDoor.tb
open Go.RowKit Go.Lib
set_option linter.unusedVariables false
/-- A block of one word. -/
structure F1 (w : World) (b : Nat) (X : Value) : Prop where
  lt : b < w.heap.size
  c0 : w.cell? ⟨b, 0, none⟩ = some X
  f0 : w.frozen? ⟨b, 0, none⟩ = false
theorem F1.below {w w' : World} {b B : Nat} {X : Value} (h : F1 w b X) (hb : Below B w w') (hB : b < B) : F1 w' b X :=
  ⟨Nat.lt_of_lt_of_le h.lt hb.size, (hb.cell (p := ⟨b, 0, none⟩) hB).trans h.c0, (hb.frozen (p := ⟨b, 0, none⟩) hB).trans h.f0⟩
theorem f1_new (w : World) (X : Value) (t : Nat) : F1 (w.alloc (.cells #[X] t)) w.heap.size X := by
  refine ⟨by simp, ?_, ?_⟩
  · rw [World.cell?_alloc_mark]; rfl
  · simp
/-- What a table, held in a word, is for its callers. -/
structure TabC (G : World → Prop) (X : Value) (l : List (Int × Int)) : Prop where
  keep : ∀ w w', G w → Below w.heap.size w w' → G w'
  pairs : ∀ w, G w → Calls Tryd.prog 43 #[.agg #[X]] w fun e w' => ∃ A c, e = .returned (.slice A l.length c) ∧ RowP w' A l.length c l ∧ Below w.heap.size w w'
  size : ∀ w, G w → Calls Tryd.prog 57 #[.agg #[X]] w fun e w' => e = .returned (.int .i64 l.length) ∧ Below w.heap.size w w'
end Go.Proofs.YtmpddibdggdngaaDoor.tb
