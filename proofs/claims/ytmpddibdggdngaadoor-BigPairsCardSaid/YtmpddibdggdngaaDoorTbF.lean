/- The law RunOvers of layer 4, from the answers of a table. -/
import Derived.Test.YtmpddibdggdngaaDoorTbC
import Derived.Test.YtmpddibdggdngaaDoorTbE
namespace Go.Proofs.YtmpddibdggdngaaDoor.tb
open Go.RowKit Go.Lib
set_option linter.unusedVariables false
variable {K : World → Prop} {TB : World → Nat → Value → List (Int × Int) → Prop}
/-- What stands once three tables are made. -/
structure OSt (K : World → Prop) (TB : World → Nat → Value → List (Int × Int) → Prop) (w : World) (b : Nat) (X Y Z : Value) (l m n : List (Int × Int)) (W : World) : Prop where
  x : F1 W b X
  y : F1 W (b + 1) Y
  z : F1 W (b + 1 + 1) Z
  k : K W
  tx : TE TB W X l
  ty : TE TB W Y m
  tz : TE TB W Z n
  bel : Below w.heap.size w W
theorem f1_three (W : World) (X Y Z : Value) : F1 (((W.alloc (.cells #[X] 82)).alloc (.cells #[Y] 82)).alloc (.cells #[Z] 82)) W.heap.size X ∧ F1 (((W.alloc (.cells #[X] 82)).alloc (.cells #[Y] 82)).alloc (.cells #[Z] 82)) (W.heap.size + 1) Y ∧
    F1 (((W.alloc (.cells #[X] 82)).alloc (.cells #[Y] 82)).alloc (.cells #[Z] 82)) (W.heap.size + 1 + 1) Z ∧ Below W.heap.size W (((W.alloc (.cells #[X] 82)).alloc (.cells #[Y] 82)).alloc (.cells #[Z] 82)) := by
  have h1 : Below W.heap.size W (W.alloc (.cells #[X] 82)) := (Below.refl _ _).alloc (Nat.le_refl _) _
  have h2 : Below (W.alloc (.cells #[X] 82)).heap.size (W.alloc (.cells #[X] 82)) ((W.alloc (.cells #[X] 82)).alloc (.cells #[Y] 82)) := (Below.refl _ _).alloc (Nat.le_refl _) _
  have h3 : Below ((W.alloc (.cells #[X] 82)).alloc (.cells #[Y] 82)).heap.size ((W.alloc (.cells #[X] 82)).alloc (.cells #[Y] 82)) (((W.alloc (.cells #[X] 82)).alloc (.cells #[Y] 82)).alloc (.cells #[Z] 82)) := (Below.refl _ _).alloc (Nat.le_refl _) _
  have e1 : (W.alloc (.cells #[X] 82)).heap.size = W.heap.size + 1 := World.size_alloc _ _
  have e2 : ((W.alloc (.cells #[X] 82)).alloc (.cells #[Y] 82)).heap.size = W.heap.size + 1 + 1 := by rw [World.size_alloc, e1]
  have h := (h1.trans (h2.mono h1.size)).trans (h3.mono (by omega))
  have y0 := f1_new (W.alloc (.cells #[X] 82)) Y 82
  have z0 := f1_new ((W.alloc (.cells #[X] 82)).alloc (.cells #[Y] 82)) Z 82
  rw [e1] at y0
  rw [e2] at z0
  exact ⟨((f1_new W X _).below h2 (by omega)).below h3 (by omega), y0.below h3 (by omega), z0, h⟩
theorem made_facts {l : List Pce} (hl : light l = true) : ((made l).1.getD []).length ≤ 3600 ∧ Srt ((made l).1.getD []) := by
  cases hm : (made l).1 with
  | none => exact ⟨by simp, Srt.nil⟩
  | some r => exact ⟨made_len hl hm, (made_good hm).1⟩
end Go.Proofs.YtmpddibdggdngaaDoor.tb
