/- The law RunOvers of layer 4, from the answers of a table. -/
import Derived.Test.YtiokdeomdeenbaaDoorTbC
import Derived.Test.YtiokdeomdeenbaaDoorTbE
namespace Go.Proofs.YtiokdeomdeenbaaDoor.tb
open Go.RowKit Go.Lib
set_option linter.unusedVariables false
variable {K : World → Prop} {TB : World → Nat → Value → List (Int × Int) → Prop}
/-- What stands once three tables are made. -/
structure OSt (K : World → Prop) (TB : World → Nat → Value → List (Int × Int) → Prop) (w : World) (b : Nat) (X Y Z : Value) (l m n : List (Int × Int)) (W : World) : Prop where
  x : F1 W b X
  y : F1 W (b + 1) Y
  z : F1 W (b + 1 + 1) Z
  k : K W
  tx : TE TB W X l
  ty : TE TB W Y m
  tz : TE TB W Z n
  bel : Below w.heap.size w W
theorem OSt.below (T : Tab K TB) {w : World} {b : Nat} {X Y Z : Value} {l m n : List (Int × Int)} {W W' : World} (h : OSt K TB w b X Y Z l m n W) (hb : Below W.heap.size W W') : OSt K TB w b X Y Z l m n W' :=
  ⟨h.x.below hb h.x.lt, h.y.below hb h.y.lt, h.z.below hb h.z.lt, T.stay _ _ h.k hb, T.keepE h.tx hb, T.keepE h.ty hb, T.keepE h.tz hb, h.bel.trans (hb.mono h.bel.size)⟩
theorem f1_three (W : World) (X Y Z : Value) : F1 (((W.alloc (.cells #[X] 27)).alloc (.cells #[Y] 27)).alloc (.cells #[Z] 27)) W.heap.size X ∧ F1 (((W.alloc (.cells #[X] 27)).alloc (.cells #[Y] 27)).alloc (.cells #[Z] 27)) (W.heap.size + 1) Y ∧
    F1 (((W.alloc (.cells #[X] 27)).alloc (.cells #[Y] 27)).alloc (.cells #[Z] 27)) (W.heap.size + 1 + 1) Z ∧ Below W.heap.size W (((W.alloc (.cells #[X] 27)).alloc (.cells #[Y] 27)).alloc (.cells #[Z] 27)) := by
  have h1 : Below W.heap.size W (W.alloc (.cells #[X] 27)) := (Below.refl _ _).alloc (Nat.le_refl _) _
  have h2 : Below (W.alloc (.cells #[X] 27)).heap.size (W.alloc (.cells #[X] 27)) ((W.alloc (.cells #[X] 27)).alloc (.cells #[Y] 27)) := (Below.refl _ _).alloc (Nat.le_refl _) _
  have h3 : Below ((W.alloc (.cells #[X] 27)).alloc (.cells #[Y] 27)).heap.size ((W.alloc (.cells #[X] 27)).alloc (.cells #[Y] 27)) (((W.alloc (.cells #[X] 27)).alloc (.cells #[Y] 27)).alloc (.cells #[Z] 27)) := (Below.refl _ _).alloc (Nat.le_refl _) _
  have e1 : (W.alloc (.cells #[X] 27)).heap.size = W.heap.size + 1 := World.size_alloc _ _
  have e2 : ((W.alloc (.cells #[X] 27)).alloc (.cells #[Y] 27)).heap.size = W.heap.size + 1 + 1 := by rw [World.size_alloc, e1]
  have h := (h1.trans (h2.mono h1.size)).trans (h3.mono (by omega))
  have y0 := f1_new (W.alloc (.cells #[X] 27)) Y 27
  have z0 := f1_new ((W.alloc (.cells #[X] 27)).alloc (.cells #[Y] 27)) Z 27
  rw [e1] at y0
  rw [e2] at z0
  exact ⟨((f1_new W X _).below h2 (by omega)).below h3 (by omega), y0.below h3 (by omega), z0, h⟩
theorem OSt.new (T : Tab K TB) {w W : World} {X Y Z : Value} {l m n : List (Int × Int)} (hK : K w) (hb : Below w.heap.size w W) (tx : TE TB W X l) (ty : TE TB W Y m) (tz : TE TB W Z n) :
    OSt K TB w W.heap.size X Y Z l m n (((W.alloc (.cells #[X] 27)).alloc (.cells #[Y] 27)).alloc (.cells #[Z] 27)) := by
  obtain ⟨a, b, c, h⟩ := f1_three W X Y Z
  have hw := hb.trans (h.mono hb.size)
  exact ⟨a, b, c, T.stay _ _ hK hw, T.keepE tx h, T.keepE ty h, T.keepE tz h, hw⟩
theorem made_row (A : Option Addr) (n c : Nat) (l : List Pce) (w : World) (h : RowC w A n c l) (hl : light l = true) :
    Calls Tryd.prog 15 #[.slice A n c] w fun e w' => ∃ B d k, e = .returned (.tuple #[.slice B ((made l).1.getD []).length d, .int .i64 k]) ∧ RowP w' B ((made l).1.getD []).length d ((made l).1.getD []) ∧ Below w.heap.size w w' :=
  (made_any A n c l w h hl).mono fun e w' h => by
    rcases h with ⟨h1, h2, h3⟩ | ⟨r, B, d, h1, h2, _, h4, h5, h6⟩
    · rw [h1]; exact ⟨none, 0, _, h2, .inl ⟨rfl, rfl, rfl, rfl⟩, h3⟩
    · rw [h1]; exact ⟨B, d, _, h4, h5, h6⟩
theorem made_facts {l : List Pce} (hl : light l = true) : ((made l).1.getD []).length ≤ 3600 ∧ Srt ((made l).1.getD []) := by
  cases hm : (made l).1 with
  | none => exact ⟨by simp, Srt.nil⟩
  | some r => exact ⟨made_len hl hm, (made_good hm).1⟩
end Go.Proofs.YtiokdeomdeenbaaDoor.tb
