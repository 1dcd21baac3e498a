/- The cells of a block, as a list: made, kept, set (no program's). -/
import Derived.Test.YtkhajafjieofhaaChecked
import Derived.WalkKit
import Derived.ProofKit
import Derived.Below
import Derived.Lib.Hide
import Derived.Deep.Draws
namespace Go.Proofs.Ytkhajafjieofhaa.bk
open Go.RowKit Go.Lib
set_option linter.unusedVariables false
/-- Block p holds these cells, and none of them is frozen. -/
structure Bk (w : World) (p : Nat) (vs : List Value) : Prop where
  lt : p < w.heap.size
  c : ∀ i v, vs[i]? = some v → w.cell? ⟨p, i, none⟩ = some v
  f : ∀ i, w.frozen? ⟨p, i, none⟩ = false
variable {w w' : World} {p : Nat} {vs : List Value}
theorem Bk.new (w : World) (t : TypeId) (vs : List Value) : Bk (w.alloc (.cells vs.toArray t)) w.heap.size vs := by
  refine ⟨by simp, fun i v h => ?_, fun i => ?_⟩
  · rw [World.cell?_alloc_mark]; simpa using h
  · have := World.frozen?_alloc_mark w vs.toArray t 0 0 i
    rw [this]; simp
theorem Bk.keep {B : Nat} (h : Bk w p vs) (hb : Below B w w') (hp : p < B) : Bk w' p vs :=
  ⟨Nat.lt_of_lt_of_le h.lt hb.size, fun i v hv => (hb.cell (p := ⟨p, i, none⟩) hp).trans (h.c i v hv), fun i => (hb.frozen (p := ⟨p, i, none⟩) hp).trans (h.f i)⟩
theorem Bk.below (h : Bk w p vs) (hb : Below w.heap.size w w') : Bk w' p vs := h.keep hb h.lt
theorem Bk.alloc (h : Bk w p vs) (o : Obj) : Bk (w.alloc o) p vs := h.below ((Below.refl _ _).alloc (Nat.le_refl _) _)
theorem Bk.drew (h : Bk w p vs) : Bk w.drew p vs := ⟨h.lt, h.c, h.f⟩
theorem Bk.drewN (h : Bk w p vs) (n : Nat) : Bk (w.drewN n) p vs := ⟨h.lt, h.c, h.f⟩
theorem Bk.other (h : Bk w p vs) (q : Addr) (u : Value) (hq : q.block ≠ p) : Bk (w.setCell q u) p vs :=
  ⟨by simpa [World.setCell] using h.lt, fun i v hv => (World.cell?_setCell_other _ _ _ _ (fun e => hq (by rw [e]))).trans (h.c i v hv), fun i => by simpa using h.f i⟩
theorem Bk.set (h : Bk w p vs) (k : Nat) (u : Value) (hk : k < vs.length) : Bk (w.setCell ⟨p, k, none⟩ u) p (vs.set k u) := by
  refine ⟨by simpa [World.setCell] using h.lt, fun i v hv => ?_, fun i => by simpa using h.f i⟩
  by_cases e : k = i
  · subst e
    rw [List.getElem?_set_self hk] at hv
    rw [World.cell?_setCell_same _ _ _ (h.c k _ (List.getElem?_eq_getElem hk))]
    exact hv
  · rw [List.getElem?_set_ne e] at hv
    rw [World.cell?_setCell_other _ _ _ _ (by simp)]
    exact h.c i v hv
end Go.Proofs.Ytkhajafjieofhaa.bk
