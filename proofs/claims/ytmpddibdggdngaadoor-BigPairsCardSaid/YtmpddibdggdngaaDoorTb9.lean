/- What the walks of layer 4's laws ask of a table of one word; the law RunTables from it. -/
import Derived.Test.YtmpddibdggdngaaDoorTb8
import Derived.Test.YtmpddibdggdngaaDoorPtA
import Derived.Deep.RegionHeld3
import Derived.Deep.DeepCutAuto
namespace Go.Proofs.YtmpddibdggdngaaDoor.tb
open Go.RowKit Go.Lib
set_option linter.unusedVariables false
/-- The blocks from B on are as they were. -/
def Same (B : Nat) (w w' : World) : Prop := w.heap.size ≤ w'.heap.size ∧ ∀ k, B ≤ k → k < w.heap.size → w'.heap[k]? = w.heap[k]?
theorem Same.of {B : Nat} {w w' : World} (h : Below w.heap.size w w') : Same B w w' := ⟨h.size, fun k _ h2 => h.block k h2⟩
/-- A table's word, wherever its blocks begin. -/
def TE (TB : World → Nat → Value → List (Int × Int) → Prop) (w : World) (X : Value) (l : List (Int × Int)) : Prop := ∃ B, TB w B X l
variable {K : World → Prop} {TB : World → Nat → Value → List (Int × Int) → Prop}
/-- What stands once a table is made. -/
structure TSt (K : World → Prop) (TB : World → Nat → Value → List (Int × Int) → Prop) (w : World) (b : Nat) (X : Value) (l : List (Int × Int)) (e f : Int) (W : World) : Prop where
  t : F1 W b X
  f : pt.F2 W (b + 1) e f
  k : K W
  tb : TE TB W X l
  bel : Below w.heap.size w W
theorem mk_bad : ∀ (ps : List Pce) (i : Nat) (all : List (Int × Int)), (mk i all ps).1 = none → (i : Int) ≤ (mk i all ps).2
  | [], i, all, h => by cases h
  | p :: ps, i, all, h => by
    have e : mk i all (p :: ps) = (match piece p.f p.t p.c p.s with | none => (none, (i : Int)) | some more => match join all more with | none => (none, (i : Int)) | some r => mk (i + 1) r ps) := rfl
    rw [e] at h ⊢
    cases hp : piece p.f p.t p.c p.s with
    | none => simp
    | some more =>
      rw [hp] at h
      simp only at h ⊢
      cases hj : join all more with
      | none => simp
      | some r =>
        rw [hj] at h
        simp only at h ⊢
        have := mk_bad ps (i + 1) r h
        omega
theorem made_bad {l : List Pce} (h : (made l).1 = none) : 0 ≤ (made l).2 := mk_bad l 0 [] h
end Go.Proofs.YtmpddibdggdngaaDoor.tb
