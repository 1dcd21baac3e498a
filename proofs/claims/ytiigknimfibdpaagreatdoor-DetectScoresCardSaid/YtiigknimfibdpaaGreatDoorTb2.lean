/- Rows of pairs of layer 4; the document's answer: Put: a contract. -/
import Derived.Test.YtiigknimfibdpaaGreatDoorTb1
import Derived.Laws.MakeOwn
import Derived.OwnWalk
import Derived.Deep.LoopGhost
namespace Go.Proofs.YtiigknimfibdpaaGreatDoor.tb
open Go.RowKit Go.Lib
set_option linter.unusedVariables false
theorem owns_below2 {B B' : Nat} {e : TypeId} {v : Value} {k n : Nat} {xs : List Value} {wr w1 : World} (h : wr.ownsRow B e k v n xs) (hb : Below B' wr w1) (hB : wr.heap.size ≤ B') : w1.ownsRow B e k v n xs := by
  obtain ⟨hl, h | ⟨g, cap, cur, rfl, hB2, hg, h1, h2, h3, h4⟩⟩ := h
  · exact ⟨hl, .inl h⟩
  · have hlt : g < wr.heap.size := (Array.getElem?_eq_some_iff.1 hg).1
    exact ⟨hl, .inr ⟨g, cap, cur, rfl, hB2, (hb.block g (by omega)).trans hg, h1, h2, h3, h4⟩⟩
theorem below_own {B : Nat} {w wr w' : World} {e : TypeId} {k : Nat} {v : Value} {n : Nat} {xs : List Value} (hb : Below B w wr) (hB : B ≤ wr.heap.size) (ho : wr.ownsRow B e k v n xs) (hg : wr.grownBy w' v.ownBlock) : Below B w w' := by
  refine ⟨hg.os.trans hb.os, hg.tape.trans hb.tape, hg.output.trans hb.output, Nat.le_trans hb.size hg.size, fun i hi => ?_⟩
  rw [hg.block i (by omega) (fun e => by have := ho.lt i e.symm; omega)]
  exact hb.block i hi
theorem own_base {B B' : Nat} {e : TypeId} {k n : Nat} {v : Value} {xs : List Value} {w : World} (h : w.ownsRow B e k v n xs) (hB : B' ≤ B) : w.ownsRow B' e k v n xs := by
  obtain ⟨hl, h | ⟨g, cap, cur, rfl, hB2, hg, h1, h2, h3, h4⟩⟩ := h
  · exact ⟨hl, .inl h⟩
  · exact ⟨hl, .inr ⟨g, cap, cur, rfl, by omega, hg, h1, h2, h3, h4⟩⟩
theorem new_cells (w : World) (x y : Value) (t : TypeId) : ∀ j u, ([x, y] : List Value)[j]? = some u → (w.alloc (.cells #[x, y] t)).cell? ((⟨w.heap.size, 0, none⟩ : Addr).add j) = some u := by
  intro j u hj
  have e : (⟨w.heap.size, 0, none⟩ : Addr).add j = ⟨w.heap.size, j, none⟩ := by unfold Addr.add; by_cases h : j = 0 <;> simp [h]
  rw [e, World.cell?_alloc_mark]
  match j, hj with
  | 0, hj => simpa using hj
  | 1, hj => simpa using hj
  | (j + 2), hj => simp at hj
end Go.Proofs.YtiigknimfibdpaaGreatDoor.tb
