/- Rows of pairs of layer 4; the document's answer: Put: a contract. -/
import Derived.Test.YtmpddibdggdngaaDoorTb1
import Derived.Laws.MakeOwn
import Derived.OwnWalk
import Derived.Deep.LoopGhost
namespace Go.Proofs.YtmpddibdggdngaaDoor.tb
open Go.RowKit Go.Lib
set_option linter.unusedVariables false
/-- Pairs as cells. -/
def pc (l : List (Int × Int)) : List Value := l.flatMap fun q => [.int .i64 q.1, .int .i32 q.2]
theorem pc_len (l : List (Int × Int)) : (pc l).length = l.length * 2 := by
  unfold pc
  induction l with
  | nil => rfl
  | cons q l ih => rw [List.flatMap_cons, List.length_append, ih, List.length_cons]; simp; omega
theorem pc_app (l m : List (Int × Int)) : pc (l ++ m) = pc l ++ pc m := by simp [pc]
theorem pc_one (q : Int × Int) : pc [q] = [.int .i64 q.1, .int .i32 q.2] := rfl
theorem pc_get : ∀ (l : List (Int × Int)) (i : Nat), i < l.length → (pc l)[i * 2]? = some (.int .i64 (l.getD i (0, 0)).1) ∧ (pc l)[i * 2 + 1]? = some (.int .i32 (l.getD i (0, 0)).2)
  | [], i, h => by simp at h
  | q :: l, 0, _ => by simp [pc]
  | q :: l, i + 1, h => by
    have ih := pc_get l i (by simpa using h)
    have e : pc (q :: l) = .int .i64 q.1 :: .int .i32 q.2 :: pc l := rfl
    rw [e, show (i + 1) * 2 = i * 2 + 1 + 1 by omega]
    simpa using ih
theorem owns_below2 {B B' : Nat} {e : TypeId} {v : Value} {k n : Nat} {xs : List Value} {wr w1 : World} (h : wr.ownsRow B e k v n xs) (hb : Below B' wr w1) (hB : wr.heap.size ≤ B') : w1.ownsRow B e k v n xs := by
  obtain ⟨hl, h | ⟨g, cap, cur, rfl, hB2, hg, h1, h2, h3, h4⟩⟩ := h
  · exact ⟨hl, .inl h⟩
  · have hlt : g < wr.heap.size := (Array.getElem?_eq_some_iff.1 hg).1
    exact ⟨hl, .inr ⟨g, cap, cur, rfl, hB2, (hb.block g (by omega)).trans hg, h1, h2, h3, h4⟩⟩
theorem below_own {B : Nat} {w wr w' : World} {e : TypeId} {k : Nat} {v : Value} {n : Nat} {xs : List Value} (hb : Below B w wr) (hB : B ≤ wr.heap.size) (ho : wr.ownsRow B e k v n xs) (hg : wr.grownBy w' v.ownBlock) : Below B w w' := by
  refine ⟨hg.os.trans hb.os, hg.tape.trans hb.tape, hg.output.trans hb.output, Nat.le_trans hb.size hg.size, fun i hi => ?_⟩
  rw [hg.block i (by omega) (fun e => by have := ho.lt i e.symm; omega)]
  exact hb.block i hi
theorem own_base {B B' : Nat} {e : TypeId} {k n : Nat} {v : Value} {xs : List Value} {w : World} (h : w.ownsRow B e k v n xs) (hB : B' ≤ B) : w.ownsRow B' e k v n xs := by
  obtain ⟨hl, h | ⟨g, cap, cur, rfl, hB2, hg, h1, h2, h3, h4⟩⟩ := h
  · exact ⟨hl, .inl h⟩
  · exact ⟨hl, .inr ⟨g, cap, cur, rfl, by omega, hg, h1, h2, h3, h4⟩⟩
theorem own_drewN {B : Nat} {e : TypeId} {k n m : Nat} {v : Value} {xs : List Value} {w : World} (h : w.ownsRow B e k v n xs) : (w.drewN m).ownsRow B e k v n xs := h
theorem new_cells (w : World) (x y : Value) (t : TypeId) : ∀ j u, ([x, y] : List Value)[j]? = some u → (w.alloc (.cells #[x, y] t)).cell? ((⟨w.heap.size, 0, none⟩ : Addr).add j) = some u := by
  intro j u hj
  have e : (⟨w.heap.size, 0, none⟩ : Addr).add j = ⟨w.heap.size, j, none⟩ := by unfold Addr.add; by_cases h : j = 0 <;> simp [h]
  rw [e, World.cell?_alloc_mark]
  match j, hj with
  | 0, hj => simpa using hj
  | 1, hj => simpa using hj
  | (j + 2), hj => simp at hj
/-- What is put, as it is built. -/
def upto (d : Bool) (out rest : List (Int × Int)) (p : Int × Int) : List (Int × Int) := if d then out ++ rest else out ++ put rest p
theorem upto_skip {out r : List (Int × Int)} {c p x y : Int} (h : ¬ c < x) : upto false (out ++ [(x, y)]) r (c, p) = upto false out ((x, y) :: r) (c, p) := by
  have e : put ((x, y) :: r) (c, p) = (x, y) :: put r (c, p) := by conv => lhs; unfold put
                                                                   rw [if_neg (show ¬ (c, p).1 < (x, y).1 from h)]
  unfold upto
  rw [e]
  simp
end Go.Proofs.YtmpddibdggdngaaDoor.tb
