/- Pieces of layer 4, as they are made: Seq, List; a row of pieces that was just laid: contracts. -/
import Derived.Test.YtmpddibdggdngaaDoorTb5
namespace Go.Proofs.YtmpddibdggdngaaDoor.tb
open Go.RowKit Go.Lib
set_option linter.unusedVariables false
theorem list_any (f : Int) (s : ByteArray) (w : World) : Calls Tryd.prog 60 #[.int .i64 f, .string s] w fun e w' => e = .returned (.agg #[.int .i64 f, .int .i32 0, .int .i64 0, .string s]) ∧ Below w.heap.size w w' := by
  go_enter Tryd.func60, Tryd.ntmps60
  go_wp2
  refine bodyPost_ret (v := .agg #[.int .i64 f, .int .i32 0, .int .i64 0, .string s]) (by simp [results, Tryd.results60, go_sem]) rfl ⟨rfl, ?_⟩
  repeat (first | (with_reducible exact Below.refl _ _) | (with_reducible refine Below.setCell ?_ (by simp) _) | (with_reducible refine Below.alloc ?_ (by simp) _))
def pcell (p : Pce) : List Value := [.int .i64 p.f, .int .i32 p.t, .int .i64 p.c, .string p.s]
theorem pcells_at : ∀ (l : List Pce) (i : Nat), i < l.length → (l.flatMap pcell)[i * 4]? = some (.int .i64 (l.getD i p0).f) ∧ (l.flatMap pcell)[i * 4 + 1]? = some (.int .i32 (l.getD i p0).t) ∧ (l.flatMap pcell)[i * 4 + 2]? = some (.int .i64 (l.getD i p0).c) ∧ (l.flatMap pcell)[i * 4 + 3]? = some (.string (l.getD i p0).s)
  | [], i, h => by simp at h
  | r :: l, i, h => by
    have e : (r :: l).flatMap pcell = .int .i64 r.f :: .int .i32 r.t :: .int .i64 r.c :: .string r.s :: l.flatMap pcell := rfl
    rw [e]
    cases i with
    | zero => exact ⟨rfl, rfl, rfl, rfl⟩
    | succ i =>
      have := pcells_at l i (by simpa using h)
      rw [show (i + 1) * 4 = i * 4 + 1 + 1 + 1 + 1 by omega]
      simpa using this
theorem rowC_new (w : World) (l : List Pce) (hok : ∀ p ∈ l, p.ok) (hl : l.length ≤ 1000) (t : TypeId) : RowC (w.alloc (.cells (l.flatMap pcell).toArray t)) (some ⟨w.heap.size, 0, none⟩) l.length l.length l := by
  refine ⟨rfl, hok, .inr ⟨_, rfl, Nat.le_refl _, by unfold maxLen; omega, fun i hi => ?_⟩⟩
  obtain ⟨a, b, c, d⟩ := pcells_at l i hi
  have e : (⟨w.heap.size, 0, none⟩ : Addr).add (i * 4) = ⟨w.heap.size, i * 4, none⟩ := by rw [Addr.add_lit, Nat.zero_add]
  rw [e]
  refine ⟨?_, ?_, ?_, ?_⟩
  · rw [World.cell?_alloc_mark]; simpa using a
  · show (w.alloc _).cell? ⟨w.heap.size, i * 4 + 1, none⟩ = _; rw [World.cell?_alloc_mark]; simpa using b
  · show (w.alloc _).cell? ⟨w.heap.size, i * 4 + 2, none⟩ = _; rw [World.cell?_alloc_mark]; simpa using c
  · show (w.alloc _).cell? ⟨w.heap.size, i * 4 + 3, none⟩ = _; rw [World.cell?_alloc_mark]; simpa using d
end Go.Proofs.YtmpddibdggdngaaDoor.tb
