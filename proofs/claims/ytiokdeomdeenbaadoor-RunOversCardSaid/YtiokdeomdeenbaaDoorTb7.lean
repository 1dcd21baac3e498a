/- An argument that is a row of pieces, opened. -/
import Derived.Test.YtiokdeomdeenbaaDoorTb6
import Derived.Deep.Slices
import Derived.Lib.SmallJoins
import Derived.ChangeArms
namespace Go.Proofs.YtiokdeomdeenbaaDoor.tb
open Go.RowKit Go.Lib Go.ChangeShapes Go.WideShapes Go.Deep Go.Joins
set_option linter.unusedVariables false
theorem piece_cells : Tryd.prog.cellsOf 74 = 4 := by kernel_rfl
theorem word_cells : Tryd.prog.cellsOf 3 = 1 ∧ Tryd.prog.cellsOf 21 = 1 ∧ Tryd.prog.cellsOf 9 = 1 := ⟨by kernel_rfl, by kernel_rfl, by kernel_rfl⟩
section
variable {H : Type} {enc : TypeId × Value → H} {w : World} {base : Nat} {spare : Nat → Bool} {held : Bool}
set_option maxRecDepth 100000 in
theorem open_piece {fuel : Nat} {cs : List Value} {x : DataW H × List MemPlace} (h : DataW.trod enc Tryd.prog w base spare held fuel 74 cs = some x) : ∃ p : Pce, p.ok ∧ cs = [.int .i64 p.f, .int .i32 p.t, .int .i64 p.c, .string p.s] := by
  obtain ⟨y0, y1, y2, y3, n, _, hl, h0, h1, h2, h3⟩ := trod_struct4 Tryd.underlying74 h
  rw [piece_cells] at hl
  match cs, hl with
  | [c0, c1, c2, c3], _ =>
    simp [word_cells.1, word_cells.2.1, word_cells.2.2] at h0 h1 h2 h3
    obtain ⟨f, e0, _, w0⟩ := DataW.trod_int Tryd.underlying3 h0
    obtain ⟨t, e1, _, w1⟩ := DataW.trod_int Tryd.underlying21 h1
    obtain ⟨c, e2, _, w2⟩ := DataW.trod_int Tryd.underlying3 h2
    obtain ⟨s, e3, _, w3⟩ := DataW.trod_string Tryd.underlying9 h3
    simp at e0 e1 e2 e3
    refine ⟨⟨f, t, c, s⟩, ?_, by rw [e0, e1, e2, e3]⟩
    simp [Lit.wf, IntKind.min, IntKind.max, IntKind.bits, IntKind.signed] at w0 w1 w2
    unfold maxLen at w3
    exact ⟨w0.1, w0.2, w1.1, w1.2, w2.1, w2.2, by omega⟩
set_option maxRecDepth 100000 in
theorem open_pieces {fuel : Nat} {cs : List Value} {x : DataW H × List MemPlace} (h : DataW.trod enc Tryd.prog w base spare held fuel 22 cs = some x) :
    ∃ A n c l, cs = [.slice A n c] ∧ RowC w A n c l ∧ n ≤ 9223372036854775807 := by
  rcases open_slice Tryd.underlying22 h with ⟨h0, _⟩ | ⟨a, len, cap, m, n, D, Pl, hcs, _, hl, hm, hmm, _, hi⟩
  · exact ⟨none, 0, 0, [], h0, ⟨rfl, by simp, .inl ⟨rfl, rfl, rfl⟩⟩, by omega⟩
  · rw [piece_cells] at hi
    have hml : len ≤ m := by rw [hmm]; split <;> omega
    have each : ∀ i, i < len → ∃ p : Pce, p.ok ∧ CellsC w (a.add (i * 4)) p := fun i hlt => by
      obtain ⟨cs', hc, ht⟩ := hi i (by omega)
      obtain ⟨p, hok, rfl⟩ := open_piece ht
      obtain ⟨_, _, hat⟩ := World.cells?_some hc
      have k0 := hat 0 (by omega)
      have k1 := hat 1 (by omega)
      have k2 := hat 2 (by omega)
      have k3 := hat 3 (by omega)
      refine ⟨p, hok, ⟨?_, ?_, ?_, ?_⟩⟩
      · simpa [Addr.add] using k0
      · simpa [Addr.add] using k1
      · simpa [Addr.add] using k2
      · simpa [Addr.add] using k3
    classical
    let F : Nat → Pce := fun i => if hlt : i < len then (each i hlt).choose else p0
    have hF : ∀ i (hlt : i < len), F i = (each i hlt).choose := fun i hlt => dif_pos hlt
    have hg : ∀ i, i < len → ((List.range len).map F).getD i p0 = F i := fun i hlt => by simp [List.getD, List.getElem?_range hlt]
    refine ⟨some a, len, cap, (List.range len).map F, hcs, ⟨by simp, fun p hp => ?_, .inr ⟨a, rfl, hl, hm, fun i hlt => ?_⟩⟩, by unfold maxLen at hm; omega⟩
    · obtain ⟨i, hir, rfl⟩ := List.mem_map.1 hp
      have hlt := List.mem_range.1 hir
      rw [hF i hlt]
      exact (each i hlt).choose_spec.1
    · rw [hg i hlt, hF i hlt]
      exact (each i hlt).choose_spec.2
end
end Go.Proofs.YtiokdeomdeenbaaDoor.tb
