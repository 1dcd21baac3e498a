/- Rows of pieces of layer 4; Light, made of the laws: contracts. -/
import Derived.Test.YtmpddibdggdngaaDoorTb4
namespace Go.Proofs.YtmpddibdggdngaaDoor.tb
open Go.RowKit Go.Lib
set_option linter.unusedVariables false
/-- A piece. -/
structure Pce where
  f : Int
  t : Int
  c : Int
  s : ByteArray
/-- A piece as Go may hold it. -/
structure Pce.ok (p : Pce) : Prop where
  f0 : -9223372036854775808 ≤ p.f
  f1 : p.f ≤ 9223372036854775807
  t0 : -2147483648 ≤ p.t
  t1 : p.t ≤ 2147483647
  c0 : -9223372036854775808 ≤ p.c
  c1 : p.c ≤ 9223372036854775807
  s1 : p.s.size ≤ 9223372036854775807
def p0 : Pce := ⟨0, 0, 0, ⟨#[]⟩⟩
/-- The cells of a piece. -/
structure CellsC (w : World) (b : Addr) (p : Pce) : Prop where
  k0 : w.cell? b = some (.int .i64 p.f)
  k1 : w.cell? ⟨b.block, b.off + 1, none⟩ = some (.int .i32 p.t)
  k2 : w.cell? ⟨b.block, b.off + 2, none⟩ = some (.int .i64 p.c)
  k3 : w.cell? ⟨b.block, b.off + 3, none⟩ = some (.string p.s)
theorem CellsC.below {w w' : World} {b : Addr} {p : Pce} (h : CellsC w b p) {B : Nat} (hb : Below B w w') (hB : w.heap.size ≤ B) : CellsC w' b p := by
  have hl := World.block_lt_of_cell? w _ h.k0
  have H : ∀ o, w'.cell? ⟨b.block, o, none⟩ = w.cell? ⟨b.block, o, none⟩ := fun o => hb.cell (p := ⟨b.block, o, none⟩) (by show b.block < B; omega)
  exact ⟨(hb.cell (by omega)).trans h.k0, (H _).trans h.k1, (H _).trans h.k2, (H _).trans h.k3⟩
/-- A slice of pieces, none or a row. -/
def RowC (w : World) (A : Option Addr) (n c : Nat) (l : List Pce) : Prop :=
  l.length = n ∧ (∀ p ∈ l, p.ok) ∧ ((A = none ∧ n = 0 ∧ c = 0) ∨ ∃ a, A = some a ∧ n ≤ c ∧ c ≤ maxLen ∧ ∀ i, i < n → CellsC w (a.add (i * 4)) (l.getD i p0))
theorem RowC.below {w w' : World} {A : Option Addr} {n c : Nat} {l : List Pce} (h : RowC w A n c l) (hb : Below w.heap.size w w') : RowC w' A n c l := by
  obtain ⟨h1, h2, h | ⟨a, h3, h4, h5, h6⟩⟩ := h
  · exact ⟨h1, h2, .inl h⟩
  · exact ⟨h1, h2, .inr ⟨a, h3, h4, h5, fun i hi => (h6 i hi).below hb (Nat.le_refl _)⟩⟩
theorem RowC.at {w : World} {A : Option Addr} {n c : Nat} {l : List Pce} (h : RowC w A n c l) (i : Nat) (hi : i < n) : ∃ a, A = some a ∧ n ≤ c ∧ c ≤ maxLen ∧ CellsC w (a.add (i * 4)) (l.getD i p0) ∧ (l.getD i p0).ok ∧ l.take (i + 1) = l.take i ++ [l.getD i p0] ∧ l.drop i = l.getD i p0 :: l.drop (i + 1) := by
  obtain ⟨h1, h2, ⟨_, h3, _⟩ | ⟨a, h3, h4, h5, h6⟩⟩ := h
  · omega
  · have hil : i < l.length := by omega
    refine ⟨a, h3, h4, h5, h6 i hi, h2 _ (by simp [List.getD, List.getElem?_eq_getElem hil]), ?_, ?_⟩
    · rw [List.take_add_one, List.getElem?_eq_getElem hil]; simp [List.getD, List.getElem?_eq_getElem hil]
    · rw [List.drop_eq_getElem_cons hil]; simp [List.getD, List.getElem?_eq_getElem hil]
/-- A piece that is neither many nor great. -/
def fine (p : Pce) : Bool := decide (p.c ≤ 100) && decide (p.s.size ≤ 300)
def light (l : List Pce) : Bool := decide (l.length ≤ 12) && l.all fine
end Go.Proofs.YtmpddibdggdngaaDoor.tb
