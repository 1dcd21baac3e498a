/- A reader of layer 1: what its five cells hold, and its calls: contracts. -/
import Derived.Test.YtgjndekgnkjknaaDoorOct1
namespace Go.Proofs.YtgjndekgnkjknaaDoor.oct
open Go.RowKit
set_option linter.unusedVariables false

/-- w' is w, but for new blocks, draws, and what stands in block b. -/
structure Upd (b : Nat) (w w' : World) : Prop where
  os : w'.os = w.os
  tape : w'.tape = w.tape
  output : w'.output = w.output
  size : w.heap.size ≤ w'.heap.size
  block : ∀ k, k < w.heap.size → k ≠ b → w'.heap[k]? = w.heap[k]?
theorem Upd.refl (b : Nat) (w : World) : Upd b w w := ⟨rfl, rfl, rfl, Nat.le_refl _, fun _ _ _ => rfl⟩
theorem Upd.trans {b : Nat} {x y z : World} (h : Upd b x y) (k : Upd b y z) : Upd b x z :=
  ⟨k.os.trans h.os, k.tape.trans h.tape, k.output.trans h.output, Nat.le_trans h.size k.size, fun i hi hb => (k.block i (Nat.lt_of_lt_of_le hi h.size) hb).trans (h.block i hi hb)⟩
theorem Upd.of {b B : Nat} {w w' : World} (h : Below B w w') (hB : w.heap.size ≤ B) : Upd b w w' := ⟨h.os, h.tape, h.output, h.size, fun k hk _ => h.block k (by omega)⟩
theorem Upd.setCell {b : Nat} {x y : World} (h : Upd b x y) (o : Nat) (u : Value) : Upd b x (y.setCell ⟨b, o, none⟩ u) :=
  h.trans ⟨rfl, rfl, rfl, by simp [World.setCell], fun k _ hk => Below.heap_setCell _ _ _ _ (by simpa using hk)⟩
theorem Upd.below {b B : Nat} {x y z : World} (h : Below B x y) (k : Upd b y z) (hB : B ≤ b) (hs : B ≤ y.heap.size) : Below B x z :=
  h.trans ⟨k.os, k.tape, k.output, k.size, fun i hi => k.block i (by omega) (by omega)⟩
theorem Upd.cell {b : Nat} {w w' : World} (h : Upd b w w') {p : Addr} (h1 : p.block < w.heap.size) (h2 : p.block ≠ b) : w'.cell? p = w.cell? p := World.cell?_of_block (w := w) (h.block p.block h1 h2)
theorem Upd.frozen {b : Nat} {w w' : World} (h : Upd b w w') {p : Addr} (h1 : p.block < w.heap.size) (h2 : p.block ≠ b) : w'.frozen? p = w.frozen? p := World.frozen?_of_block (w := w) (h.block p.block h1 h2)

/-- Block b is a reader of text t, at k, its base bs, its fault e at at'. -/
structure Rd (w : World) (b : Nat) (t : ByteArray) (k bs e at' : Int) : Prop where
  lt : b < w.heap.size
  c0 : w.cell? ⟨b, 0, none⟩ = some (.string t)
  c1 : w.cell? ⟨b, 1, none⟩ = some (.int .i64 k)
  c2 : w.cell? ⟨b, 2, none⟩ = some (.int .i64 bs)
  c3 : w.cell? ⟨b, 3, none⟩ = some (.int .i64 e)
  c4 : w.cell? ⟨b, 4, none⟩ = some (.int .i64 at')
  f1 : w.frozen? ⟨b, 1, none⟩ = false
  f3 : w.frozen? ⟨b, 3, none⟩ = false
  f4 : w.frozen? ⟨b, 4, none⟩ = false
theorem Rd.below {w w' : World} {b : Nat} {t : ByteArray} {k bs e at' : Int} {B : Nat} (h : Rd w b t k bs e at') (hb : Below B w w') (hB : b < B) : Rd w' b t k bs e at' := by
  have H : ∀ o, w'.cell? ⟨b, o, none⟩ = w.cell? ⟨b, o, none⟩ := fun o => hb.cell (p := ⟨b, o, none⟩) hB
  have F : ∀ o, w'.frozen? ⟨b, o, none⟩ = w.frozen? ⟨b, o, none⟩ := fun o => hb.frozen (p := ⟨b, o, none⟩) hB
  exact ⟨Nat.lt_of_lt_of_le h.lt hb.size, (H 0).trans h.c0, (H 1).trans h.c1, (H 2).trans h.c2, (H 3).trans h.c3, (H 4).trans h.c4, (F 1).trans h.f1, (F 3).trans h.f3, (F 4).trans h.f4⟩
theorem Rd.upd {w w' : World} {b c : Nat} {t : ByteArray} {k bs e at' : Int} (h : Rd w b t k bs e at') (hb : Upd c w w') (hB : b ≠ c) : Rd w' b t k bs e at' := by
  have H : ∀ o, w'.cell? ⟨b, o, none⟩ = w.cell? ⟨b, o, none⟩ := fun o => hb.cell (p := ⟨b, o, none⟩) h.lt hB
  have F : ∀ o, w'.frozen? ⟨b, o, none⟩ = w.frozen? ⟨b, o, none⟩ := fun o => hb.frozen (p := ⟨b, o, none⟩) h.lt hB
  exact ⟨Nat.lt_of_lt_of_le h.lt hb.size, (H 0).trans h.c0, (H 1).trans h.c1, (H 2).trans h.c2, (H 3).trans h.c3, (H 4).trans h.c4, (F 1).trans h.f1, (F 3).trans h.f3, (F 4).trans h.f4⟩

/-- Where a byte of the text stands in the greater one. -/
def plc (bs n : Int) : Int := if 9223372036854775807 - n < bs then 9223372036854775807 else bs + n
theorem plc_small {bs n : Int} (h : bs + n ≤ 9223372036854775807) : plc bs n = bs + n := by unfold plc; rw [if_neg (by omega)]
theorem plc_lo {bs n : Int} (h : 0 ≤ bs) (hn : 0 ≤ n) : 0 ≤ plc bs n := by unfold plc; split <;> omega
theorem plc_hi {bs n : Int} : plc bs n ≤ 9223372036854775807 := by unfold plc; split <;> omega
theorem rd_fault {w : World} {b : Nat} {t : ByteArray} {k bs e at' c n : Int} (h : Rd w b t k bs e at') : Rd ((w.setCell ⟨b, 3, none⟩ (.int .i64 c)).setCell ⟨b, 4, none⟩ (.int .i64 n)) b t k bs c n := by
  have hc4 : (w.setCell ⟨b, 3, none⟩ (.int .i64 c)).cell? ⟨b, 4, none⟩ = some (.int .i64 at') := by rw [World.cell?_setCell_other _ _ _ _ (by simp)]; exact h.c4
  refine ⟨by simpa [World.setCell] using h.lt, ?_, ?_, ?_, ?_, World.cell?_setCell_same _ _ _ hc4, by simpa using h.f1, by simpa using h.f3, by simpa using h.f4⟩
  · rw [World.cell?_setCell_other _ _ _ _ (by simp), World.cell?_setCell_other _ _ _ _ (by simp)]; exact h.c0
  · rw [World.cell?_setCell_other _ _ _ _ (by simp), World.cell?_setCell_other _ _ _ _ (by simp)]; exact h.c1
  · rw [World.cell?_setCell_other _ _ _ _ (by simp), World.cell?_setCell_other _ _ _ _ (by simp)]; exact h.c2
  · rw [World.cell?_setCell_other _ _ _ _ (by simp)]; exact World.cell?_setCell_same _ _ _ h.c3
theorem rd_read {w : World} {b : Nat} {t : ByteArray} {k bs e at' n : Int} (h : Rd w b t k bs e at') : Rd (w.setCell ⟨b, 1, none⟩ (.int .i64 n)) b t n bs e at' := by
  refine ⟨by simpa [World.setCell] using h.lt, ?_, World.cell?_setCell_same _ _ _ h.c1, ?_, ?_, ?_, by simpa using h.f1, by simpa using h.f3, by simpa using h.f4⟩
  · rw [World.cell?_setCell_other _ _ _ _ (by simp)]; exact h.c0
  · rw [World.cell?_setCell_other _ _ _ _ (by simp)]; exact h.c2
  · rw [World.cell?_setCell_other _ _ _ _ (by simp)]; exact h.c3
  · rw [World.cell?_setCell_other _ _ _ _ (by simp)]; exact h.c4
theorem ret_str {a b : ByteArray} (h : a = b) : Ending.returned (.string a) = .returned (.string b) := by rw [h]
theorem slice_km (t : ByteArray) (k m : Nat) (h : k + m ≤ t.size) (wx : World) : (Instr.slice 9 (.string t) (some (.int .i64 (k : Int))) (some (.int .i64 ((k : Int) + (m : Int)))) none).run Tryd.prog wx = .ok (.string (t.extract k (k + m))) wx := by
  rw [run_slice_string _ _ _ _ _ _ _ Tryd.underlying9 (by omega) (by omega) (by omega)]
  rfl
end Go.Proofs.YtgjndekgnkjknaaDoor.oct
