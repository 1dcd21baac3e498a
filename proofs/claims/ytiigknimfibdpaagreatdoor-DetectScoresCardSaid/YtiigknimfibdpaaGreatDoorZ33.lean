/- Several texts in one. -/
import Derived.Test.YtiigknimfibdpaaGreatDoorZ30
import Derived.Lib.ConvBytes
import Derived.Laws.BytesArg
namespace Go.Proofs.YtiigknimfibdpaaGreatDoor.ch
open Go.RowKit Go.Lib
set_option linter.unusedVariables false
/-- All names, in order, and their charsets. -/
def nmL : List (ByteArray × Int) := [(⟨#[108, 97, 116, 105, 110, 49]⟩, 0), (⟨#[105, 115, 111, 45, 56, 56, 53, 57, 45, 49]⟩, 0), (⟨#[108, 97, 116, 105, 110, 45, 49]⟩, 0), (⟨#[107, 111, 105, 56, 45, 114]⟩, 1), (⟨#[107, 111, 105, 56, 114]⟩, 1), (⟨#[107, 111, 105, 56, 45, 117]⟩, 2), (⟨#[107, 111, 105, 56, 117]⟩, 2), (⟨#[99, 112, 56, 54, 54]⟩, 3), (⟨#[105, 98, 109, 56, 54, 54]⟩, 3), (⟨#[99, 112, 57, 52, 57]⟩, 4), (⟨#[101, 117, 99, 45, 107, 114]⟩, 4), (⟨#[117, 104, 99]⟩, 4), (⟨#[106, 111, 104, 97, 98]⟩, 5), (⟨#[99, 112, 49, 51, 54, 49]⟩, 5), (⟨#[98, 105, 103, 53, 45, 104, 107, 115, 99, 115]⟩, 6), (⟨#[98, 105, 103, 53]⟩, 6), (⟨#[117, 116, 102, 45, 56]⟩, 7), (⟨#[117, 116, 102, 56]⟩, 7), (⟨#[117, 116, 102, 45, 49, 54, 108, 101]⟩, 8), (⟨#[117, 116, 102, 49, 54, 108, 101]⟩, 8), (⟨#[117, 116, 102, 45, 49, 54, 98, 101]⟩, 9), (⟨#[117, 116, 102, 49, 54, 98, 101]⟩, 9)]
def nmS (j : Nat) : ByteArray := (nmL.getD j (⟨#[]⟩, 0)).1
def nmC (j : Nat) : Int := (nmL.getD j (⟨#[]⟩, 0)).2
/-- The table of names holds what the text lays. -/
structure NM (w : World) : Prop where
  s0 : w.cell? ⟨0, 0, none⟩ = some (.string ⟨#[108, 97, 116, 105, 110, 49]⟩)
  c0 : w.cell? ⟨0, 1, none⟩ = some (.int .i64 0)
  s1 : w.cell? ⟨0, 2, none⟩ = some (.string ⟨#[105, 115, 111, 45, 56, 56, 53, 57, 45, 49]⟩)
  c1 : w.cell? ⟨0, 3, none⟩ = some (.int .i64 0)
  s2 : w.cell? ⟨0, 4, none⟩ = some (.string ⟨#[108, 97, 116, 105, 110, 45, 49]⟩)
  c2 : w.cell? ⟨0, 5, none⟩ = some (.int .i64 0)
  s3 : w.cell? ⟨0, 6, none⟩ = some (.string ⟨#[107, 111, 105, 56, 45, 114]⟩)
  c3 : w.cell? ⟨0, 7, none⟩ = some (.int .i64 1)
  s4 : w.cell? ⟨0, 8, none⟩ = some (.string ⟨#[107, 111, 105, 56, 114]⟩)
  c4 : w.cell? ⟨0, 9, none⟩ = some (.int .i64 1)
  s5 : w.cell? ⟨0, 10, none⟩ = some (.string ⟨#[107, 111, 105, 56, 45, 117]⟩)
  c5 : w.cell? ⟨0, 11, none⟩ = some (.int .i64 2)
  s6 : w.cell? ⟨0, 12, none⟩ = some (.string ⟨#[107, 111, 105, 56, 117]⟩)
  c6 : w.cell? ⟨0, 13, none⟩ = some (.int .i64 2)
  s7 : w.cell? ⟨0, 14, none⟩ = some (.string ⟨#[99, 112, 56, 54, 54]⟩)
  c7 : w.cell? ⟨0, 15, none⟩ = some (.int .i64 3)
  s8 : w.cell? ⟨0, 16, none⟩ = some (.string ⟨#[105, 98, 109, 56, 54, 54]⟩)
  c8 : w.cell? ⟨0, 17, none⟩ = some (.int .i64 3)
  s9 : w.cell? ⟨0, 18, none⟩ = some (.string ⟨#[99, 112, 57, 52, 57]⟩)
  c9 : w.cell? ⟨0, 19, none⟩ = some (.int .i64 4)
  s10 : w.cell? ⟨0, 20, none⟩ = some (.string ⟨#[101, 117, 99, 45, 107, 114]⟩)
  c10 : w.cell? ⟨0, 21, none⟩ = some (.int .i64 4)
  s11 : w.cell? ⟨0, 22, none⟩ = some (.string ⟨#[117, 104, 99]⟩)
  c11 : w.cell? ⟨0, 23, none⟩ = some (.int .i64 4)
  s12 : w.cell? ⟨0, 24, none⟩ = some (.string ⟨#[106, 111, 104, 97, 98]⟩)
  c12 : w.cell? ⟨0, 25, none⟩ = some (.int .i64 5)
  s13 : w.cell? ⟨0, 26, none⟩ = some (.string ⟨#[99, 112, 49, 51, 54, 49]⟩)
  c13 : w.cell? ⟨0, 27, none⟩ = some (.int .i64 5)
  s14 : w.cell? ⟨0, 28, none⟩ = some (.string ⟨#[98, 105, 103, 53, 45, 104, 107, 115, 99, 115]⟩)
  c14 : w.cell? ⟨0, 29, none⟩ = some (.int .i64 6)
  s15 : w.cell? ⟨0, 30, none⟩ = some (.string ⟨#[98, 105, 103, 53]⟩)
  c15 : w.cell? ⟨0, 31, none⟩ = some (.int .i64 6)
  s16 : w.cell? ⟨0, 32, none⟩ = some (.string ⟨#[117, 116, 102, 45, 56]⟩)
  c16 : w.cell? ⟨0, 33, none⟩ = some (.int .i64 7)
  s17 : w.cell? ⟨0, 34, none⟩ = some (.string ⟨#[117, 116, 102, 56]⟩)
  c17 : w.cell? ⟨0, 35, none⟩ = some (.int .i64 7)
  s18 : w.cell? ⟨0, 36, none⟩ = some (.string ⟨#[117, 116, 102, 45, 49, 54, 108, 101]⟩)
  c18 : w.cell? ⟨0, 37, none⟩ = some (.int .i64 8)
  s19 : w.cell? ⟨0, 38, none⟩ = some (.string ⟨#[117, 116, 102, 49, 54, 108, 101]⟩)
  c19 : w.cell? ⟨0, 39, none⟩ = some (.int .i64 8)
  s20 : w.cell? ⟨0, 40, none⟩ = some (.string ⟨#[117, 116, 102, 45, 49, 54, 98, 101]⟩)
  c20 : w.cell? ⟨0, 41, none⟩ = some (.int .i64 9)
  s21 : w.cell? ⟨0, 42, none⟩ = some (.string ⟨#[117, 116, 102, 49, 54, 98, 101]⟩)
  c21 : w.cell? ⟨0, 43, none⟩ = some (.int .i64 9)
theorem NM.lt {w : World} (h : NM w) : 0 < w.heap.size := World.block_lt_of_cell? w _ h.s0
theorem NM.below {w w' : World} (h : NM w) {B : Nat} (hb : Below B w w') (hB : 0 < B) : NM w' :=
  ⟨(hb.cell (p := ⟨0, 0, none⟩) hB).trans h.s0, (hb.cell (p := ⟨0, 1, none⟩) hB).trans h.c0, (hb.cell (p := ⟨0, 2, none⟩) hB).trans h.s1, (hb.cell (p := ⟨0, 3, none⟩) hB).trans h.c1, (hb.cell (p := ⟨0, 4, none⟩) hB).trans h.s2, (hb.cell (p := ⟨0, 5, none⟩) hB).trans h.c2, (hb.cell (p := ⟨0, 6, none⟩) hB).trans h.s3, (hb.cell (p := ⟨0, 7, none⟩) hB).trans h.c3, (hb.cell (p := ⟨0, 8, none⟩) hB).trans h.s4, (hb.cell (p := ⟨0, 9, none⟩) hB).trans h.c4, (hb.cell (p := ⟨0, 10, none⟩) hB).trans h.s5, (hb.cell (p := ⟨0, 11, none⟩) hB).trans h.c5, (hb.cell (p := ⟨0, 12, none⟩) hB).trans h.s6, (hb.cell (p := ⟨0, 13, none⟩) hB).trans h.c6, (hb.cell (p := ⟨0, 14, none⟩) hB).trans h.s7, (hb.cell (p := ⟨0, 15, none⟩) hB).trans h.c7, (hb.cell (p := ⟨0, 16, none⟩) hB).trans h.s8, (hb.cell (p := ⟨0, 17, none⟩) hB).trans h.c8, (hb.cell (p := ⟨0, 18, none⟩) hB).trans h.s9, (hb.cell (p := ⟨0, 19, none⟩) hB).trans h.c9, (hb.cell (p := ⟨0, 20, none⟩) hB).trans h.s10, (hb.cell (p := ⟨0, 21, none⟩) hB).trans h.c10, (hb.cell (p := ⟨0, 22, none⟩) hB).trans h.s11, (hb.cell (p := ⟨0, 23, none⟩) hB).trans h.c11, (hb.cell (p := ⟨0, 24, none⟩) hB).trans h.s12, (hb.cell (p := ⟨0, 25, none⟩) hB).trans h.c12, (hb.cell (p := ⟨0, 26, none⟩) hB).trans h.s13, (hb.cell (p := ⟨0, 27, none⟩) hB).trans h.c13, (hb.cell (p := ⟨0, 28, none⟩) hB).trans h.s14, (hb.cell (p := ⟨0, 29, none⟩) hB).trans h.c14, (hb.cell (p := ⟨0, 30, none⟩) hB).trans h.s15, (hb.cell (p := ⟨0, 31, none⟩) hB).trans h.c15, (hb.cell (p := ⟨0, 32, none⟩) hB).trans h.s16, (hb.cell (p := ⟨0, 33, none⟩) hB).trans h.c16, (hb.cell (p := ⟨0, 34, none⟩) hB).trans h.s17, (hb.cell (p := ⟨0, 35, none⟩) hB).trans h.c17, (hb.cell (p := ⟨0, 36, none⟩) hB).trans h.s18, (hb.cell (p := ⟨0, 37, none⟩) hB).trans h.c18, (hb.cell (p := ⟨0, 38, none⟩) hB).trans h.s19, (hb.cell (p := ⟨0, 39, none⟩) hB).trans h.c19, (hb.cell (p := ⟨0, 40, none⟩) hB).trans h.s20, (hb.cell (p := ⟨0, 41, none⟩) hB).trans h.c20, (hb.cell (p := ⟨0, 42, none⟩) hB).trans h.s21, (hb.cell (p := ⟨0, 43, none⟩) hB).trans h.c21⟩
theorem NM.stay {w w' : World} (h : NM w) (hb : Below w.heap.size w w') : NM w' := h.below hb h.lt
def nmV : Array Value := #[.string ⟨#[108, 97, 116, 105, 110, 49]⟩, .int .i64 0, .string ⟨#[105, 115, 111, 45, 56, 56, 53, 57, 45, 49]⟩, .int .i64 0, .string ⟨#[108, 97, 116, 105, 110, 45, 49]⟩, .int .i64 0, .string ⟨#[107, 111, 105, 56, 45, 114]⟩, .int .i64 1, .string ⟨#[107, 111, 105, 56, 114]⟩, .int .i64 1, .string ⟨#[107, 111, 105, 56, 45, 117]⟩, .int .i64 2, .string ⟨#[107, 111, 105, 56, 117]⟩, .int .i64 2, .string ⟨#[99, 112, 56, 54, 54]⟩, .int .i64 3, .string ⟨#[105, 98, 109, 56, 54, 54]⟩, .int .i64 3, .string ⟨#[99, 112, 57, 52, 57]⟩, .int .i64 4, .string ⟨#[101, 117, 99, 45, 107, 114]⟩, .int .i64 4, .string ⟨#[117, 104, 99]⟩, .int .i64 4, .string ⟨#[106, 111, 104, 97, 98]⟩, .int .i64 5, .string ⟨#[99, 112, 49, 51, 54, 49]⟩, .int .i64 5, .string ⟨#[98, 105, 103, 53, 45, 104, 107, 115, 99, 115]⟩, .int .i64 6, .string ⟨#[98, 105, 103, 53]⟩, .int .i64 6, .string ⟨#[117, 116, 102, 45, 56]⟩, .int .i64 7, .string ⟨#[117, 116, 102, 56]⟩, .int .i64 7, .string ⟨#[117, 116, 102, 45, 49, 54, 108, 101]⟩, .int .i64 8, .string ⟨#[117, 116, 102, 49, 54, 108, 101]⟩, .int .i64 8, .string ⟨#[117, 116, 102, 45, 49, 54, 98, 101]⟩, .int .i64 9, .string ⟨#[117, 116, 102, 49, 54, 98, 101]⟩, .int .i64 9]
theorem nm_at0 (wx : World) : (Instr.index 87 (.agg nmV) (.int .i64 0)).run Tryz.prog wx = .ok (.agg #[.string (nmS 0), .int .i64 (nmC 0)]) wx := by kernel_rfl
theorem nm_at1 (wx : World) : (Instr.index 87 (.agg nmV) (.int .i64 1)).run Tryz.prog wx = .ok (.agg #[.string (nmS 1), .int .i64 (nmC 1)]) wx := by kernel_rfl
theorem nm_at2 (wx : World) : (Instr.index 87 (.agg nmV) (.int .i64 2)).run Tryz.prog wx = .ok (.agg #[.string (nmS 2), .int .i64 (nmC 2)]) wx := by kernel_rfl
theorem nm_at3 (wx : World) : (Instr.index 87 (.agg nmV) (.int .i64 3)).run Tryz.prog wx = .ok (.agg #[.string (nmS 3), .int .i64 (nmC 3)]) wx := by kernel_rfl
theorem nm_at4 (wx : World) : (Instr.index 87 (.agg nmV) (.int .i64 4)).run Tryz.prog wx = .ok (.agg #[.string (nmS 4), .int .i64 (nmC 4)]) wx := by kernel_rfl
theorem nm_at5 (wx : World) : (Instr.index 87 (.agg nmV) (.int .i64 5)).run Tryz.prog wx = .ok (.agg #[.string (nmS 5), .int .i64 (nmC 5)]) wx := by kernel_rfl
theorem nm_at6 (wx : World) : (Instr.index 87 (.agg nmV) (.int .i64 6)).run Tryz.prog wx = .ok (.agg #[.string (nmS 6), .int .i64 (nmC 6)]) wx := by kernel_rfl
theorem nm_at7 (wx : World) : (Instr.index 87 (.agg nmV) (.int .i64 7)).run Tryz.prog wx = .ok (.agg #[.string (nmS 7), .int .i64 (nmC 7)]) wx := by kernel_rfl
theorem nm_at8 (wx : World) : (Instr.index 87 (.agg nmV) (.int .i64 8)).run Tryz.prog wx = .ok (.agg #[.string (nmS 8), .int .i64 (nmC 8)]) wx := by kernel_rfl
theorem nm_at9 (wx : World) : (Instr.index 87 (.agg nmV) (.int .i64 9)).run Tryz.prog wx = .ok (.agg #[.string (nmS 9), .int .i64 (nmC 9)]) wx := by kernel_rfl
theorem nm_at10 (wx : World) : (Instr.index 87 (.agg nmV) (.int .i64 10)).run Tryz.prog wx = .ok (.agg #[.string (nmS 10), .int .i64 (nmC 10)]) wx := by kernel_rfl
theorem nm_at11 (wx : World) : (Instr.index 87 (.agg nmV) (.int .i64 11)).run Tryz.prog wx = .ok (.agg #[.string (nmS 11), .int .i64 (nmC 11)]) wx := by kernel_rfl
theorem nm_at12 (wx : World) : (Instr.index 87 (.agg nmV) (.int .i64 12)).run Tryz.prog wx = .ok (.agg #[.string (nmS 12), .int .i64 (nmC 12)]) wx := by kernel_rfl
theorem nm_at13 (wx : World) : (Instr.index 87 (.agg nmV) (.int .i64 13)).run Tryz.prog wx = .ok (.agg #[.string (nmS 13), .int .i64 (nmC 13)]) wx := by kernel_rfl
theorem nm_at14 (wx : World) : (Instr.index 87 (.agg nmV) (.int .i64 14)).run Tryz.prog wx = .ok (.agg #[.string (nmS 14), .int .i64 (nmC 14)]) wx := by kernel_rfl
theorem nm_at15 (wx : World) : (Instr.index 87 (.agg nmV) (.int .i64 15)).run Tryz.prog wx = .ok (.agg #[.string (nmS 15), .int .i64 (nmC 15)]) wx := by kernel_rfl
theorem nm_at16 (wx : World) : (Instr.index 87 (.agg nmV) (.int .i64 16)).run Tryz.prog wx = .ok (.agg #[.string (nmS 16), .int .i64 (nmC 16)]) wx := by kernel_rfl
theorem nm_at17 (wx : World) : (Instr.index 87 (.agg nmV) (.int .i64 17)).run Tryz.prog wx = .ok (.agg #[.string (nmS 17), .int .i64 (nmC 17)]) wx := by kernel_rfl
theorem nm_at18 (wx : World) : (Instr.index 87 (.agg nmV) (.int .i64 18)).run Tryz.prog wx = .ok (.agg #[.string (nmS 18), .int .i64 (nmC 18)]) wx := by kernel_rfl
theorem nm_at19 (wx : World) : (Instr.index 87 (.agg nmV) (.int .i64 19)).run Tryz.prog wx = .ok (.agg #[.string (nmS 19), .int .i64 (nmC 19)]) wx := by kernel_rfl
theorem nm_at20 (wx : World) : (Instr.index 87 (.agg nmV) (.int .i64 20)).run Tryz.prog wx = .ok (.agg #[.string (nmS 20), .int .i64 (nmC 20)]) wx := by kernel_rfl
theorem nm_at21 (wx : World) : (Instr.index 87 (.agg nmV) (.int .i64 21)).run Tryz.prog wx = .ok (.agg #[.string (nmS 21), .int .i64 (nmC 21)]) wx := by kernel_rfl
theorem nm_at (j : Nat) (hj : j < 22) (wx : World) : (Instr.index 87 (.agg nmV) (.int .i64 (j : Int))).run Tryz.prog wx = .ok (.agg #[.string (nmS j), .int .i64 (nmC j)]) wx := by
  match j, hj with
  | 0, _ => exact nm_at0 wx
  | 1, _ => exact nm_at1 wx
  | 2, _ => exact nm_at2 wx
  | 3, _ => exact nm_at3 wx
  | 4, _ => exact nm_at4 wx
  | 5, _ => exact nm_at5 wx
  | 6, _ => exact nm_at6 wx
  | 7, _ => exact nm_at7 wx
  | 8, _ => exact nm_at8 wx
  | 9, _ => exact nm_at9 wx
  | 10, _ => exact nm_at10 wx
  | 11, _ => exact nm_at11 wx
  | 12, _ => exact nm_at12 wx
  | 13, _ => exact nm_at13 wx
  | 14, _ => exact nm_at14 wx
  | 15, _ => exact nm_at15 wx
  | 16, _ => exact nm_at16 wx
  | 17, _ => exact nm_at17 wx
  | 18, _ => exact nm_at18 wx
  | 19, _ => exact nm_at19 wx
  | 20, _ => exact nm_at20 wx
  | 21, _ => exact nm_at21 wx
  | n + 22, h => exact absurd h (by omega)
/-- A text, its capitals as small letters. -/
def low (s : ByteArray) : ByteArray := ⟨(s.data.toList.map fun x => UInt8.ofNat (lowb x.toNat)).toArray⟩
theorem lowb_lt {n : Nat} (h : n < 256) : lowb n < 256 := by unfold lowb; split <;> omega
theorem low_size (s : ByteArray) : (low s).size = s.size := by
  show (s.data.toList.map _).toArray.size = s.size
  simp
theorem low_bt (s : ByteArray) (k : Nat) (h : k < s.size) : bt (low s) k = lowb (bt s k) := by
  have hl := size_list s
  unfold bt low
  simp only [List.getD_eq_getElem?_getD, List.getElem?_map, List.getElem?_eq_getElem (show k < s.data.toList.length by omega), Option.map_some, Option.getD_some]
  have := lowb_lt (s.data.toList[k]).toNat_lt
  rw [UInt8.toNat_ofNat']
  exact Nat.mod_eq_of_lt this
/-- The row while it is made small: k of its bytes are. -/
structure Lr (w0 W : World) (s : ByteArray) (j : Nat) : Prop where
  b : Below w0.heap.size w0 W
  lt : w0.heap.size < W.heap.size
  c : ∀ k, k < s.size → W.cell? ⟨w0.heap.size, k, none⟩ = some (.int .u8 (((if k < j then lowb (bt s k) else bt s k) : Nat) : Int))
  f : ∀ k, k < s.size → W.frozen? ⟨w0.heap.size, k, none⟩ = false
theorem Lr.same {w0 W : World} {s : ByteArray} {j : Nat} (h : Lr w0 W s j) (hj : j < s.size) (he : lowb (bt s j) = bt s j) : Lr w0 W s (j + 1) := by
  refine ⟨h.b, h.lt, fun k hk => ?_, h.f⟩
  rw [h.c k hk]
  by_cases e : k = j
  · subst e; rw [if_neg (by omega), if_pos (by omega), he]
  · by_cases e2 : k < j
    · rw [if_pos e2, if_pos (by omega)]
    · rw [if_neg e2, if_neg (by omega)]
theorem Lr.put {w0 W : World} {s : ByteArray} {j : Nat} (h : Lr w0 W s j) (hj : j < s.size) : Lr w0 (W.setCell ⟨w0.heap.size, j, none⟩ (.int .u8 ((lowb (bt s j) : Nat) : Int))) s (j + 1) := by
  refine ⟨h.b.setCell (Nat.le_refl _) _, by simpa [World.setCell] using h.lt, fun k hk => ?_, fun k hk => by rw [World.frozen?_setCell]; exact h.f k hk⟩
  by_cases e : k = j
  · subst e
    rw [if_pos (by omega)]
    exact World.cell?_setCell_same (w := W) _ _ (h.c k hk)
  · rw [World.cell?_setCell_other (a := ⟨w0.heap.size, j, none⟩) (b := ⟨w0.heap.size, k, none⟩) W _ (by intro h2; injection h2 with h3 h4; omega), h.c k hk]
    by_cases e2 : k < j
    · rw [if_pos e2, if_pos (by omega)]
    · rw [if_neg e2, if_neg (by omega)]
theorem below_bytes (w : World) (e : TypeId) (s : ByteArray) : Below w.heap.size w (bytesWorld w e s) := by
  refine ⟨?_, ?_, ?_, by rw [bytesWorld_size]; omega, fun i hi => bytesWorld_at_old w e s i hi⟩ <;> simp [bytesWorld, World.freeze, World.alloc, World.drew, -World.alloc_eq, -World.drew_eq]
theorem bytes_new (w : World) (s : ByteArray) (hs : s.size ≤ 4000) : Lr w (bytesWorld w 5 s) s 0 := by
  refine ⟨below_bytes w _ s, by rw [bytesWorld_size]; omega, fun k hk => ?_, fun k hk => ?_⟩
  · rw [if_neg (by omega)]
    exact bytesWorld_cell w _ s k hk
  · have h1 : s.size ≤ (bytesCells w 5 s).size := by unfold bytesCells; simp
    have h2 := bytesWorld_at_new w 5 s
    unfold World.frozen?
    simp only [h2]
    simp
    omega
end Go.Proofs.YtiigknimfibdpaaGreatDoor.ch
namespace Go.Proofs.YtiigknimfibdpaaGreatDoor.ch
open Go.RowKit Go.Lib
set_option linter.unusedVariables false
theorem conv_in (w : World) (s : ByteArray) : (convert 9 98 (.string s)).run Tryz.prog w = .ok (.slice (some ⟨w.heap.size, 0, none⟩) s.size (grownCap w s.size 0 5)) (bytesWorld w 5 s) :=
  Lib.run_convert_string_bytes w 9 98 5 s Tryz.underlying9 Tryz.underlying98 Tryz.underlying5
theorem conv_low {w0 W : World} {s : ByteArray} (h : Lr w0 W s s.size) (cap : Nat) : (convert 98 9 (.slice (some ⟨w0.heap.size, 0, none⟩) s.size cap)).run Tryz.prog W = .ok (.string (low s)) W := by
  have h1 := run_convert_bytes_arg (P := Tryz.prog) W 98 5 Tryz.underlying98 Tryz.underlying5 w0.heap.size 0 s.size cap ((low s).data.toList.map fun (b : UInt8) => (b.toNat : Int)) (by rw [List.length_map, size_list, low_size]) (fun i hi => by
    rw [Nat.zero_add, h.c i hi, if_pos hi, ← low_bt s i hi]
    have hl := size_list (low s)
    have hz := low_size s
    unfold bt
    simp [List.getD, List.getElem?_map, List.getElem?_eq_getElem (show i < (low s).data.toList.length by omega)]) 9 Tryz.underlying9
  rw [h1, pt.str_back]
set_option maxRecDepth 100000 in
set_option maxHeartbeats 2000000 in
theorem lower_any (s : ByteArray) (w : World) (hs : s.size ≤ 4000) : Calls Tryz.prog 51 #[.string s] w fun e w' => e = .returned (.string (low s)) ∧ Below w.heap.size w w' := by
  have hcv := fun W => conv_in W s
  have L0 := Lib.hid (bytes_new w s hs)
  generalize grownCap w s.size 0 5 = CAP at *
  have hcw : (convert 9 98 (.string s)).run Tryz.prog w = .ok (.slice (some ⟨w.heap.size, 0, none⟩) s.size (grownCap w s.size 0 5)) (bytesWorld w 5 s) := hcv w
  generalize grownCap w s.size 0 5 = CAP at *
  generalize bytesWorld w 5 s = W0 at *
  clear hcv
  go_enter Tryz.func51, Tryz.ntmps51
  go_wp2_with fail
  clear hcw
  go_loopw [10] (fun i wr => ∃ j : Nat, j ≤ s.size ∧ i = .int .i64 j ∧ Lr w wr s j) (fun i _ => s.size - (RowKit.intOf i).toNat)
  case atStart => exact ⟨0, Nat.zero_le _, rfl, L0.out⟩
  case round =>
    obtain ⟨j, hj, rfl, hL⟩ := hrel
    have HL := Lib.hid hL
    clear hL L0
    by_cases hlt : j < s.size
    · have hcell := HL.out.c j hlt
      rw [if_neg (by omega)] at hcell
      have hfr := HL.out.f j hlt
      have hb := bt_lt s j
      by_cases h65 : 65 ≤ bt s j ∧ bt s j ≤ 90
      · have hp := HL.out.put hlt
        have e : lowb (bt s j) = bt s j + 32 := by unfold lowb; rw [if_pos h65]
        rw [e] at hp
        have HP := Lib.hid hp
        have k0 : (65 : Int) ≤ ((bt s j : Nat) : Int) := by omega
        have k1 : ((bt s j : Nat) : Int) ≤ 90 := by omega
        have k2 : (((bt s j + 32 : Nat) : Nat) : Int) = ((bt s j : Nat) : Int) - 65 + 97 := by omega
        rw [k2] at HP
        clear hp e h65 k2 hb
        generalize ((bt s j : Nat) : Int) = B at *
        go_wp2_with fail
        go_roundw
        case rel => exact ⟨j + 1, by omega, by go_num, HP.out⟩
        case measure => simp [RowKit.intOf]; omega
      · have e : lowb (bt s j) = bt s j := by unfold lowb; rw [if_neg h65]
        have HP := Lib.hid (HL.out.same hlt e)
        have hh : ((bt s j : Nat) : Int) < 65 ∨ ((65 : Int) ≤ ((bt s j : Nat) : Int) ∧ (90 : Int) < ((bt s j : Nat) : Int)) := by omega
        have k1 : ((bt s j : Nat) : Int) < 256 := by omega
        have k2 : 0 ≤ ((bt s j : Nat) : Int) := by omega
        clear e h65 hb
        generalize ((bt s j : Nat) : Int) = B at *
        rcases hh with k0 | ⟨k0, k3⟩
        · go_wp2_with fail
          go_roundw
          case rel => exact ⟨j + 1, by omega, by go_num, HP.out⟩
          case measure => simp [RowKit.intOf]; omega
        · go_wp2_with fail
          go_roundw
          case rel => exact ⟨j + 1, by omega, by go_num, HP.out⟩
          case measure => simp [RowKit.intOf]; omega
    · obtain rfl : j = s.size := by omega
      have hcv := fun cap => conv_low HL.out cap
      go_wp2_with fail
      go_ret
      exact ⟨rfl, HL.out.b⟩
end Go.Proofs.YtiigknimfibdpaaGreatDoor.ch
namespace Go.Proofs.YtiigknimfibdpaaGreatDoor.ch
open Go.RowKit Go.Lib
set_option linter.unusedVariables false
/-- The first of the names from j on that is a text. -/
def fnd (L : ByteArray) : Nat → Nat → Option Nat
  | 0, _ => none
  | f + 1, j => if nmS j = L then some j else fnd L f (j + 1)
def fd (L : ByteArray) : Option Nat := fnd L 22 0
def fdC (L : ByteArray) : Int := match fd L with | some j => nmC j | none => 0
/-- A block of a name and its charset. -/
theorem named_new (w : World) (x : ByteArray) (c : Int) (t : TypeId) : (w.alloc (.cells #[.string x, .int .i64 c] t)).cell? ⟨w.heap.size, 0, none⟩ = some (.string x) ∧ (w.alloc (.cells #[.string x, .int .i64 c] t)).cell? ⟨w.heap.size, 1, none⟩ = some (.int .i64 c) := by
  constructor <;> (rw [World.cell?_alloc_mark]; rfl)
theorem nm_load (W : World) (h : NM W) : (loadVar 87 ⟨0, 0, none⟩).run Tryz.prog W = .ok (.agg nmV) W := by
  obtain ⟨s0, c0, s1, c1, s2, c2, s3, c3, s4, c4, s5, c5, s6, c6, s7, c7, s8, c8, s9, c9, s10, c10, s11, c11, s12, c12, s13, c13, s14, c14, s15, c15, s16, c16, s17, c17, s18, c18, s19, c19, s20, c20, s21, c21⟩ := h
  have hl : (loadCells ⟨0, 0, none⟩ nmV.toList.length).run Tryz.prog W = .ok nmV.toList.toArray W := run_loadCells_list (P := Tryz.prog) W ⟨0, 0, none⟩ nmV.toList (fun j v hv => by
    have hadd : (⟨0, 0, none⟩ : Addr).add j = ⟨0, j, none⟩ := by unfold Addr.add; split <;> simp_all
    rw [hadd]
    match j, hv with
    | 0, hv => injection hv with hv; subst hv; exact s0
    | 1, hv => injection hv with hv; subst hv; exact c0
    | 2, hv => injection hv with hv; subst hv; exact s1
    | 3, hv => injection hv with hv; subst hv; exact c1
    | 4, hv => injection hv with hv; subst hv; exact s2
    | 5, hv => injection hv with hv; subst hv; exact c2
    | 6, hv => injection hv with hv; subst hv; exact s3
    | 7, hv => injection hv with hv; subst hv; exact c3
    | 8, hv => injection hv with hv; subst hv; exact s4
    | 9, hv => injection hv with hv; subst hv; exact c4
    | 10, hv => injection hv with hv; subst hv; exact s5
    | 11, hv => injection hv with hv; subst hv; exact c5
    | 12, hv => injection hv with hv; subst hv; exact s6
    | 13, hv => injection hv with hv; subst hv; exact c6
    | 14, hv => injection hv with hv; subst hv; exact s7
    | 15, hv => injection hv with hv; subst hv; exact c7
    | 16, hv => injection hv with hv; subst hv; exact s8
    | 17, hv => injection hv with hv; subst hv; exact c8
    | 18, hv => injection hv with hv; subst hv; exact s9
    | 19, hv => injection hv with hv; subst hv; exact c9
    | 20, hv => injection hv with hv; subst hv; exact s10
    | 21, hv => injection hv with hv; subst hv; exact c10
    | 22, hv => injection hv with hv; subst hv; exact s11
    | 23, hv => injection hv with hv; subst hv; exact c11
    | 24, hv => injection hv with hv; subst hv; exact s12
    | 25, hv => injection hv with hv; subst hv; exact c12
    | 26, hv => injection hv with hv; subst hv; exact s13
    | 27, hv => injection hv with hv; subst hv; exact c13
    | 28, hv => injection hv with hv; subst hv; exact s14
    | 29, hv => injection hv with hv; subst hv; exact c14
    | 30, hv => injection hv with hv; subst hv; exact s15
    | 31, hv => injection hv with hv; subst hv; exact c15
    | 32, hv => injection hv with hv; subst hv; exact s16
    | 33, hv => injection hv with hv; subst hv; exact c16
    | 34, hv => injection hv with hv; subst hv; exact s17
    | 35, hv => injection hv with hv; subst hv; exact c17
    | 36, hv => injection hv with hv; subst hv; exact s18
    | 37, hv => injection hv with hv; subst hv; exact c18
    | 38, hv => injection hv with hv; subst hv; exact s19
    | 39, hv => injection hv with hv; subst hv; exact c19
    | 40, hv => injection hv with hv; subst hv; exact s20
    | 41, hv => injection hv with hv; subst hv; exact c20
    | 42, hv => injection hv with hv; subst hv; exact s21
    | 43, hv => injection hv with hv; subst hv; exact c21
    | n + 44, hv => exact absurd (List.getElem?_eq_some_iff.1 hv).1 (by show ¬ n + 44 < 44; omega))
  have e : nmV.toList.length = 44 := rfl
  rw [e] at hl
  have hagg : (isAgg 87).run Tryz.prog W = .ok true W := by kernel_rfl
  have hsz : (sizeOf 87).run Tryz.prog W = .ok 44 W := by kernel_rfl
  have h2 : (Sem.run Tryz.prog (loadVar 87 ⟨0, 0, none⟩) W) = (Result.ok true W).andThen fun b w' => (Sem.run Tryz.prog (if b = true then (do let n ← sizeOf 87; let c ← loadCells ⟨0, 0, none⟩ n; pure (Value.agg c)) else load ⟨0, 0, none⟩) w') := by
    unfold loadVar
    rw [Sem.run_bind, hagg]
  rw [h2]
  simp only [Result.andThen_ok, if_true, Sem.run_bind, hsz, hl, Sem.run_pure]
theorem wpList_load_eq {P : Program} {ops : Array Oper} {rest : List Oper} {o : Oper} {a : Act} {w : World} {Q : Exit → Act → World → Prop} (hgd : o.guard = none) (ty : TypeId) (x : Operand) (ho : o.op = .load ty x)
    (ad : Addr) (hx : a.eval x = .pointer (some ad)) (v : Value) (hl : (loadVar ty ad).run P w = .ok v w) (h : wpList P ops Q rest (a.put o.dst v) w) : wpList P ops Q (o :: rest) a w :=
  wpList_plain hgd fun _ hK => by
    unfold Oper.wp execOp
    simp only [ho, hx, Instr.loadAt, Instr.sureAddr, Sem.run_bind, Sem.run_pure, Result.andThen_ok, hl]
    exact hK _ _ h
set_option maxRecDepth 100000 in
set_option maxHeartbeats 4000000 in
theorem Named_row (s : ByteArray) (w : World) (hN : NM w) (hs : s.size ≤ 4000) : Calls Tryz.prog 32 #[.string s] w fun e w' => e = .returned (.tuple #[.int .i64 (fdC (low s)), .bool (fd (low s)).isSome]) ∧ Below w.heap.size w w' := by
  have HLW := Lib.hid (lower_any s w hs)
  generalize low s = L at *
  have HN := Lib.hid hN
  have hat : ∀ (j : Nat) (wx : World), j < 22 → (Instr.index 87 (.agg nmV) (.int .i64 (j : Int))).run Tryz.prog wx = .ok (.agg #[.string (nmS j), .int .i64 (nmC j)]) wx := fun j wx h => nm_at j h wx
  have HAT := Lib.hid hat
  clear hN hat
  go_enter Tryz.func32, Tryz.ntmps32
  go_wp2_with (first | (refine wpList_load_eq rfl 87 _ rfl ⟨0, 0, none⟩ rfl _ hld ?_; clear hld) | (go_at_call 51; refine (HLW.out).mono ?_; rintro e1 w1 ⟨rfl, hb1⟩; have B1 := Lib.hid hb1; have hld := nm_load _ (HN.out.stay hb1); clear hb1))
  clear HLW
  generalize nmV = NV at *
  go_loopw [10] (fun i wr => ∃ j f : Nat, j + f = 22 ∧ i = .int .i64 j ∧ Below w.heap.size w wr ∧ fnd L f j = fd L) (fun i _ => 22 - (RowKit.intOf i).toNat)
  case atStart => exact ⟨0, 22, rfl, rfl, B1.out, rfl⟩
  case round =>
    obtain ⟨j, f, hj, rfl, hB, hf⟩ := hrel
    have HB := Lib.hid hB
    have HF := Lib.hid hf
    clear hB hf
    by_cases hlt : j < 22
    · have hix := fun wx => HAT.out j wx hlt
      obtain ⟨f, rfl⟩ : ∃ f', f = f' + 1 := ⟨f - 1, by omega⟩
      have hf := HF.out
      unfold fnd at hf
      obtain ⟨z0, z1⟩ := named_new wr (nmS j) (nmC j) 86
      by_cases he : nmS j = L
      · rw [if_pos he] at hf
        have HV : Hid (fdC L = nmC j ∧ (fd L).isSome = true) := Lib.hid (by unfold fdC; rw [← hf]; exact ⟨rfl, rfl⟩)
        rw [he] at hix z0 z1
        have BW := Lib.hid (HB.out.alloc HB.out.size (.cells #[.string L, .int .i64 (nmC j)] 86))
        clear he hf
        generalize nmC j = C at *
        go_wp2_with fail
        go_ret2
        exact ⟨by show Ending.returned (.tuple #[.int .i64 C, .bool true]) = _; rw [HV.out.1, HV.out.2], BW.out⟩
      · rw [if_neg he] at hf
        have HF2 := Lib.hid hf
        have hq : ((nmS j).toList == L.toList) = false := by
          rw [beq_eq_false_iff_ne]
          intro h
          rw [ByteArray.toList_eq, ByteArray.toList_eq] at h
          exact he (ByteArray.ext (Array.ext' h))
        have BW := Lib.hid (HB.out.alloc HB.out.size (.cells #[.string (nmS j), .int .i64 (nmC j)] 86))
        clear he hf
        generalize nmC j = C at *
        generalize nmS j = S at *
        go_wp2_with fail
        go_roundw
        case rel => exact ⟨j + 1, f, by omega, by go_num, BW.out, HF2.out⟩
        case measure => simp [RowKit.intOf]; omega
    · obtain rfl : f = 0 := by omega
      have hf : none = fd L := HF.out
      have HV : Hid (fdC L = 0 ∧ (fd L).isSome = false) := Lib.hid (by unfold fdC; rw [← hf]; exact ⟨rfl, rfl⟩)
      clear hf
      go_wp2_with fail
      go_ret2
      exact ⟨by show Ending.returned (.tuple #[.int .i64 0, .bool false]) = _; rw [HV.out.1, HV.out.2], HB.out⟩
end Go.Proofs.YtiigknimfibdpaaGreatDoor.ch
namespace Go.Proofs.YtiigknimfibdpaaGreatDoor.ch
open Go.RowKit Go.Lib
set_option linter.unusedVariables false
theorem same_low (s x : ByteArray) : sameB s x = true ↔ x = low s := by
  constructor
  · intro h
    unfold sameB at h
    rw [Bool.and_eq_true, List.all_eq_true] at h
    have hz : s.size = x.size := by simpa using h.1
    apply ByteArray.ext
    apply Array.ext'
    apply List.ext_getElem
    · rw [size_list, size_list, low_size, hz]
    · intro i h1 h2
      have hi : i < s.size := by rw [size_list, low_size] at h2; exact h2
      have e := h.2 i (List.mem_range.2 hi)
      have e2 : lowb (bt s i) = bt x i := by simpa using e
      rw [← low_bt s i hi] at e2
      unfold bt at e2
      rw [List.getD_eq_getElem?_getD, List.getD_eq_getElem?_getD, List.getElem?_eq_getElem h1, List.getElem?_eq_getElem h2] at e2
      exact UInt8.toNat_inj.1 e2.symm
  · rintro rfl
    exact sameB_true (low_size s).symm (fun i hi => (low_bt s i hi).symm)
theorem nm_hit (s : ByteArray) (f c : Nat) (x : ByteArray) (hx : x ∈ labs (c : Int)) (h : x = low s) : nm s (f + 1) c = (c : Int) := by
  unfold nm
  rw [if_pos (List.any_eq_true.2 ⟨x, hx, (same_low s x).2 h⟩)]
theorem nm_miss (s : ByteArray) (f c : Nat) (h : ∀ x ∈ labs (c : Int), ¬ x = low s) : nm s (f + 1) c = nm s f (c + 1) := by
  conv => lhs; unfold nm
  rw [if_neg (fun hh => by
    obtain ⟨x, hx, h2⟩ := List.any_eq_true.1 hh
    exact h x hx ((same_low s x).1 h2))]
theorem fnd_hit {L : ByteArray} {f j : Nat} (h : nmS j = L) : fnd L (f + 1) j = some j := by unfold fnd; rw [if_pos h]
theorem fnd_miss {L : ByteArray} {f j : Nat} (h : ¬ nmS j = L) : fnd L (f + 1) j = fnd L f (j + 1) := by
  show (if nmS j = L then some j else fnd L f (j + 1)) = _
  rw [if_neg h]
/-- What both come to. -/
def Agree (s : ByteArray) : Prop := nmd s = (match fd (low s) with | some j => nmC j | none => -1)
theorem agree (s : ByteArray) : Agree s := by
  by_cases h0 : nmS 0 = low s
  · have e1 : fnd (low s) 22 0 = some 0 := fnd_hit h0
    have e2 : nm s 10 0 = 0 := nm_hit s 9 0 (nmS 0) (by unfold labs; simp [nmS, nmL]) h0
    unfold Agree nmd fd
    rw [e1, e2]; rfl
  by_cases h1 : nmS 1 = low s
  · have e1 : fnd (low s) 22 0 = some 1 := (fnd_miss h0).trans (fnd_hit h1)
    have e2 : nm s 10 0 = 0 := nm_hit s 9 0 (nmS 1) (by unfold labs; simp [nmS, nmL]) h1
    unfold Agree nmd fd
    rw [e1, e2]; rfl
  by_cases h2 : nmS 2 = low s
  · have e1 : fnd (low s) 22 0 = some 2 := (fnd_miss h0).trans ((fnd_miss h1).trans (fnd_hit h2))
    have e2 : nm s 10 0 = 0 := nm_hit s 9 0 (nmS 2) (by unfold labs; simp [nmS, nmL]) h2
    unfold Agree nmd fd
    rw [e1, e2]; rfl
  by_cases h3 : nmS 3 = low s
  · have e1 : fnd (low s) 22 0 = some 3 := (fnd_miss h0).trans ((fnd_miss h1).trans ((fnd_miss h2).trans (fnd_hit h3)))
    have e2 : nm s 10 0 = 1 := (nm_miss s 9 0 (fun x hx => by rcases (show x = nmS 0 ∨ x = nmS 1 ∨ x = nmS 2 by simpa [labs, nmS, nmL] using hx) with rfl | rfl | rfl <;> assumption)).trans (nm_hit s 8 1 (nmS 3) (by unfold labs; simp [nmS, nmL]) h3)
    unfold Agree nmd fd
    rw [e1, e2]; rfl
  by_cases h4 : nmS 4 = low s
  · have e1 : fnd (low s) 22 0 = some 4 := (fnd_miss h0).trans ((fnd_miss h1).trans ((fnd_miss h2).trans ((fnd_miss h3).trans (fnd_hit h4))))
    have e2 : nm s 10 0 = 1 := (nm_miss s 9 0 (fun x hx => by rcases (show x = nmS 0 ∨ x = nmS 1 ∨ x = nmS 2 by simpa [labs, nmS, nmL] using hx) with rfl | rfl | rfl <;> assumption)).trans (nm_hit s 8 1 (nmS 4) (by unfold labs; simp [nmS, nmL]) h4)
    unfold Agree nmd fd
    rw [e1, e2]; rfl
  by_cases h5 : nmS 5 = low s
  · have e1 : fnd (low s) 22 0 = some 5 := (fnd_miss h0).trans ((fnd_miss h1).trans ((fnd_miss h2).trans ((fnd_miss h3).trans ((fnd_miss h4).trans (fnd_hit h5)))))
    have e2 : nm s 10 0 = 2 := (nm_miss s 9 0 (fun x hx => by rcases (show x = nmS 0 ∨ x = nmS 1 ∨ x = nmS 2 by simpa [labs, nmS, nmL] using hx) with rfl | rfl | rfl <;> assumption)).trans ((nm_miss s 8 1 (fun x hx => by rcases (show x = nmS 3 ∨ x = nmS 4 by simpa [labs, nmS, nmL] using hx) with rfl | rfl <;> assumption)).trans (nm_hit s 7 2 (nmS 5) (by unfold labs; simp [nmS, nmL]) h5))
    unfold Agree nmd fd
    rw [e1, e2]; rfl
  by_cases h6 : nmS 6 = low s
  · have e1 : fnd (low s) 22 0 = some 6 := (fnd_miss h0).trans ((fnd_miss h1).trans ((fnd_miss h2).trans ((fnd_miss h3).trans ((fnd_miss h4).trans ((fnd_miss h5).trans (fnd_hit h6))))))
    have e2 : nm s 10 0 = 2 := (nm_miss s 9 0 (fun x hx => by rcases (show x = nmS 0 ∨ x = nmS 1 ∨ x = nmS 2 by simpa [labs, nmS, nmL] using hx) with rfl | rfl | rfl <;> assumption)).trans ((nm_miss s 8 1 (fun x hx => by rcases (show x = nmS 3 ∨ x = nmS 4 by simpa [labs, nmS, nmL] using hx) with rfl | rfl <;> assumption)).trans (nm_hit s 7 2 (nmS 6) (by unfold labs; simp [nmS, nmL]) h6))
    unfold Agree nmd fd
    rw [e1, e2]; rfl
  by_cases h7 : nmS 7 = low s
  · have e1 : fnd (low s) 22 0 = some 7 := (fnd_miss h0).trans ((fnd_miss h1).trans ((fnd_miss h2).trans ((fnd_miss h3).trans ((fnd_miss h4).trans ((fnd_miss h5).trans ((fnd_miss h6).trans (fnd_hit h7)))))))
    have e2 : nm s 10 0 = 3 := (nm_miss s 9 0 (fun x hx => by rcases (show x = nmS 0 ∨ x = nmS 1 ∨ x = nmS 2 by simpa [labs, nmS, nmL] using hx) with rfl | rfl | rfl <;> assumption)).trans ((nm_miss s 8 1 (fun x hx => by rcases (show x = nmS 3 ∨ x = nmS 4 by simpa [labs, nmS, nmL] using hx) with rfl | rfl <;> assumption)).trans ((nm_miss s 7 2 (fun x hx => by rcases (show x = nmS 5 ∨ x = nmS 6 by simpa [labs, nmS, nmL] using hx) with rfl | rfl <;> assumption)).trans (nm_hit s 6 3 (nmS 7) (by unfold labs; simp [nmS, nmL]) h7)))
    unfold Agree nmd fd
    rw [e1, e2]; rfl
  by_cases h8 : nmS 8 = low s
  · have e1 : fnd (low s) 22 0 = some 8 := (fnd_miss h0).trans ((fnd_miss h1).trans ((fnd_miss h2).trans ((fnd_miss h3).trans ((fnd_miss h4).trans ((fnd_miss h5).trans ((fnd_miss h6).trans ((fnd_miss h7).trans (fnd_hit h8))))))))
    have e2 : nm s 10 0 = 3 := (nm_miss s 9 0 (fun x hx => by rcases (show x = nmS 0 ∨ x = nmS 1 ∨ x = nmS 2 by simpa [labs, nmS, nmL] using hx) with rfl | rfl | rfl <;> assumption)).trans ((nm_miss s 8 1 (fun x hx => by rcases (show x = nmS 3 ∨ x = nmS 4 by simpa [labs, nmS, nmL] using hx) with rfl | rfl <;> assumption)).trans ((nm_miss s 7 2 (fun x hx => by rcases (show x = nmS 5 ∨ x = nmS 6 by simpa [labs, nmS, nmL] using hx) with rfl | rfl <;> assumption)).trans (nm_hit s 6 3 (nmS 8) (by unfold labs; simp [nmS, nmL]) h8)))
    unfold Agree nmd fd
    rw [e1, e2]; rfl
  by_cases h9 : nmS 9 = low s
  · have e1 : fnd (low s) 22 0 = some 9 := (fnd_miss h0).trans ((fnd_miss h1).trans ((fnd_miss h2).trans ((fnd_miss h3).trans ((fnd_miss h4).trans ((fnd_miss h5).trans ((fnd_miss h6).trans ((fnd_miss h7).trans ((fnd_miss h8).trans (fnd_hit h9)))))))))
    have e2 : nm s 10 0 = 4 := (nm_miss s 9 0 (fun x hx => by rcases (show x = nmS 0 ∨ x = nmS 1 ∨ x = nmS 2 by simpa [labs, nmS, nmL] using hx) with rfl | rfl | rfl <;> assumption)).trans ((nm_miss s 8 1 (fun x hx => by rcases (show x = nmS 3 ∨ x = nmS 4 by simpa [labs, nmS, nmL] using hx) with rfl | rfl <;> assumption)).trans ((nm_miss s 7 2 (fun x hx => by rcases (show x = nmS 5 ∨ x = nmS 6 by simpa [labs, nmS, nmL] using hx) with rfl | rfl <;> assumption)).trans ((nm_miss s 6 3 (fun x hx => by rcases (show x = nmS 7 ∨ x = nmS 8 by simpa [labs, nmS, nmL] using hx) with rfl | rfl <;> assumption)).trans (nm_hit s 5 4 (nmS 9) (by unfold labs; simp [nmS, nmL]) h9))))
    unfold Agree nmd fd
    rw [e1, e2]; rfl
  by_cases h10 : nmS 10 = low s
  · have e1 : fnd (low s) 22 0 = some 10 := (fnd_miss h0).trans ((fnd_miss h1).trans ((fnd_miss h2).trans ((fnd_miss h3).trans ((fnd_miss h4).trans ((fnd_miss h5).trans ((fnd_miss h6).trans ((fnd_miss h7).trans ((fnd_miss h8).trans ((fnd_miss h9).trans (fnd_hit h10))))))))))
    have e2 : nm s 10 0 = 4 := (nm_miss s 9 0 (fun x hx => by rcases (show x = nmS 0 ∨ x = nmS 1 ∨ x = nmS 2 by simpa [labs, nmS, nmL] using hx) with rfl | rfl | rfl <;> assumption)).trans ((nm_miss s 8 1 (fun x hx => by rcases (show x = nmS 3 ∨ x = nmS 4 by simpa [labs, nmS, nmL] using hx) with rfl | rfl <;> assumption)).trans ((nm_miss s 7 2 (fun x hx => by rcases (show x = nmS 5 ∨ x = nmS 6 by simpa [labs, nmS, nmL] using hx) with rfl | rfl <;> assumption)).trans ((nm_miss s 6 3 (fun x hx => by rcases (show x = nmS 7 ∨ x = nmS 8 by simpa [labs, nmS, nmL] using hx) with rfl | rfl <;> assumption)).trans (nm_hit s 5 4 (nmS 10) (by unfold labs; simp [nmS, nmL]) h10))))
    unfold Agree nmd fd
    rw [e1, e2]; rfl
  by_cases h11 : nmS 11 = low s
  · have e1 : fnd (low s) 22 0 = some 11 := (fnd_miss h0).trans ((fnd_miss h1).trans ((fnd_miss h2).trans ((fnd_miss h3).trans ((fnd_miss h4).trans ((fnd_miss h5).trans ((fnd_miss h6).trans ((fnd_miss h7).trans ((fnd_miss h8).trans ((fnd_miss h9).trans ((fnd_miss h10).trans (fnd_hit h11)))))))))))
    have e2 : nm s 10 0 = 4 := (nm_miss s 9 0 (fun x hx => by rcases (show x = nmS 0 ∨ x = nmS 1 ∨ x = nmS 2 by simpa [labs, nmS, nmL] using hx) with rfl | rfl | rfl <;> assumption)).trans ((nm_miss s 8 1 (fun x hx => by rcases (show x = nmS 3 ∨ x = nmS 4 by simpa [labs, nmS, nmL] using hx) with rfl | rfl <;> assumption)).trans ((nm_miss s 7 2 (fun x hx => by rcases (show x = nmS 5 ∨ x = nmS 6 by simpa [labs, nmS, nmL] using hx) with rfl | rfl <;> assumption)).trans ((nm_miss s 6 3 (fun x hx => by rcases (show x = nmS 7 ∨ x = nmS 8 by simpa [labs, nmS, nmL] using hx) with rfl | rfl <;> assumption)).trans (nm_hit s 5 4 (nmS 11) (by unfold labs; simp [nmS, nmL]) h11))))
    unfold Agree nmd fd
    rw [e1, e2]; rfl
  by_cases h12 : nmS 12 = low s
  · have e1 : fnd (low s) 22 0 = some 12 := (fnd_miss h0).trans ((fnd_miss h1).trans ((fnd_miss h2).trans ((fnd_miss h3).trans ((fnd_miss h4).trans ((fnd_miss h5).trans ((fnd_miss h6).trans ((fnd_miss h7).trans ((fnd_miss h8).trans ((fnd_miss h9).trans ((fnd_miss h10).trans ((fnd_miss h11).trans (fnd_hit h12))))))))))))
    have e2 : nm s 10 0 = 5 := (nm_miss s 9 0 (fun x hx => by rcases (show x = nmS 0 ∨ x = nmS 1 ∨ x = nmS 2 by simpa [labs, nmS, nmL] using hx) with rfl | rfl | rfl <;> assumption)).trans ((nm_miss s 8 1 (fun x hx => by rcases (show x = nmS 3 ∨ x = nmS 4 by simpa [labs, nmS, nmL] using hx) with rfl | rfl <;> assumption)).trans ((nm_miss s 7 2 (fun x hx => by rcases (show x = nmS 5 ∨ x = nmS 6 by simpa [labs, nmS, nmL] using hx) with rfl | rfl <;> assumption)).trans ((nm_miss s 6 3 (fun x hx => by rcases (show x = nmS 7 ∨ x = nmS 8 by simpa [labs, nmS, nmL] using hx) with rfl | rfl <;> assumption)).trans ((nm_miss s 5 4 (fun x hx => by rcases (show x = nmS 9 ∨ x = nmS 10 ∨ x = nmS 11 by simpa [labs, nmS, nmL] using hx) with rfl | rfl | rfl <;> assumption)).trans (nm_hit s 4 5 (nmS 12) (by unfold labs; simp [nmS, nmL]) h12)))))
    unfold Agree nmd fd
    rw [e1, e2]; rfl
  by_cases h13 : nmS 13 = low s
  · have e1 : fnd (low s) 22 0 = some 13 := (fnd_miss h0).trans ((fnd_miss h1).trans ((fnd_miss h2).trans ((fnd_miss h3).trans ((fnd_miss h4).trans ((fnd_miss h5).trans ((fnd_miss h6).trans ((fnd_miss h7).trans ((fnd_miss h8).trans ((fnd_miss h9).trans ((fnd_miss h10).trans ((fnd_miss h11).trans ((fnd_miss h12).trans (fnd_hit h13)))))))))))))
    have e2 : nm s 10 0 = 5 := (nm_miss s 9 0 (fun x hx => by rcases (show x = nmS 0 ∨ x = nmS 1 ∨ x = nmS 2 by simpa [labs, nmS, nmL] using hx) with rfl | rfl | rfl <;> assumption)).trans ((nm_miss s 8 1 (fun x hx => by rcases (show x = nmS 3 ∨ x = nmS 4 by simpa [labs, nmS, nmL] using hx) with rfl | rfl <;> assumption)).trans ((nm_miss s 7 2 (fun x hx => by rcases (show x = nmS 5 ∨ x = nmS 6 by simpa [labs, nmS, nmL] using hx) with rfl | rfl <;> assumption)).trans ((nm_miss s 6 3 (fun x hx => by rcases (show x = nmS 7 ∨ x = nmS 8 by simpa [labs, nmS, nmL] using hx) with rfl | rfl <;> assumption)).trans ((nm_miss s 5 4 (fun x hx => by rcases (show x = nmS 9 ∨ x = nmS 10 ∨ x = nmS 11 by simpa [labs, nmS, nmL] using hx) with rfl | rfl | rfl <;> assumption)).trans (nm_hit s 4 5 (nmS 13) (by unfold labs; simp [nmS, nmL]) h13)))))
    unfold Agree nmd fd
    rw [e1, e2]; rfl
  by_cases h14 : nmS 14 = low s
  · have e1 : fnd (low s) 22 0 = some 14 := (fnd_miss h0).trans ((fnd_miss h1).trans ((fnd_miss h2).trans ((fnd_miss h3).trans ((fnd_miss h4).trans ((fnd_miss h5).trans ((fnd_miss h6).trans ((fnd_miss h7).trans ((fnd_miss h8).trans ((fnd_miss h9).trans ((fnd_miss h10).trans ((fnd_miss h11).trans ((fnd_miss h12).trans ((fnd_miss h13).trans (fnd_hit h14))))))))))))))
    have e2 : nm s 10 0 = 6 := (nm_miss s 9 0 (fun x hx => by rcases (show x = nmS 0 ∨ x = nmS 1 ∨ x = nmS 2 by simpa [labs, nmS, nmL] using hx) with rfl | rfl | rfl <;> assumption)).trans ((nm_miss s 8 1 (fun x hx => by rcases (show x = nmS 3 ∨ x = nmS 4 by simpa [labs, nmS, nmL] using hx) with rfl | rfl <;> assumption)).trans ((nm_miss s 7 2 (fun x hx => by rcases (show x = nmS 5 ∨ x = nmS 6 by simpa [labs, nmS, nmL] using hx) with rfl | rfl <;> assumption)).trans ((nm_miss s 6 3 (fun x hx => by rcases (show x = nmS 7 ∨ x = nmS 8 by simpa [labs, nmS, nmL] using hx) with rfl | rfl <;> assumption)).trans ((nm_miss s 5 4 (fun x hx => by rcases (show x = nmS 9 ∨ x = nmS 10 ∨ x = nmS 11 by simpa [labs, nmS, nmL] using hx) with rfl | rfl | rfl <;> assumption)).trans ((nm_miss s 4 5 (fun x hx => by rcases (show x = nmS 12 ∨ x = nmS 13 by simpa [labs, nmS, nmL] using hx) with rfl | rfl <;> assumption)).trans (nm_hit s 3 6 (nmS 14) (by unfold labs; simp [nmS, nmL]) h14))))))
    unfold Agree nmd fd
    rw [e1, e2]; rfl
  by_cases h15 : nmS 15 = low s
  · have e1 : fnd (low s) 22 0 = some 15 := (fnd_miss h0).trans ((fnd_miss h1).trans ((fnd_miss h2).trans ((fnd_miss h3).trans ((fnd_miss h4).trans ((fnd_miss h5).trans ((fnd_miss h6).trans ((fnd_miss h7).trans ((fnd_miss h8).trans ((fnd_miss h9).trans ((fnd_miss h10).trans ((fnd_miss h11).trans ((fnd_miss h12).trans ((fnd_miss h13).trans ((fnd_miss h14).trans (fnd_hit h15)))))))))))))))
    have e2 : nm s 10 0 = 6 := (nm_miss s 9 0 (fun x hx => by rcases (show x = nmS 0 ∨ x = nmS 1 ∨ x = nmS 2 by simpa [labs, nmS, nmL] using hx) with rfl | rfl | rfl <;> assumption)).trans ((nm_miss s 8 1 (fun x hx => by rcases (show x = nmS 3 ∨ x = nmS 4 by simpa [labs, nmS, nmL] using hx) with rfl | rfl <;> assumption)).trans ((nm_miss s 7 2 (fun x hx => by rcases (show x = nmS 5 ∨ x = nmS 6 by simpa [labs, nmS, nmL] using hx) with rfl | rfl <;> assumption)).trans ((nm_miss s 6 3 (fun x hx => by rcases (show x = nmS 7 ∨ x = nmS 8 by simpa [labs, nmS, nmL] using hx) with rfl | rfl <;> assumption)).trans ((nm_miss s 5 4 (fun x hx => by rcases (show x = nmS 9 ∨ x = nmS 10 ∨ x = nmS 11 by simpa [labs, nmS, nmL] using hx) with rfl | rfl | rfl <;> assumption)).trans ((nm_miss s 4 5 (fun x hx => by rcases (show x = nmS 12 ∨ x = nmS 13 by simpa [labs, nmS, nmL] using hx) with rfl | rfl <;> assumption)).trans (nm_hit s 3 6 (nmS 15) (by unfold labs; simp [nmS, nmL]) h15))))))
    unfold Agree nmd fd
    rw [e1, e2]; rfl
  by_cases h16 : nmS 16 = low s
  · have e1 : fnd (low s) 22 0 = some 16 := (fnd_miss h0).trans ((fnd_miss h1).trans ((fnd_miss h2).trans ((fnd_miss h3).trans ((fnd_miss h4).trans ((fnd_miss h5).trans ((fnd_miss h6).trans ((fnd_miss h7).trans ((fnd_miss h8).trans ((fnd_miss h9).trans ((fnd_miss h10).trans ((fnd_miss h11).trans ((fnd_miss h12).trans ((fnd_miss h13).trans ((fnd_miss h14).trans ((fnd_miss h15).trans (fnd_hit h16))))))))))))))))
    have e2 : nm s 10 0 = 7 := (nm_miss s 9 0 (fun x hx => by rcases (show x = nmS 0 ∨ x = nmS 1 ∨ x = nmS 2 by simpa [labs, nmS, nmL] using hx) with rfl | rfl | rfl <;> assumption)).trans ((nm_miss s 8 1 (fun x hx => by rcases (show x = nmS 3 ∨ x = nmS 4 by simpa [labs, nmS, nmL] using hx) with rfl | rfl <;> assumption)).trans ((nm_miss s 7 2 (fun x hx => by rcases (show x = nmS 5 ∨ x = nmS 6 by simpa [labs, nmS, nmL] using hx) with rfl | rfl <;> assumption)).trans ((nm_miss s 6 3 (fun x hx => by rcases (show x = nmS 7 ∨ x = nmS 8 by simpa [labs, nmS, nmL] using hx) with rfl | rfl <;> assumption)).trans ((nm_miss s 5 4 (fun x hx => by rcases (show x = nmS 9 ∨ x = nmS 10 ∨ x = nmS 11 by simpa [labs, nmS, nmL] using hx) with rfl | rfl | rfl <;> assumption)).trans ((nm_miss s 4 5 (fun x hx => by rcases (show x = nmS 12 ∨ x = nmS 13 by simpa [labs, nmS, nmL] using hx) with rfl | rfl <;> assumption)).trans ((nm_miss s 3 6 (fun x hx => by rcases (show x = nmS 14 ∨ x = nmS 15 by simpa [labs, nmS, nmL] using hx) with rfl | rfl <;> assumption)).trans (nm_hit s 2 7 (nmS 16) (by unfold labs; simp [nmS, nmL]) h16)))))))
    unfold Agree nmd fd
    rw [e1, e2]; rfl
  by_cases h17 : nmS 17 = low s
  · have e1 : fnd (low s) 22 0 = some 17 := (fnd_miss h0).trans ((fnd_miss h1).trans ((fnd_miss h2).trans ((fnd_miss h3).trans ((fnd_miss h4).trans ((fnd_miss h5).trans ((fnd_miss h6).trans ((fnd_miss h7).trans ((fnd_miss h8).trans ((fnd_miss h9).trans ((fnd_miss h10).trans ((fnd_miss h11).trans ((fnd_miss h12).trans ((fnd_miss h13).trans ((fnd_miss h14).trans ((fnd_miss h15).trans ((fnd_miss h16).trans (fnd_hit h17)))))))))))))))))
    have e2 : nm s 10 0 = 7 := (nm_miss s 9 0 (fun x hx => by rcases (show x = nmS 0 ∨ x = nmS 1 ∨ x = nmS 2 by simpa [labs, nmS, nmL] using hx) with rfl | rfl | rfl <;> assumption)).trans ((nm_miss s 8 1 (fun x hx => by rcases (show x = nmS 3 ∨ x = nmS 4 by simpa [labs, nmS, nmL] using hx) with rfl | rfl <;> assumption)).trans ((nm_miss s 7 2 (fun x hx => by rcases (show x = nmS 5 ∨ x = nmS 6 by simpa [labs, nmS, nmL] using hx) with rfl | rfl <;> assumption)).trans ((nm_miss s 6 3 (fun x hx => by rcases (show x = nmS 7 ∨ x = nmS 8 by simpa [labs, nmS, nmL] using hx) with rfl | rfl <;> assumption)).trans ((nm_miss s 5 4 (fun x hx => by rcases (show x = nmS 9 ∨ x = nmS 10 ∨ x = nmS 11 by simpa [labs, nmS, nmL] using hx) with rfl | rfl | rfl <;> assumption)).trans ((nm_miss s 4 5 (fun x hx => by rcases (show x = nmS 12 ∨ x = nmS 13 by simpa [labs, nmS, nmL] using hx) with rfl | rfl <;> assumption)).trans ((nm_miss s 3 6 (fun x hx => by rcases (show x = nmS 14 ∨ x = nmS 15 by simpa [labs, nmS, nmL] using hx) with rfl | rfl <;> assumption)).trans (nm_hit s 2 7 (nmS 17) (by unfold labs; simp [nmS, nmL]) h17)))))))
    unfold Agree nmd fd
    rw [e1, e2]; rfl
  by_cases h18 : nmS 18 = low s
  · have e1 : fnd (low s) 22 0 = some 18 := (fnd_miss h0).trans ((fnd_miss h1).trans ((fnd_miss h2).trans ((fnd_miss h3).trans ((fnd_miss h4).trans ((fnd_miss h5).trans ((fnd_miss h6).trans ((fnd_miss h7).trans ((fnd_miss h8).trans ((fnd_miss h9).trans ((fnd_miss h10).trans ((fnd_miss h11).trans ((fnd_miss h12).trans ((fnd_miss h13).trans ((fnd_miss h14).trans ((fnd_miss h15).trans ((fnd_miss h16).trans ((fnd_miss h17).trans (fnd_hit h18))))))))))))))))))
    have e2 : nm s 10 0 = 8 := (nm_miss s 9 0 (fun x hx => by rcases (show x = nmS 0 ∨ x = nmS 1 ∨ x = nmS 2 by simpa [labs, nmS, nmL] using hx) with rfl | rfl | rfl <;> assumption)).trans ((nm_miss s 8 1 (fun x hx => by rcases (show x = nmS 3 ∨ x = nmS 4 by simpa [labs, nmS, nmL] using hx) with rfl | rfl <;> assumption)).trans ((nm_miss s 7 2 (fun x hx => by rcases (show x = nmS 5 ∨ x = nmS 6 by simpa [labs, nmS, nmL] using hx) with rfl | rfl <;> assumption)).trans ((nm_miss s 6 3 (fun x hx => by rcases (show x = nmS 7 ∨ x = nmS 8 by simpa [labs, nmS, nmL] using hx) with rfl | rfl <;> assumption)).trans ((nm_miss s 5 4 (fun x hx => by rcases (show x = nmS 9 ∨ x = nmS 10 ∨ x = nmS 11 by simpa [labs, nmS, nmL] using hx) with rfl | rfl | rfl <;> assumption)).trans ((nm_miss s 4 5 (fun x hx => by rcases (show x = nmS 12 ∨ x = nmS 13 by simpa [labs, nmS, nmL] using hx) with rfl | rfl <;> assumption)).trans ((nm_miss s 3 6 (fun x hx => by rcases (show x = nmS 14 ∨ x = nmS 15 by simpa [labs, nmS, nmL] using hx) with rfl | rfl <;> assumption)).trans ((nm_miss s 2 7 (fun x hx => by rcases (show x = nmS 16 ∨ x = nmS 17 by simpa [labs, nmS, nmL] using hx) with rfl | rfl <;> assumption)).trans (nm_hit s 1 8 (nmS 18) (by unfold labs; simp [nmS, nmL]) h18))))))))
    unfold Agree nmd fd
    rw [e1, e2]; rfl
  by_cases h19 : nmS 19 = low s
  · have e1 : fnd (low s) 22 0 = some 19 := (fnd_miss h0).trans ((fnd_miss h1).trans ((fnd_miss h2).trans ((fnd_miss h3).trans ((fnd_miss h4).trans ((fnd_miss h5).trans ((fnd_miss h6).trans ((fnd_miss h7).trans ((fnd_miss h8).trans ((fnd_miss h9).trans ((fnd_miss h10).trans ((fnd_miss h11).trans ((fnd_miss h12).trans ((fnd_miss h13).trans ((fnd_miss h14).trans ((fnd_miss h15).trans ((fnd_miss h16).trans ((fnd_miss h17).trans ((fnd_miss h18).trans (fnd_hit h19)))))))))))))))))))
    have e2 : nm s 10 0 = 8 := (nm_miss s 9 0 (fun x hx => by rcases (show x = nmS 0 ∨ x = nmS 1 ∨ x = nmS 2 by simpa [labs, nmS, nmL] using hx) with rfl | rfl | rfl <;> assumption)).trans ((nm_miss s 8 1 (fun x hx => by rcases (show x = nmS 3 ∨ x = nmS 4 by simpa [labs, nmS, nmL] using hx) with rfl | rfl <;> assumption)).trans ((nm_miss s 7 2 (fun x hx => by rcases (show x = nmS 5 ∨ x = nmS 6 by simpa [labs, nmS, nmL] using hx) with rfl | rfl <;> assumption)).trans ((nm_miss s 6 3 (fun x hx => by rcases (show x = nmS 7 ∨ x = nmS 8 by simpa [labs, nmS, nmL] using hx) with rfl | rfl <;> assumption)).trans ((nm_miss s 5 4 (fun x hx => by rcases (show x = nmS 9 ∨ x = nmS 10 ∨ x = nmS 11 by simpa [labs, nmS, nmL] using hx) with rfl | rfl | rfl <;> assumption)).trans ((nm_miss s 4 5 (fun x hx => by rcases (show x = nmS 12 ∨ x = nmS 13 by simpa [labs, nmS, nmL] using hx) with rfl | rfl <;> assumption)).trans ((nm_miss s 3 6 (fun x hx => by rcases (show x = nmS 14 ∨ x = nmS 15 by simpa [labs, nmS, nmL] using hx) with rfl | rfl <;> assumption)).trans ((nm_miss s 2 7 (fun x hx => by rcases (show x = nmS 16 ∨ x = nmS 17 by simpa [labs, nmS, nmL] using hx) with rfl | rfl <;> assumption)).trans (nm_hit s 1 8 (nmS 19) (by unfold labs; simp [nmS, nmL]) h19))))))))
    unfold Agree nmd fd
    rw [e1, e2]; rfl
  by_cases h20 : nmS 20 = low s
  · have e1 : fnd (low s) 22 0 = some 20 := (fnd_miss h0).trans ((fnd_miss h1).trans ((fnd_miss h2).trans ((fnd_miss h3).trans ((fnd_miss h4).trans ((fnd_miss h5).trans ((fnd_miss h6).trans ((fnd_miss h7).trans ((fnd_miss h8).trans ((fnd_miss h9).trans ((fnd_miss h10).trans ((fnd_miss h11).trans ((fnd_miss h12).trans ((fnd_miss h13).trans ((fnd_miss h14).trans ((fnd_miss h15).trans ((fnd_miss h16).trans ((fnd_miss h17).trans ((fnd_miss h18).trans ((fnd_miss h19).trans (fnd_hit h20))))))))))))))))))))
    have e2 : nm s 10 0 = 9 := (nm_miss s 9 0 (fun x hx => by rcases (show x = nmS 0 ∨ x = nmS 1 ∨ x = nmS 2 by simpa [labs, nmS, nmL] using hx) with rfl | rfl | rfl <;> assumption)).trans ((nm_miss s 8 1 (fun x hx => by rcases (show x = nmS 3 ∨ x = nmS 4 by simpa [labs, nmS, nmL] using hx) with rfl | rfl <;> assumption)).trans ((nm_miss s 7 2 (fun x hx => by rcases (show x = nmS 5 ∨ x = nmS 6 by simpa [labs, nmS, nmL] using hx) with rfl | rfl <;> assumption)).trans ((nm_miss s 6 3 (fun x hx => by rcases (show x = nmS 7 ∨ x = nmS 8 by simpa [labs, nmS, nmL] using hx) with rfl | rfl <;> assumption)).trans ((nm_miss s 5 4 (fun x hx => by rcases (show x = nmS 9 ∨ x = nmS 10 ∨ x = nmS 11 by simpa [labs, nmS, nmL] using hx) with rfl | rfl | rfl <;> assumption)).trans ((nm_miss s 4 5 (fun x hx => by rcases (show x = nmS 12 ∨ x = nmS 13 by simpa [labs, nmS, nmL] using hx) with rfl | rfl <;> assumption)).trans ((nm_miss s 3 6 (fun x hx => by rcases (show x = nmS 14 ∨ x = nmS 15 by simpa [labs, nmS, nmL] using hx) with rfl | rfl <;> assumption)).trans ((nm_miss s 2 7 (fun x hx => by rcases (show x = nmS 16 ∨ x = nmS 17 by simpa [labs, nmS, nmL] using hx) with rfl | rfl <;> assumption)).trans ((nm_miss s 1 8 (fun x hx => by rcases (show x = nmS 18 ∨ x = nmS 19 by simpa [labs, nmS, nmL] using hx) with rfl | rfl <;> assumption)).trans (nm_hit s 0 9 (nmS 20) (by unfold labs; simp [nmS, nmL]) h20)))))))))
    unfold Agree nmd fd
    rw [e1, e2]; rfl
  by_cases h21 : nmS 21 = low s
  · have e1 : fnd (low s) 22 0 = some 21 := (fnd_miss h0).trans ((fnd_miss h1).trans ((fnd_miss h2).trans ((fnd_miss h3).trans ((fnd_miss h4).trans ((fnd_miss h5).trans ((fnd_miss h6).trans ((fnd_miss h7).trans ((fnd_miss h8).trans ((fnd_miss h9).trans ((fnd_miss h10).trans ((fnd_miss h11).trans ((fnd_miss h12).trans ((fnd_miss h13).trans ((fnd_miss h14).trans ((fnd_miss h15).trans ((fnd_miss h16).trans ((fnd_miss h17).trans ((fnd_miss h18).trans ((fnd_miss h19).trans ((fnd_miss h20).trans (fnd_hit h21)))))))))))))))))))))
    have e2 : nm s 10 0 = 9 := (nm_miss s 9 0 (fun x hx => by rcases (show x = nmS 0 ∨ x = nmS 1 ∨ x = nmS 2 by simpa [labs, nmS, nmL] using hx) with rfl | rfl | rfl <;> assumption)).trans ((nm_miss s 8 1 (fun x hx => by rcases (show x = nmS 3 ∨ x = nmS 4 by simpa [labs, nmS, nmL] using hx) with rfl | rfl <;> assumption)).trans ((nm_miss s 7 2 (fun x hx => by rcases (show x = nmS 5 ∨ x = nmS 6 by simpa [labs, nmS, nmL] using hx) with rfl | rfl <;> assumption)).trans ((nm_miss s 6 3 (fun x hx => by rcases (show x = nmS 7 ∨ x = nmS 8 by simpa [labs, nmS, nmL] using hx) with rfl | rfl <;> assumption)).trans ((nm_miss s 5 4 (fun x hx => by rcases (show x = nmS 9 ∨ x = nmS 10 ∨ x = nmS 11 by simpa [labs, nmS, nmL] using hx) with rfl | rfl | rfl <;> assumption)).trans ((nm_miss s 4 5 (fun x hx => by rcases (show x = nmS 12 ∨ x = nmS 13 by simpa [labs, nmS, nmL] using hx) with rfl | rfl <;> assumption)).trans ((nm_miss s 3 6 (fun x hx => by rcases (show x = nmS 14 ∨ x = nmS 15 by simpa [labs, nmS, nmL] using hx) with rfl | rfl <;> assumption)).trans ((nm_miss s 2 7 (fun x hx => by rcases (show x = nmS 16 ∨ x = nmS 17 by simpa [labs, nmS, nmL] using hx) with rfl | rfl <;> assumption)).trans ((nm_miss s 1 8 (fun x hx => by rcases (show x = nmS 18 ∨ x = nmS 19 by simpa [labs, nmS, nmL] using hx) with rfl | rfl <;> assumption)).trans (nm_hit s 0 9 (nmS 21) (by unfold labs; simp [nmS, nmL]) h21)))))))))
    unfold Agree nmd fd
    rw [e1, e2]; rfl
  have e1 : fnd (low s) 22 0 = none := (fnd_miss h0).trans ((fnd_miss h1).trans ((fnd_miss h2).trans ((fnd_miss h3).trans ((fnd_miss h4).trans ((fnd_miss h5).trans ((fnd_miss h6).trans ((fnd_miss h7).trans ((fnd_miss h8).trans ((fnd_miss h9).trans ((fnd_miss h10).trans ((fnd_miss h11).trans ((fnd_miss h12).trans ((fnd_miss h13).trans ((fnd_miss h14).trans ((fnd_miss h15).trans ((fnd_miss h16).trans ((fnd_miss h17).trans ((fnd_miss h18).trans ((fnd_miss h19).trans ((fnd_miss h20).trans ((fnd_miss h21).trans (rfl))))))))))))))))))))))
  have e2 : nm s 10 0 = -1 := (nm_miss s 9 0 (fun x hx => by rcases (show x = nmS 0 ∨ x = nmS 1 ∨ x = nmS 2 by simpa [labs, nmS, nmL] using hx) with rfl | rfl | rfl <;> assumption)).trans ((nm_miss s 8 1 (fun x hx => by rcases (show x = nmS 3 ∨ x = nmS 4 by simpa [labs, nmS, nmL] using hx) with rfl | rfl <;> assumption)).trans ((nm_miss s 7 2 (fun x hx => by rcases (show x = nmS 5 ∨ x = nmS 6 by simpa [labs, nmS, nmL] using hx) with rfl | rfl <;> assumption)).trans ((nm_miss s 6 3 (fun x hx => by rcases (show x = nmS 7 ∨ x = nmS 8 by simpa [labs, nmS, nmL] using hx) with rfl | rfl <;> assumption)).trans ((nm_miss s 5 4 (fun x hx => by rcases (show x = nmS 9 ∨ x = nmS 10 ∨ x = nmS 11 by simpa [labs, nmS, nmL] using hx) with rfl | rfl | rfl <;> assumption)).trans ((nm_miss s 4 5 (fun x hx => by rcases (show x = nmS 12 ∨ x = nmS 13 by simpa [labs, nmS, nmL] using hx) with rfl | rfl <;> assumption)).trans ((nm_miss s 3 6 (fun x hx => by rcases (show x = nmS 14 ∨ x = nmS 15 by simpa [labs, nmS, nmL] using hx) with rfl | rfl <;> assumption)).trans ((nm_miss s 2 7 (fun x hx => by rcases (show x = nmS 16 ∨ x = nmS 17 by simpa [labs, nmS, nmL] using hx) with rfl | rfl <;> assumption)).trans ((nm_miss s 1 8 (fun x hx => by rcases (show x = nmS 18 ∨ x = nmS 19 by simpa [labs, nmS, nmL] using hx) with rfl | rfl <;> assumption)).trans ((nm_miss s 0 9 (fun x hx => by rcases (show x = nmS 20 ∨ x = nmS 21 by simpa [labs, nmS, nmL] using hx) with rfl | rfl <;> assumption)).trans (rfl))))))))))
  unfold Agree nmd fd
  rw [e1, e2]
theorem nmC_pos (j : Nat) : 0 ≤ nmC j := by
  by_cases h : j < 22
  · have : ∀ j, j < 22 → 0 ≤ nmC j := by decide
    exact this j h
  · unfold nmC
    rw [List.getD_eq_getElem?_getD, List.getElem?_eq_none (by show 22 ≤ j; omega)]
    exact Int.le_refl _
theorem agree_v (s : ByteArray) : fdC (low s) = (if nmd s < 0 then 0 else nmd s) ∧ (fd (low s)).isSome = decide (0 ≤ nmd s) := by
  have h := agree s
  unfold Agree at h
  rw [h]
  unfold fdC
  cases fd (low s) with
  | none => exact ⟨rfl, rfl⟩
  | some j =>
    have := nmC_pos j
    simp only
    rw [if_neg (by omega)]
    exact ⟨rfl, by simp [this]⟩
end Go.Proofs.YtiigknimfibdpaaGreatDoor.ch
