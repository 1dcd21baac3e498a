/- Several texts in one. -/
import Derived.Test.YtiigknimfibdpaaGreatDoorZ20
import Derived.Lib.AppendStr
namespace Go.Proofs.YtiigknimfibdpaaGreatDoor.wd
open Go.RowKit Go.Lib
set_option linter.unusedVariables false
theorem u8_info : (Tryz.prog.info? 5).map (fun i => (i.zero, i.size, i.bytes)) = some (some (.int .u8 0), 1, 1) := by kernel_rfl
/-- Units as cells. -/
def c16 (l : List Nat) : List Value := l.map fun (u : Nat) => Value.int .u16 (u : Int)
end Go.Proofs.YtiigknimfibdpaaGreatDoor.wd
namespace Go.Proofs.YtiigknimfibdpaaGreatDoor.wd
open Go.RowKit Go.Lib
set_option linter.unusedVariables false
theorem mk_bytes (n : Nat) (z : Int) (hz : z = n) (h : n ≤ 64000) (w : World) : (Instr.makeSlice 98 (.int .i64 0) (.int .i64 z)).run Tryz.prog w = .ok (.slice (some ⟨w.heap.size, 0, none⟩) 0 n) (w.alloc (.cells (madeCells #[.int .u8 0] n) 5)) := by
  subst hz
  obtain ⟨i, hi, hzz⟩ := Option.map_eq_some_iff.1 u8_info
  simp only [Prod.mk.injEq] at hzz
  obtain ⟨hz, hs, hb⟩ := hzz
  have hr := run_make (P := Tryz.prog) w 98 5 i (.int .u8 0) Tryz.underlying98 hi hz .i64 .i64 0 (n : Int) (Int.le_refl _) (by omega) (by rw [hb]; omega) (by omega)
  simp only [Int.toNat_natCast, hs, Nat.mul_one] at hr
  exact hr
theorem below_grown0 {B : Nat} {w wr w' : World} {e : TypeId} {v : Value} {n : Nat} {xs : List Value} (hb : Below B w wr) (hB : B ≤ wr.heap.size) (ho : wr.ownsRow B e 1 v n xs) (hg : wr.grownBy w' v.ownBlock) : Below B w w' := by
  refine ⟨hg.os.trans hb.os, hg.tape.trans hb.tape, hg.output.trans hb.output, Nat.le_trans hb.size hg.size, fun i hi => ?_⟩
  rw [hg.block i (by omega) (fun e => by have := ho.lt i e.symm; omega)]
  exact hb.block i hi
end Go.Proofs.YtiigknimfibdpaaGreatDoor.wd
