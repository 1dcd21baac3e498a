/- Rows of bytes of one's own: made, grown, kept, turned into a text (no program's). -/
import Derived.Test.YtkhajafjieofhaaChecked
import Derived.WalkKit
import Derived.ProofKit
import Derived.Below
import Derived.Lib.Hide
import Derived.Laws.MakeOwn
import Derived.Lib.AppendStr
import Derived.Lib.OthersKept
namespace Go.Proofs.Ytkhajafjieofhaa.rw
open Go.RowKit Go.Lib
set_option linter.unusedVariables false
theorem byte_info : (Try.prog.info? 5).map (fun i => (i.zero, i.size, i.bytes)) = some (some (.int .u8 0), 1, 1) := by kernel_rfl
theorem mk_bytes (n : Nat) (h : n ≤ 100000) (w : World) : (Instr.makeSlice 82 (.int .i64 0) (.int .i64 (n : Int))).run Try.prog w = .ok (.slice (some ⟨w.heap.size, 0, none⟩) 0 n) (w.alloc (.cells (madeCells #[.int .u8 0] n) 5)) := by
  obtain ⟨i, hi, hzz⟩ := Option.map_eq_some_iff.1 byte_info
  simp only [Prod.mk.injEq] at hzz
  obtain ⟨hz, hs, hb⟩ := hzz
  have hr := run_make (P := Try.prog) w 82 5 i (.int .u8 0) Try.underlying82 hi hz .i64 .i64 0 (n : Int) (Int.le_refl _) (by omega) (by rw [hb]; omega) (by omega)
  simp only [Int.toNat_natCast, hs, Nat.mul_one] at hr
  exact hr
theorem below_grown {B : Nat} {w wr w' : World} {e : TypeId} {v : Value} {n : Nat} {xs : List Value} {o : Obj} (hb : Below B w wr) (hB : B ≤ wr.heap.size) (ho : wr.ownsRow B e 1 v n xs) (hg : (wr.alloc o).grownBy w' v.ownBlock) : Below B w w' := by
  have h1 : Below B w (wr.alloc o) := hb.alloc hB _
  refine ⟨hg.os.trans h1.os, hg.tape.trans h1.tape, hg.output.trans h1.output, Nat.le_trans h1.size hg.size, fun i hi => ?_⟩
  rw [hg.block i (by simp; omega) (fun e => by have := ho.lt i e.symm; omega)]
  exact h1.block i hi
theorem owns_below {B : Nat} {e : TypeId} {v : Value} {n : Nat} {xs : List Value} {wr w1 : World} (h : wr.ownsRow B e 1 v n xs) (hb : Below wr.heap.size wr w1) : w1.ownsRow B e 1 v n xs := by
  obtain ⟨hl, h | ⟨g, cap, cur, rfl, hB, hg, h1, h2, h3, h4⟩⟩ := h
  · exact ⟨hl, .inl h⟩
  · have hlt : g < wr.heap.size := (Array.getElem?_eq_some_iff.1 hg).1
    exact ⟨hl, .inr ⟨g, cap, cur, rfl, hB, (hb.block g hlt).trans hg, h1, h2, h3, h4⟩⟩
theorem conv_row (wr : World) (B : Nat) (v : Value) (ns : List Int) (h : wr.ownsRow B 5 1 v ns.length (ns.map (Value.int .u8))) : (convert 82 9 v).run Try.prog wr = .ok (.string (strOfNums ns)) wr := by
  obtain ⟨hl, h | ⟨g, cap, cur, rfl, hb, hg, hc, hm, hs, ht⟩⟩ := h
  · obtain ⟨rfl, h0⟩ := h
    have : ns = [] := List.length_eq_zero_iff.1 h0
    subst this
    exact run_convert_bytes_nil wr 82 5 Try.underlying82 Try.underlying5 0 0 9 Try.underlying9
  · refine run_convert_bytes_arg wr 82 5 Try.underlying82 Try.underlying5 g 0 ns.length cap ns rfl (fun i hi => ?_) 9 Try.underlying9
    have hi2 : i < cur.size := by omega
    have : cur.toList[i]? = some (.int .u8 (ns.getD i 0)) := by
      have h1 := congrArg (·[i]?) ht
      simp only [Nat.mul_one] at h1
      rw [List.getElem?_take_of_lt hi] at h1
      rw [h1]
      simp [List.getElem?_eq_getElem hi, List.getD]
    rw [Array.getElem?_toList] at this
    rw [Nat.zero_add]
    simp [World.cell?, hg, this]
def bv (l : List UInt8) : List Value := l.map fun b => Value.int .u8 (b.toNat : Int)
theorem bv_len (l : List UInt8) : (bv l).length = l.length := by simp [bv]
theorem bv_app (a b : List UInt8) : bv (a ++ b) = bv a ++ bv b := by simp [bv]
theorem str_bytes (l : List UInt8) : strOfNums (l.map fun b => (b.toNat : Int)) = ⟨l.toArray⟩ := by
  apply ByteArray.ext
  apply Array.ext'
  show (strOfNums _).data.toList = l
  rw [strOfNums_data, List.map_map]
  conv => rhs; rw [← List.map_id l]
  apply List.map_congr_left
  intro b _
  simp
theorem conv_bytes (wr : World) (B : Nat) (v : Value) (l : List UInt8) (h : wr.ownsRow B 5 1 v l.length (bv l)) : (convert 82 9 v).run Try.prog wr = .ok (.string ⟨l.toArray⟩) wr := by
  have h2 := conv_row wr B v (l.map fun b => (b.toNat : Int)) (by rw [List.length_map, List.map_map]; exact h)
  rw [str_bytes] at h2
  exact h2
end Go.Proofs.Ytkhajafjieofhaa.rw
