/- Text of layer 2: a contract. -/
import Derived.Test.YtgjndekgnkjknaaDoorPt1
import Derived.Laws.MakeOwn
import Derived.Lib.RuneBytes
namespace Go.Proofs.YtgjndekgnkjknaaDoor.pt
open Go.RowKit Go.Lib
set_option linter.unusedVariables false
theorem byte_info : (Tryd.prog.info? 5).map (fun i => (i.zero, i.size, i.bytes)) = some (some (.int .u8 0), 1, 1) := by kernel_rfl
theorem mk_bytes (n : Nat) (h : n ≤ 4000) (w : World) : (Instr.makeSlice 37 (.int .i64 0) (.int .i64 (n : Int))).run Tryd.prog w = .ok (.slice (some ⟨w.heap.size, 0, none⟩) 0 n) (w.alloc (.cells (madeCells #[.int .u8 0] n) 5)) := by
  obtain ⟨i, hi, hzz⟩ := Option.map_eq_some_iff.1 byte_info
  simp only [Prod.mk.injEq] at hzz
  obtain ⟨hz, hs, hb⟩ := hzz
  have hr := run_make (P := Tryd.prog) w 37 5 i (.int .u8 0) Tryd.underlying37 hi hz .i64 .i64 0 (n : Int) (Int.le_refl _) (by omega) (by rw [hb]; omega) (by omega)
  simp only [Int.toNat_natCast, hs, Nat.mul_one] at hr
  exact hr
/-- The signs' bytes, as numbers; as cells. -/
def nums (zs : List Int) : List Int := zs.flatMap encodeRuneZ
def enc (zs : List Int) : List Value := (nums zs).map (Value.int .u8)
def txt (zs : List Int) : ByteArray := strOfNums (nums zs)
theorem enc_snoc (l : List Int) (x : Int) : enc (l ++ [x]) = enc l ++ runeCells x := by simp [enc, nums, runeCells]
theorem nums_len (zs : List Int) : (nums zs).length ≤ 4 * zs.length := by
  unfold nums
  induction zs with
  | nil => simp
  | cons x zs ih => have := (encodeRuneZ_length x).2; simp only [List.flatMap_cons, List.length_append, List.length_cons]; omega
theorem valid_range {x : Int} (h : validRune x = true) : 0 ≤ x ∧ x ≤ 1114111 := by
  unfold validRune at h
  simp at h
  omega
theorem below_grown {B : Nat} {w wr w' : World} {e : TypeId} {v : Value} {n : Nat} {xs : List Value} {o : Obj} (hb : Below B w wr) (hB : B ≤ wr.heap.size) (ho : wr.ownsRow B e 1 v n xs) (hg : (wr.alloc o).grownBy w' v.ownBlock) : Below B w w' := by
  have h1 : Below B w (wr.alloc o) := hb.alloc hB _
  refine ⟨hg.os.trans h1.os, hg.tape.trans h1.tape, hg.output.trans h1.output, Nat.le_trans h1.size hg.size, fun i hi => ?_⟩
  rw [hg.block i (by simp; omega) (fun e => by have := ho.lt i e.symm; omega)]
  exact h1.block i hi
theorem conv_row (wr : World) (B : Nat) (v : Value) (ns : List Int) (h : wr.ownsRow B 5 1 v ns.length (ns.map (Value.int .u8))) : (convert 37 9 v).run Tryd.prog wr = .ok (.string (strOfNums ns)) wr := by
  obtain ⟨hl, h | ⟨g, cap, cur, rfl, hb, hg, hc, hm, hs, ht⟩⟩ := h
  · obtain ⟨rfl, h0⟩ := h
    have : ns = [] := List.length_eq_zero_iff.1 h0
    subst this
    exact run_convert_bytes_nil wr 37 5 Tryd.underlying37 Tryd.underlying5 0 0 9 Tryd.underlying9
  · refine run_convert_bytes_arg wr 37 5 Tryd.underlying37 Tryd.underlying5 g 0 ns.length cap ns rfl (fun i hi => ?_) 9 Tryd.underlying9
    have hi2 : i < cur.size := by omega
    have : cur.toList[i]? = some (.int .u8 (ns.getD i 0)) := by
      have h1 := congrArg (·[i]?) ht
      simp only [Nat.mul_one] at h1
      rw [List.getElem?_take_of_lt hi] at h1
      rw [h1]
      simp [List.getElem?_eq_getElem hi, List.getD]
    rw [Array.getElem?_toList] at this
    rw [Nat.zero_add]
    simp [World.cell?, hg, this]
end Go.Proofs.YtgjndekgnkjknaaDoor.pt
