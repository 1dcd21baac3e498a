/- Numbers written as bytes (Big, Small, Safe of layer 1): contracts. -/
import Derived.Test.YtgjndekgnkjknaaDoorOct3
namespace Go.Proofs.YtgjndekgnkjknaaDoor.oct
open Go.RowKit
set_option linter.unusedVariables false
/-- m digits of n by base B as bytes, the highest first. -/
def bigL (B : Nat) : Nat → Nat → List UInt8
  | 0, _ => []
  | m + 1, n => UInt8.ofNat (n / B ^ m % B) :: bigL B m n
theorem bigL_len (B : Nat) : ∀ m n, (bigL B m n).length = m
  | 0, _ => rfl
  | m + 1, n => by simp [bigL, bigL_len B m n]
theorem u8info : (Tryd.prog.info? 5).map (fun i => (i.zero, i.size, i.bytes)) = some (some (.int .u8 0), 1, 1) := by kernel_rfl
def cellsL (l : List UInt8) : List Value := l.map fun c => Value.int .u8 (c.toNat : Int)
/-- The loop that writes: j bytes are still to be written. -/
structure BigRel (B : Nat) (w wr : World) (m j n : Nat) : Prop where
  own : wr.ownsRow w.heap.size 5 1 (.slice (some ⟨w.heap.size, 0, none⟩) m m) m (List.replicate j (.int .u8 0) ++ cellsL (bigL B (m - j) n))
  bel : Below w.heap.size w wr
  jm : j ≤ m
theorem cellsL_len (l : List UInt8) : (cellsL l).length = l.length := by simp [cellsL]
theorem BigRel.cell {B : Nat} {w wr : World} {m j n : Nat} (h : BigRel B w wr m (j + 1) n) (i : Nat) (hi : i < j + 1) : wr.cell? ⟨w.heap.size, i, none⟩ = some (.int .u8 0) := by
  rw [h.own.cellAt i (by have := h.jm; omega), List.getElem?_append_left (by simpa using hi)]
  simp [hi]
theorem BigRel.free {B : Nat} {w wr : World} {m j n : Nat} (h : BigRel B w wr m j n) (i : Nat) : wr.frozen? ⟨w.heap.size, i, none⟩ = false := h.own.frozenAt i
theorem BigRel.done {B : Nat} {w wr : World} {m n : Nat} (h : BigRel B w wr m 0 n) : ∀ wx, wx = wr → (convert 37 9 (.slice (some ⟨w.heap.size, 0, none⟩) m m)).run Tryd.prog wx = .ok (.string ⟨(bigL B m n).toArray⟩) wx := by
  rintro wx rfl
  have := run_convert_bytes_back (P := Tryd.prog) wx 37 9 5 ⟨w.heap.size, 0, none⟩ m (bigL B m n) Tryd.underlying37 Tryd.underlying5 Tryd.underlying9 (fun j hj => by
    rw [bigL_len] at hj
    have e : (⟨w.heap.size, 0, none⟩ : Addr).add j = ⟨w.heap.size, j, none⟩ := by simp [Addr.add]; intro h; exact h.symm
    rw [e, h.own.cellAt j (by omega)]
    simp [cellsL, bigL_len, hj])
  rwa [bigL_len] at this
theorem BigRel.step {B : Nat} {w wr : World} {m j n p : Nat} (h : BigRel B w wr m (j + 1) n) (hp : p = n / B ^ (m - (j + 1))) (hB : 0 < B ∧ B ≤ 256) {v : Int} (hv : v = ((p % B : Nat) : Int)) : BigRel B w (wr.setCell ⟨w.heap.size, j, none⟩ (.int .u8 v)) m j n := by
  have hjm := h.jm
  obtain ⟨h1, h2⟩ := h.own.stored j (.int .u8 v)
  refine ⟨?_, h.bel.setCell (Nat.le_refl _) _, by omega⟩
  have e : m - j = (m - (j + 1)) + 1 := by omega
  have e3 : ((UInt8.ofNat (p % B)).toNat : Int) = ((p % B : Nat) : Int) := by have := Nat.mod_lt p hB.1; simp; omega
  rw [e]
  have e2 : (List.replicate (j + 1) (Value.int .u8 0) ++ cellsL (bigL B (m - (j + 1)) n)).set j (.int .u8 v) = List.replicate j (Value.int .u8 0) ++ cellsL (bigL B (m - (j + 1) + 1) n) := by
    rw [List.replicate_succ', List.append_assoc, List.set_append_right _ _ (by simp)]
    simp only [List.length_replicate, Nat.sub_self, List.singleton_append, List.set_cons_zero]
    simp only [bigL, cellsL, List.map_cons, ← hp, e3, hv]
  rwa [e2] at h1
theorem BigRel.start {B : Nat} {w w1 : World} {m n : Nat} (h : w1.ownsRow w.heap.size 5 1 (.slice (some ⟨w.heap.size, 0, none⟩) m m) m (madeCells (Value.int IntKind.u8 0).cells (m * 1)).toList) (hg : w.grownBy w1 none) : BigRel B w w1 m m n := by
  refine ⟨?_, (Below.refl _ _).grown hg (Nat.le_refl _) (by intro k h; cases h), Nat.le_refl _⟩
  have e : (madeCells (Value.int IntKind.u8 0).cells (m * 1)).toList = List.replicate m (Value.int .u8 0) := by rw [Nat.mul_one]; exact toList_madeCells_one _ _
  rw [e] at h
  simpa [bigL, cellsL] using h
theorem div_step (B n m j p : Nat) (hp : p = n / B ^ (m - (j + 1))) (hj : j < m) : (p : Int) / (B : Int) = ((n / B ^ (m - j) : Nat) : Int) := by
  have e : m - j = (m - (j + 1)) + 1 := by omega
  rw [e, Nat.pow_succ, ← Nat.div_div_eq_div_mul, ← hp]
  simp
set_option maxRecDepth 100000 in
theorem big_any (n : Nat) (z : Int) (m : Nat) (w : World) (h0 : -9223372036854775808 ≤ z) (h1 : z ≤ 9223372036854775807) (hm : min (max z 0) 8 = m) (hn : n ≤ 18446744073709551615) :
    Calls Tryd.prog 35 #[.int .u64 n, .int .i64 z] w fun e' w' => e' = .returned (.string ⟨(bigL 256 m n).toArray⟩) ∧ Below w.heap.size w w' := by
  obtain ⟨i0, hi, hz0, hz1, hz2⟩ := info_parts u8info
  have HM := Lib.hid hm
  have hm8 : m ≤ 8 := by omega
  clear hm
  have hI := Lib.hid hi; have hZ0 := Lib.hid hz0; have hZ1 := Lib.hid hz1; have hZ2 := Lib.hid hz2
  clear hi hz0 hz1 hz2
  go_enter Tryd.func35, Tryd.ntmps35
  go_wp2_with (first | (go_at_call 47; refine (bounded_any _ _ (by omega) (by omega)).mono ?_; rintro e1 w1 ⟨rfl, rfl⟩; rw [HM.out]) | (at_make; refine wpList_make_full _ rfl _ _ 37 rfl w.heap.size 5 i0 (.int .u8 0) 1 Tryd.underlying37 hI.out hZ0.out hZ1.out _ _ _ _ m rfl rfl rfl rfl (by rw [hZ2.out]; omega) (by unfold maxLen; omega) (Nat.le_refl _) ?_; intro w1 hown hgr))
  go_loopw [0, 6] (fun nn i wr => ∃ j : Nat, j ≤ m ∧ i = .int .i64 ((j : Int) - 1) ∧ nn = .int .u64 ((n / 256 ^ (m - j) : Nat) : Int) ∧ BigRel 256 w wr m j n) (fun _ i _ => (intOf i + 1).toNat)
  case atStart => exact ⟨m, Nat.le_refl _, rfl, by simp, BigRel.start hown hgr⟩
  case round =>
    obtain ⟨j, hj, rfl, rfl, hrel⟩ := hrel
    by_cases hlt : 0 < j
    · obtain ⟨j, rfl⟩ : ∃ i, j = i + 1 := ⟨j - 1, by omega⟩
      obtain ⟨p, hp⟩ : ∃ p, p = n / 256 ^ (m - (j + 1)) := ⟨_, rfl⟩
      have HP := Lib.hid hp
      have hpn : p ≤ 18446744073709551615 := by rw [hp]; exact Nat.le_trans (Nat.div_le_self _ _) hn
      rw [← hp, show (((j + 1 : Nat) : Int) - 1) = (j : Int) from by omega]
      clear hp hlt
      have hc := hrel.cell j (by omega)
      have hf := hrel.free j
      have hjm : j < m := by omega
      go_wp2
      go_roundw
      case rel => exact ⟨j, by omega, rfl, int_eq (div_step 256 n m j p HP.out hjm), hrel.step HP.out (by omega) (by simp)⟩
      case measure => simp [intOf]
    · obtain rfl : j = 0 := by omega
      clear hlt
      have hc := hrel.done
      go_wp2
      go_ret
      exact ⟨rfl, hrel.bel⟩
theorem and127 (p : Nat) (h : p ≤ 18446744073709551615) : bits BinOp.and IntKind.u64 (p : Int) 127 = ((p % 128 : Nat) : Int) := by
  have e := u64_and_nat p 127 (by omega) (by omega)
  have e2 : p &&& 127 = p % 128 := Nat.and_two_pow_sub_one_eq_mod p 7
  rw [e2] at e
  exact e
/-- The loop of Small: i bytes are written. -/
structure SmallRel (w wr : World) (m i n : Nat) : Prop where
  own : wr.ownsRow w.heap.size 5 1 (.slice (some ⟨w.heap.size, 0, none⟩) m m) m (cellsL (bigL 256 i n).reverse ++ List.replicate (m - i) (.int .u8 0))
  bel : Below w.heap.size w wr
  im : i ≤ m
theorem SmallRel.cell {w wr : World} {m i n : Nat} (h : SmallRel w wr m i n) (hi : i < m) : wr.cell? ⟨w.heap.size, i, none⟩ = some (.int .u8 0) := by
  rw [h.own.cellAt i (by omega), List.getElem?_append_right (by simp [cellsL, bigL_len]), List.getElem?_replicate, if_pos (by simp [cellsL, bigL_len]; omega)]
theorem SmallRel.free {w wr : World} {m j n : Nat} (h : SmallRel w wr m j n) (i : Nat) : wr.frozen? ⟨w.heap.size, i, none⟩ = false := h.own.frozenAt i
theorem SmallRel.done {w wr : World} {m n : Nat} (h : SmallRel w wr m m n) : ∀ wx, wx = wr → (convert 37 9 (.slice (some ⟨w.heap.size, 0, none⟩) m m)).run Tryd.prog wx = .ok (.string ⟨(bigL 256 m n).reverse.toArray⟩) wx := by
  rintro wx rfl
  have := run_convert_bytes_back (P := Tryd.prog) wx 37 9 5 ⟨w.heap.size, 0, none⟩ m (bigL 256 m n).reverse Tryd.underlying37 Tryd.underlying5 Tryd.underlying9 (fun j hj => by
    rw [List.length_reverse, bigL_len] at hj
    have e : (⟨w.heap.size, 0, none⟩ : Addr).add j = ⟨w.heap.size, j, none⟩ := by simp [Addr.add]; intro h; exact h.symm
    rw [e, h.own.cellAt j (by omega)]
    simp [cellsL, bigL_len, hj])
  rwa [List.length_reverse, bigL_len] at this
theorem SmallRel.step {w wr : World} {m i n p : Nat} (h : SmallRel w wr m i n) (him : i < m) (hp : p = n / 256 ^ i) {v : Int} (hv : v = ((p % 256 : Nat) : Int)) : SmallRel w (wr.setCell ⟨w.heap.size, i, none⟩ (.int .u8 v)) m (i + 1) n := by
  obtain ⟨h1, h2⟩ := h.own.stored i (.int .u8 v)
  refine ⟨?_, h.bel.setCell (Nat.le_refl _) _, by omega⟩
  have e3 : ((UInt8.ofNat (p % 256)).toNat : Int) = ((p % 256 : Nat) : Int) := by simp
  have e : m - i = (m - (i + 1)) + 1 := by omega
  have e2 : (cellsL (bigL 256 i n).reverse ++ List.replicate (m - i) (Value.int .u8 0)).set i (.int .u8 v) = cellsL (bigL 256 (i + 1) n).reverse ++ List.replicate (m - (i + 1)) (.int .u8 0) := by
    rw [List.set_append_right _ _ (by simp [cellsL, bigL_len]), e, List.replicate_succ]
    have : i - (cellsL (bigL 256 i n).reverse).length = 0 := by simp [cellsL, bigL_len]
    rw [this, List.set_cons_zero]
    simp only [bigL, cellsL, List.reverse_cons, List.map_append, List.map_cons, List.map_nil, ← hp, e3, hv, List.append_assoc, List.singleton_append]
  rwa [e2] at h1
theorem SmallRel.start {w w1 : World} {m n : Nat} (h : w1.ownsRow w.heap.size 5 1 (.slice (some ⟨w.heap.size, 0, none⟩) m m) m (madeCells (Value.int IntKind.u8 0).cells (m * 1)).toList) (hg : w.grownBy w1 none) : SmallRel w w1 m 0 n := by
  refine ⟨?_, (Below.refl _ _).grown hg (Nat.le_refl _) (by intro k h; cases h), Nat.zero_le _⟩
  have e : (madeCells (Value.int IntKind.u8 0).cells (m * 1)).toList = List.replicate m (Value.int .u8 0) := by rw [Nat.mul_one]; exact toList_madeCells_one _ _
  rw [e] at h
  simpa [bigL, cellsL] using h
theorem div_step' (n i p : Nat) (hp : p = n / 256 ^ i) : (p : Int) / 256 = ((n / 256 ^ (i + 1) : Nat) : Int) := by
  rw [Nat.pow_succ, ← Nat.div_div_eq_div_mul, ← hp]
  omega
end Go.Proofs.YtgjndekgnkjknaaDoor.oct
