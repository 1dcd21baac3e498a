/- Numbers and texts of layer 1: what was Oct0 to Oct4. -/
import Derived.Test.YtmpddibdggdngaaDoorChecked
import Derived.WalkKit
import Derived.WalkSmall
import Derived.BigQuiet
import Derived.Deep.QuietTactic
import Derived.Lib.Hide
import Derived.Deep.LoopGhost
namespace Go.Proofs.YtmpddibdggdngaaDoor.oct
open Go.RowKit
theorem ret_int {k : IntKind} {a b : Int} (h : a = b) : Ending.returned (.int k a) = .returned (.int k b) := by rw [h]

theorem bad_any (n at' : Int) (w : World) : Calls Tryd.prog 77 #[.agg #[.int .i64 n, .int .i64 at']] w fun e w' => e = .returned (.bool (n != 0)) ∧ Below w.heap.size w w' := by
  go_enter Tryd.func77, Tryd.ntmps77
  go_wp2
  go_ret
  exact ⟨rfl, (Below.refl _ _).alloc (Nat.le_refl _) _⟩
theorem bounded_any (n : Int) (w : World) (h0 : -9223372036854775808 ≤ n) (h1 : n ≤ 9223372036854775807) : Calls Tryd.prog 47 #[.int .i64 n] w fun e w' => e = .returned (.int .i64 (min (max n 0) 8)) ∧ w = w' := by
  go_enter Tryd.func47, Tryd.ntmps47
  go_wp2
  all_goals
    go_ret
    exact ⟨ret_int (by omega), rfl⟩
end Go.Proofs.YtmpddibdggdngaaDoor.oct
namespace Go.Proofs.YtmpddibdggdngaaDoor.oct
open Go.RowKit
theorem int_eq {k : IntKind} {a b : Int} (h : a = b) : Value.int k a = Value.int k b := by rw [h]
def num (l : List UInt8) : Nat := l.foldl (fun a c => a * 256 + c.toNat) 0
theorem num_snoc (l : List UInt8) (c : UInt8) : num (l ++ [c]) = num l * 256 + c.toNat := by simp [num]
theorem num_lt_aux : ∀ (n : Nat) (l : List UInt8), l.length = n → num l < 256 ^ n
  | 0, l, h => by rw [List.length_eq_zero_iff.1 h]; simp [num]
  | n + 1, l, h => by
    have hne : l ≠ [] := by intro e; rw [e] at h; simp at h
    have := num_lt_aux n l.dropLast (by simp [h])
    rw [← List.dropLast_concat_getLast hne, num_snoc, Nat.pow_succ]
    have := (l.getLast hne).toNat_lt
    omega
theorem num_lt (l : List UInt8) : num l < 256 ^ l.length := num_lt_aux _ l rfl
theorem num_le (l : List UInt8) (k : Nat) (h : l.length ≤ k) : num l < 256 ^ k := Nat.lt_of_lt_of_le (num_lt l) (Nat.pow_le_pow_right (by omega) h)
theorem pow_le7 (k : Nat) (h : k ≤ 7) : 256 ^ k ≤ 72057594037927936 := (Nat.pow_le_pow_right (n := 256) (by omega) h : 256 ^ k ≤ 256 ^ 7)
theorem or_add (a b : Nat) (i : Nat) (h : b < 2 ^ i) : (a * 2 ^ i) ||| b = a * 2 ^ i + b := by
  rw [Nat.mul_comm]; exact (Nat.two_pow_add_eq_or_of_lt h a).symm
theorem or_step (a : Nat) (c : UInt8) (h : a < 72057594037927936) : bits BinOp.or IntKind.u64 (IntKind.u64.wrap ((a : Int) * 256)) (IntKind.u64.wrap (c.toNat : Int)) = ((a * 256 + c.toNat : Nat) : Int) := by
  have hc := c.toNat_lt
  have e1 : IntKind.u64.wrap ((a : Int) * 256) = ((a * 256 : Nat) : Int) := by rw [IntWalk.u64_in _ (by omega)]; simp
  have e2 : IntKind.u64.wrap (c.toNat : Int) = ((c.toNat : Nat) : Int) := by rw [IntWalk.u64_in _ (by omega)]
  rw [e1, e2, u64_or_nat _ _ (by omega) (by omega), show a * 256 = a * 2 ^ 8 from rfl, or_add _ _ 8 (by omega)]
theorem take_snoc (s : ByteArray) (k : Nat) (h : k < s.size) : s.data.toList.take (k + 1) = s.data.toList.take k ++ [s[k]] := by
  rw [List.take_succ_eq_append_getElem (by simpa using h)]; rfl
theorem drop_rev (s : ByteArray) (j : Nat) (h : j < s.size) : (s.data.toList.drop j).reverse = (s.data.toList.drop (j + 1)).reverse ++ [s[j]] := by
  rw [List.drop_eq_getElem_cons (by simpa using h), List.reverse_cons]; rfl
def num7 (l : List UInt8) : Nat := l.foldl (fun a c => a * 128 + c.toNat) 0
theorem num7_snoc (l : List UInt8) (c : UInt8) : num7 (l ++ [c]) = num7 l * 128 + c.toNat := by simp [num7]
theorem num7_lt : ∀ (n : Nat) (l : List UInt8), l.length ≤ n → (∀ c ∈ l, c.toNat < 128) → num7 l < 128 ^ n
  | 0, l, h, _ => by rw [List.length_eq_zero_iff.1 (show l.length = 0 from by omega)]; simp [num7]
  | n + 1, l, h, hc => by
    by_cases hne : l = []
    · subst hne; simp [num7]; exact Nat.pow_pos (by omega)
    have h1 := num7_lt n l.dropLast (by simp; omega) (fun c hm => hc c (List.dropLast_subset l hm))
    have h2 := hc _ (List.getLast_mem hne)
    rw [← List.dropLast_concat_getLast hne, num7_snoc, Nat.pow_succ]
    omega
theorem i64_or_nat (a b : Nat) (h : (a ||| b) < 9223372036854775808) (ha : a < 9223372036854775808) (hb : b < 9223372036854775808) : bits .or .i64 (a : Int) (b : Int) = ((a ||| b : Nat) : Int) := by
  show IntKind.i64.wrap ((BitVec.ofInt 64 (a : Int) ||| BitVec.ofInt 64 (b : Int)).toNat : Int) = _
  rw [BitVec.toNat_or, ofInt_u64 a (by omega), ofInt_u64 b (by omega)]
  exact IntWalk.i64_in _ (by omega)
theorem or_step7 (a : Nat) (c : UInt8) (h : a < 2097152) (hc : c.toNat < 128) : bits BinOp.or IntKind.i64 (wrap64 ((a : Int) * 128)) (c.toNat : Int) = ((a * 128 + c.toNat : Nat) : Int) := by
  have e1 : wrap64 ((a : Int) * 128) = ((a * 128 : Nat) : Int) := by rw [← IntWalk.i64_left, IntWalk.i64_in _ (by omega)]; simp
  have e3 : (a * 128) ||| c.toNat = a * 128 + c.toNat := by rw [show a * 128 = a * 2 ^ 7 from rfl, or_add _ _ 7 (by omega)]
  rw [e1, i64_or_nat _ _ (by omega) (by omega) (by omega), e3]
theorem mem_at (s : ByteArray) (k : Nat) (h : k < s.size) : s[k] ∈ s.data.toList := List.getElem_mem (l := s.data.toList) (by simpa using h)
end Go.Proofs.YtmpddibdggdngaaDoor.oct
namespace Go.Proofs.YtmpddibdggdngaaDoor.oct
open Go.RowKit
set_option linter.unusedVariables false

/-- w' is w, but for new blocks, draws, and what stands in block b. -/
structure Upd (b : Nat) (w w' : World) : Prop where
  os : w'.os = w.os
  tape : w'.tape = w.tape
  output : w'.output = w.output
  size : w.heap.size ≤ w'.heap.size
  block : ∀ k, k < w.heap.size → k ≠ b → w'.heap[k]? = w.heap[k]?
theorem Upd.refl (b : Nat) (w : World) : Upd b w w := ⟨rfl, rfl, rfl, Nat.le_refl _, fun _ _ _ => rfl⟩
theorem Upd.trans {b : Nat} {x y z : World} (h : Upd b x y) (k : Upd b y z) : Upd b x z :=
  ⟨k.os.trans h.os, k.tape.trans h.tape, k.output.trans h.output, Nat.le_trans h.size k.size, fun i hi hb => (k.block i (Nat.lt_of_lt_of_le hi h.size) hb).trans (h.block i hi hb)⟩
theorem Upd.of {b B : Nat} {w w' : World} (h : Below B w w') (hB : w.heap.size ≤ B) : Upd b w w' := ⟨h.os, h.tape, h.output, h.size, fun k hk _ => h.block k (by omega)⟩
theorem Upd.setCell {b : Nat} {x y : World} (h : Upd b x y) (o : Nat) (u : Value) : Upd b x (y.setCell ⟨b, o, none⟩ u) :=
  h.trans ⟨rfl, rfl, rfl, by simp [World.setCell], fun k _ hk => Below.heap_setCell _ _ _ _ (by simpa using hk)⟩
theorem Upd.below {b B : Nat} {x y z : World} (h : Below B x y) (k : Upd b y z) (hB : B ≤ b) (hs : B ≤ y.heap.size) : Below B x z :=
  h.trans ⟨k.os, k.tape, k.output, k.size, fun i hi => k.block i (by omega) (by omega)⟩
theorem Upd.cell {b : Nat} {w w' : World} (h : Upd b w w') {p : Addr} (h1 : p.block < w.heap.size) (h2 : p.block ≠ b) : w'.cell? p = w.cell? p := World.cell?_of_block (w := w) (h.block p.block h1 h2)
theorem Upd.frozen {b : Nat} {w w' : World} (h : Upd b w w') {p : Addr} (h1 : p.block < w.heap.size) (h2 : p.block ≠ b) : w'.frozen? p = w.frozen? p := World.frozen?_of_block (w := w) (h.block p.block h1 h2)

/-- Block b is a reader of text t, at k, its base bs, its fault e at at'. -/
structure Rd (w : World) (b : Nat) (t : ByteArray) (k bs e at' : Int) : Prop where
  lt : b < w.heap.size
  c0 : w.cell? ⟨b, 0, none⟩ = some (.string t)
  c1 : w.cell? ⟨b, 1, none⟩ = some (.int .i64 k)
  c2 : w.cell? ⟨b, 2, none⟩ = some (.int .i64 bs)
  c3 : w.cell? ⟨b, 3, none⟩ = some (.int .i64 e)
  c4 : w.cell? ⟨b, 4, none⟩ = some (.int .i64 at')
  f1 : w.frozen? ⟨b, 1, none⟩ = false
  f3 : w.frozen? ⟨b, 3, none⟩ = false
  f4 : w.frozen? ⟨b, 4, none⟩ = false
theorem Rd.below {w w' : World} {b : Nat} {t : ByteArray} {k bs e at' : Int} {B : Nat} (h : Rd w b t k bs e at') (hb : Below B w w') (hB : b < B) : Rd w' b t k bs e at' := by
  have H : ∀ o, w'.cell? ⟨b, o, none⟩ = w.cell? ⟨b, o, none⟩ := fun o => hb.cell (p := ⟨b, o, none⟩) hB
  have F : ∀ o, w'.frozen? ⟨b, o, none⟩ = w.frozen? ⟨b, o, none⟩ := fun o => hb.frozen (p := ⟨b, o, none⟩) hB
  exact ⟨Nat.lt_of_lt_of_le h.lt hb.size, (H 0).trans h.c0, (H 1).trans h.c1, (H 2).trans h.c2, (H 3).trans h.c3, (H 4).trans h.c4, (F 1).trans h.f1, (F 3).trans h.f3, (F 4).trans h.f4⟩
theorem Rd.upd {w w' : World} {b c : Nat} {t : ByteArray} {k bs e at' : Int} (h : Rd w b t k bs e at') (hb : Upd c w w') (hB : b ≠ c) : Rd w' b t k bs e at' := by
  have H : ∀ o, w'.cell? ⟨b, o, none⟩ = w.cell? ⟨b, o, none⟩ := fun o => hb.cell (p := ⟨b, o, none⟩) h.lt hB
  have F : ∀ o, w'.frozen? ⟨b, o, none⟩ = w.frozen? ⟨b, o, none⟩ := fun o => hb.frozen (p := ⟨b, o, none⟩) h.lt hB
  exact ⟨Nat.lt_of_lt_of_le h.lt hb.size, (H 0).trans h.c0, (H 1).trans h.c1, (H 2).trans h.c2, (H 3).trans h.c3, (H 4).trans h.c4, (F 1).trans h.f1, (F 3).trans h.f3, (F 4).trans h.f4⟩

/-- Where a byte of the text stands in the greater one. -/
def plc (bs n : Int) : Int := if 9223372036854775807 - n < bs then 9223372036854775807 else bs + n
theorem plc_small {bs n : Int} (h : bs + n ≤ 9223372036854775807) : plc bs n = bs + n := by unfold plc; rw [if_neg (by omega)]
theorem plc_lo {bs n : Int} (h : 0 ≤ bs) (hn : 0 ≤ n) : 0 ≤ plc bs n := by unfold plc; split <;> omega
theorem plc_hi {bs n : Int} : plc bs n ≤ 9223372036854775807 := by unfold plc; split <;> omega
theorem rd_fault {w : World} {b : Nat} {t : ByteArray} {k bs e at' c n : Int} (h : Rd w b t k bs e at') : Rd ((w.setCell ⟨b, 3, none⟩ (.int .i64 c)).setCell ⟨b, 4, none⟩ (.int .i64 n)) b t k bs c n := by
  have hc4 : (w.setCell ⟨b, 3, none⟩ (.int .i64 c)).cell? ⟨b, 4, none⟩ = some (.int .i64 at') := by rw [World.cell?_setCell_other _ _ _ _ (by simp)]; exact h.c4
  refine ⟨by simpa [World.setCell] using h.lt, ?_, ?_, ?_, ?_, World.cell?_setCell_same _ _ _ hc4, by simpa using h.f1, by simpa using h.f3, by simpa using h.f4⟩
  · rw [World.cell?_setCell_other _ _ _ _ (by simp), World.cell?_setCell_other _ _ _ _ (by simp)]; exact h.c0
  · rw [World.cell?_setCell_other _ _ _ _ (by simp), World.cell?_setCell_other _ _ _ _ (by simp)]; exact h.c1
  · rw [World.cell?_setCell_other _ _ _ _ (by simp), World.cell?_setCell_other _ _ _ _ (by simp)]; exact h.c2
  · rw [World.cell?_setCell_other _ _ _ _ (by simp)]; exact World.cell?_setCell_same _ _ _ h.c3
theorem rd_read {w : World} {b : Nat} {t : ByteArray} {k bs e at' n : Int} (h : Rd w b t k bs e at') : Rd (w.setCell ⟨b, 1, none⟩ (.int .i64 n)) b t n bs e at' := by
  refine ⟨by simpa [World.setCell] using h.lt, ?_, World.cell?_setCell_same _ _ _ h.c1, ?_, ?_, ?_, by simpa using h.f1, by simpa using h.f3, by simpa using h.f4⟩
  · rw [World.cell?_setCell_other _ _ _ _ (by simp)]; exact h.c0
  · rw [World.cell?_setCell_other _ _ _ _ (by simp)]; exact h.c2
  · rw [World.cell?_setCell_other _ _ _ _ (by simp)]; exact h.c3
  · rw [World.cell?_setCell_other _ _ _ _ (by simp)]; exact h.c4
theorem ret_str {a b : ByteArray} (h : a = b) : Ending.returned (.string a) = .returned (.string b) := by rw [h]
theorem slice_km (t : ByteArray) (k m : Nat) (h : k + m ≤ t.size) (wx : World) : (Instr.slice 9 (.string t) (some (.int .i64 (k : Int))) (some (.int .i64 ((k : Int) + (m : Int)))) none).run Tryd.prog wx = .ok (.string (t.extract k (k + m))) wx := by
  rw [run_slice_string _ _ _ _ _ _ _ Tryd.underlying9 (by omega) (by omega) (by omega)]
  rfl
end Go.Proofs.YtmpddibdggdngaaDoor.oct
namespace Go.Proofs.YtmpddibdggdngaaDoor.oct
open Go.RowKit
set_option linter.unusedVariables false
end Go.Proofs.YtmpddibdggdngaaDoor.oct
namespace Go.Proofs.YtmpddibdggdngaaDoor.oct
open Go.RowKit
set_option linter.unusedVariables false
/-- m digits of n by base B as bytes, the highest first. -/
def bigL (B : Nat) : Nat → Nat → List UInt8
  | 0, _ => []
  | m + 1, n => UInt8.ofNat (n / B ^ m % B) :: bigL B m n
theorem bigL_len (B : Nat) : ∀ m n, (bigL B m n).length = m
  | 0, _ => rfl
  | m + 1, n => by simp [bigL, bigL_len B m n]
theorem u8info : (Tryd.prog.info? 5).map (fun i => (i.zero, i.size, i.bytes)) = some (some (.int .u8 0), 1, 1) := by kernel_rfl
def cellsL (l : List UInt8) : List Value := l.map fun c => Value.int .u8 (c.toNat : Int)
/-- The loop that writes: j bytes are still to be written. -/
structure BigRel (B : Nat) (w wr : World) (m j n : Nat) : Prop where
  own : wr.ownsRow w.heap.size 5 1 (.slice (some ⟨w.heap.size, 0, none⟩) m m) m (List.replicate j (.int .u8 0) ++ cellsL (bigL B (m - j) n))
  bel : Below w.heap.size w wr
  jm : j ≤ m
theorem cellsL_len (l : List UInt8) : (cellsL l).length = l.length := by simp [cellsL]
theorem BigRel.cell {B : Nat} {w wr : World} {m j n : Nat} (h : BigRel B w wr m (j + 1) n) (i : Nat) (hi : i < j + 1) : wr.cell? ⟨w.heap.size, i, none⟩ = some (.int .u8 0) := by
  rw [h.own.cellAt i (by have := h.jm; omega), List.getElem?_append_left (by simpa using hi)]
  simp [hi]
theorem BigRel.free {B : Nat} {w wr : World} {m j n : Nat} (h : BigRel B w wr m j n) (i : Nat) : wr.frozen? ⟨w.heap.size, i, none⟩ = false := h.own.frozenAt i
theorem BigRel.done {B : Nat} {w wr : World} {m n : Nat} (h : BigRel B w wr m 0 n) : ∀ wx, wx = wr → (convert 31 9 (.slice (some ⟨w.heap.size, 0, none⟩) m m)).run Tryd.prog wx = .ok (.string ⟨(bigL B m n).toArray⟩) wx := by
  rintro wx rfl
  have := run_convert_bytes_back (P := Tryd.prog) wx 31 9 5 ⟨w.heap.size, 0, none⟩ m (bigL B m n) Tryd.underlying31 Tryd.underlying5 Tryd.underlying9 (fun j hj => by
    rw [bigL_len] at hj
    have e : (⟨w.heap.size, 0, none⟩ : Addr).add j = ⟨w.heap.size, j, none⟩ := by simp [Addr.add]; intro h; exact h.symm
    rw [e, h.own.cellAt j (by omega)]
    simp [cellsL, bigL_len, hj])
  rwa [bigL_len] at this
theorem BigRel.step {B : Nat} {w wr : World} {m j n p : Nat} (h : BigRel B w wr m (j + 1) n) (hp : p = n / B ^ (m - (j + 1))) (hB : 0 < B ∧ B ≤ 256) {v : Int} (hv : v = ((p % B : Nat) : Int)) : BigRel B w (wr.setCell ⟨w.heap.size, j, none⟩ (.int .u8 v)) m j n := by
  have hjm := h.jm
  obtain ⟨h1, h2⟩ := h.own.stored j (.int .u8 v)
  refine ⟨?_, h.bel.setCell (Nat.le_refl _) _, by omega⟩
  have e : m - j = (m - (j + 1)) + 1 := by omega
  have e3 : ((UInt8.ofNat (p % B)).toNat : Int) = ((p % B : Nat) : Int) := by have := Nat.mod_lt p hB.1; simp; omega
  rw [e]
  have e2 : (List.replicate (j + 1) (Value.int .u8 0) ++ cellsL (bigL B (m - (j + 1)) n)).set j (.int .u8 v) = List.replicate j (Value.int .u8 0) ++ cellsL (bigL B (m - (j + 1) + 1) n) := by
    rw [List.replicate_succ', List.append_assoc, List.set_append_right _ _ (by simp)]
    simp only [List.length_replicate, Nat.sub_self, List.singleton_append, List.set_cons_zero]
    simp only [bigL, cellsL, List.map_cons, ← hp, e3, hv]
  rwa [e2] at h1
theorem BigRel.start {B : Nat} {w w1 : World} {m n : Nat} (h : w1.ownsRow w.heap.size 5 1 (.slice (some ⟨w.heap.size, 0, none⟩) m m) m (madeCells (Value.int IntKind.u8 0).cells (m * 1)).toList) (hg : w.grownBy w1 none) : BigRel B w w1 m m n := by
  refine ⟨?_, (Below.refl _ _).grown hg (Nat.le_refl _) (by intro k h; cases h), Nat.le_refl _⟩
  have e : (madeCells (Value.int IntKind.u8 0).cells (m * 1)).toList = List.replicate m (Value.int .u8 0) := by rw [Nat.mul_one]; exact toList_madeCells_one _ _
  rw [e] at h
  simpa [bigL, cellsL] using h
theorem div_step (B n m j p : Nat) (hp : p = n / B ^ (m - (j + 1))) (hj : j < m) : (p : Int) / (B : Int) = ((n / B ^ (m - j) : Nat) : Int) := by
  have e : m - j = (m - (j + 1)) + 1 := by omega
  rw [e, Nat.pow_succ, ← Nat.div_div_eq_div_mul, ← hp]
  simp
set_option maxRecDepth 100000 in
theorem big_any (n : Nat) (z : Int) (m : Nat) (w : World) (h0 : -9223372036854775808 ≤ z) (h1 : z ≤ 9223372036854775807) (hm : min (max z 0) 8 = m) (hn : n ≤ 18446744073709551615) :
    Calls Tryd.prog 38 #[.int .u64 n, .int .i64 z] w fun e' w' => e' = .returned (.string ⟨(bigL 256 m n).toArray⟩) ∧ Below w.heap.size w w' := by
  obtain ⟨i0, hi, hz0, hz1, hz2⟩ := info_parts u8info
  have HM := Lib.hid hm
  have hm8 : m ≤ 8 := by omega
  clear hm
  have hI := Lib.hid hi; have hZ0 := Lib.hid hz0; have hZ1 := Lib.hid hz1; have hZ2 := Lib.hid hz2
  clear hi hz0 hz1 hz2
  go_enter Tryd.func38, Tryd.ntmps38
  go_wp2_with (first | (go_at_call 47; refine (bounded_any _ _ (by omega) (by omega)).mono ?_; rintro e1 w1 ⟨rfl, rfl⟩; rw [HM.out]) | (at_make; refine wpList_make_full _ rfl _ _ 31 rfl w.heap.size 5 i0 (.int .u8 0) 1 Tryd.underlying31 hI.out hZ0.out hZ1.out _ _ _ _ m rfl rfl rfl rfl (by rw [hZ2.out]; omega) (by unfold maxLen; omega) (Nat.le_refl _) ?_; intro w1 hown hgr))
  go_loopw [0, 6] (fun nn i wr => ∃ j : Nat, j ≤ m ∧ i = .int .i64 ((j : Int) - 1) ∧ nn = .int .u64 ((n / 256 ^ (m - j) : Nat) : Int) ∧ BigRel 256 w wr m j n) (fun _ i _ => (intOf i + 1).toNat)
  case atStart => exact ⟨m, Nat.le_refl _, rfl, by simp, BigRel.start hown hgr⟩
  case round =>
    obtain ⟨j, hj, rfl, rfl, hrel⟩ := hrel
    by_cases hlt : 0 < j
    · obtain ⟨j, rfl⟩ : ∃ i, j = i + 1 := ⟨j - 1, by omega⟩
      obtain ⟨p, hp⟩ : ∃ p, p = n / 256 ^ (m - (j + 1)) := ⟨_, rfl⟩
      have HP := Lib.hid hp
      have hpn : p ≤ 18446744073709551615 := by rw [hp]; exact Nat.le_trans (Nat.div_le_self _ _) hn
      rw [← hp, show (((j + 1 : Nat) : Int) - 1) = (j : Int) from by omega]
      clear hp hlt
      have hc := hrel.cell j (by omega)
      have hf := hrel.free j
      have hjm : j < m := by omega
      go_wp2
      go_roundw
      case rel => exact ⟨j, by omega, rfl, int_eq (div_step 256 n m j p HP.out hjm), hrel.step HP.out (by omega) (by simp)⟩
      case measure => simp [intOf]
    · obtain rfl : j = 0 := by omega
      clear hlt
      have hc := hrel.done
      go_wp2
      go_ret
      exact ⟨rfl, hrel.bel⟩
theorem and127 (p : Nat) (h : p ≤ 18446744073709551615) : bits BinOp.and IntKind.u64 (p : Int) 127 = ((p % 128 : Nat) : Int) := by
  have e := u64_and_nat p 127 (by omega) (by omega)
  have e2 : p &&& 127 = p % 128 := Nat.and_two_pow_sub_one_eq_mod p 7
  rw [e2] at e
  exact e
/-- The loop of Small: i bytes are written. -/
structure SmallRel (w wr : World) (m i n : Nat) : Prop where
  own : wr.ownsRow w.heap.size 5 1 (.slice (some ⟨w.heap.size, 0, none⟩) m m) m (cellsL (bigL 256 i n).reverse ++ List.replicate (m - i) (.int .u8 0))
  bel : Below w.heap.size w wr
  im : i ≤ m
theorem SmallRel.cell {w wr : World} {m i n : Nat} (h : SmallRel w wr m i n) (hi : i < m) : wr.cell? ⟨w.heap.size, i, none⟩ = some (.int .u8 0) := by
  rw [h.own.cellAt i (by omega), List.getElem?_append_right (by simp [cellsL, bigL_len]), List.getElem?_replicate, if_pos (by simp [cellsL, bigL_len]; omega)]
theorem SmallRel.free {w wr : World} {m j n : Nat} (h : SmallRel w wr m j n) (i : Nat) : wr.frozen? ⟨w.heap.size, i, none⟩ = false := h.own.frozenAt i
theorem SmallRel.done {w wr : World} {m n : Nat} (h : SmallRel w wr m m n) : ∀ wx, wx = wr → (convert 31 9 (.slice (some ⟨w.heap.size, 0, none⟩) m m)).run Tryd.prog wx = .ok (.string ⟨(bigL 256 m n).reverse.toArray⟩) wx := by
  rintro wx rfl
  have := run_convert_bytes_back (P := Tryd.prog) wx 31 9 5 ⟨w.heap.size, 0, none⟩ m (bigL 256 m n).reverse Tryd.underlying31 Tryd.underlying5 Tryd.underlying9 (fun j hj => by
    rw [List.length_reverse, bigL_len] at hj
    have e : (⟨w.heap.size, 0, none⟩ : Addr).add j = ⟨w.heap.size, j, none⟩ := by simp [Addr.add]; intro h; exact h.symm
    rw [e, h.own.cellAt j (by omega)]
    simp [cellsL, bigL_len, hj])
  rwa [List.length_reverse, bigL_len] at this
theorem SmallRel.step {w wr : World} {m i n p : Nat} (h : SmallRel w wr m i n) (him : i < m) (hp : p = n / 256 ^ i) {v : Int} (hv : v = ((p % 256 : Nat) : Int)) : SmallRel w (wr.setCell ⟨w.heap.size, i, none⟩ (.int .u8 v)) m (i + 1) n := by
  obtain ⟨h1, h2⟩ := h.own.stored i (.int .u8 v)
  refine ⟨?_, h.bel.setCell (Nat.le_refl _) _, by omega⟩
  have e3 : ((UInt8.ofNat (p % 256)).toNat : Int) = ((p % 256 : Nat) : Int) := by simp
  have e : m - i = (m - (i + 1)) + 1 := by omega
  have e2 : (cellsL (bigL 256 i n).reverse ++ List.replicate (m - i) (Value.int .u8 0)).set i (.int .u8 v) = cellsL (bigL 256 (i + 1) n).reverse ++ List.replicate (m - (i + 1)) (.int .u8 0) := by
    rw [List.set_append_right _ _ (by simp [cellsL, bigL_len]), e, List.replicate_succ]
    have : i - (cellsL (bigL 256 i n).reverse).length = 0 := by simp [cellsL, bigL_len]
    rw [this, List.set_cons_zero]
    simp only [bigL, cellsL, List.reverse_cons, List.map_append, List.map_cons, List.map_nil, ← hp, e3, hv, List.append_assoc, List.singleton_append]
  rwa [e2] at h1
theorem SmallRel.start {w w1 : World} {m n : Nat} (h : w1.ownsRow w.heap.size 5 1 (.slice (some ⟨w.heap.size, 0, none⟩) m m) m (madeCells (Value.int IntKind.u8 0).cells (m * 1)).toList) (hg : w.grownBy w1 none) : SmallRel w w1 m 0 n := by
  refine ⟨?_, (Below.refl _ _).grown hg (Nat.le_refl _) (by intro k h; cases h), Nat.zero_le _⟩
  have e : (madeCells (Value.int IntKind.u8 0).cells (m * 1)).toList = List.replicate m (Value.int .u8 0) := by rw [Nat.mul_one]; exact toList_madeCells_one _ _
  rw [e] at h
  simpa [bigL, cellsL] using h
theorem div_step' (n i p : Nat) (hp : p = n / 256 ^ i) : (p : Int) / 256 = ((n / 256 ^ (i + 1) : Nat) : Int) := by
  rw [Nat.pow_succ, ← Nat.div_div_eq_div_mul, ← hp]
  omega
end Go.Proofs.YtmpddibdggdngaaDoor.oct
