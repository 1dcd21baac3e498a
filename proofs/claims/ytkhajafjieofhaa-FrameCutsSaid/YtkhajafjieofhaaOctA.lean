/- Numbers and texts of layer 1: what was Oct0 to Oct4. -/
import Derived.Test.YtkhajafjieofhaaChecked
import Derived.WalkKit
import Derived.WalkSmall
import Derived.BigQuiet
import Derived.Deep.QuietTactic
import Derived.Lib.Hide
import Derived.Deep.LoopGhost
namespace Go.Proofs.Ytkhajafjieofhaa.oct
open Go.RowKit
theorem ret_int {k : IntKind} {a b : Int} (h : a = b) : Ending.returned (.int k a) = .returned (.int k b) := by rw [h]

theorem fault_nil (w : World) : Calls Try.prog 30 #[.pointer none] w fun e w' => e = .returned (.agg #[.int .i64 8, .int .i64 0]) ∧ Below w.heap.size w w' := by
  go_enter Try.func30, Try.ntmps30
  go_wp2
  exact bodyPost_ret (v := .agg #[.int .i64 8, .int .i64 0]) (by simp [results, Try.results30, go_sem]) rfl ⟨rfl, (Below.refl _ _).alloc (Nat.le_refl _) _⟩
theorem bad_any (n at' : Int) (w : World) : Calls Try.prog 28 #[.agg #[.int .i64 n, .int .i64 at']] w fun e w' => e = .returned (.bool (n != 0)) ∧ Below w.heap.size w w' := by
  go_enter Try.func28, Try.ntmps28
  go_wp2
  go_ret
  exact ⟨rfl, (Below.refl _ _).alloc (Nat.le_refl _) _⟩
theorem fault_some (w : World) (b : Nat) (e at' : Int) (hb : b < w.heap.size) (h3 : w.cell? ⟨b, 3, none⟩ = some (.int .i64 e)) (h4 : w.cell? ⟨b, 4, none⟩ = some (.int .i64 at')) : Calls Try.prog 30 #[.pointer (some ⟨b, 0, none⟩)] w fun e' w' => e' = .returned (.agg #[.int .i64 e, .int .i64 at']) ∧ Below w.heap.size w w' := by
  go_enter Try.func30, Try.ntmps30
  go_wp2
  exact bodyPost_ret (v := .agg #[.int .i64 e, .int .i64 at']) (by simp [results, Try.results30, go_sem]) rfl ⟨rfl, (Below.refl _ _).alloc (Nat.le_refl _) _⟩

theorem stopped_nil (w : World) : Calls Try.prog 63 #[.pointer none] w fun e w' => e = .returned (.bool true) ∧ Below w.heap.size w w' := by
  go_enter Try.func63, Try.ntmps63
  go_wp2_with (first | (go_at_call 30; refine (fault_nil _).mono ?_; rintro e1 w1 ⟨rfl, hb1⟩) | (go_at_call 28; refine (bad_any _ _ _).mono ?_; rintro e2 w2 ⟨rfl, hb2⟩))
  go_ret
  exact ⟨rfl, hb1.trans (hb2.mono hb1.size)⟩
theorem stopped_some (w : World) (b : Nat) (e at' : Int) (hb : b < w.heap.size) (h3 : w.cell? ⟨b, 3, none⟩ = some (.int .i64 e)) (h4 : w.cell? ⟨b, 4, none⟩ = some (.int .i64 at')) : Calls Try.prog 63 #[.pointer (some ⟨b, 0, none⟩)] w fun e' w' => e' = .returned (.bool (e != 0)) ∧ Below w.heap.size w w' := by
  go_enter Try.func63, Try.ntmps63
  go_wp2_with (first | (go_at_call 30; refine (fault_some _ _ _ _ hb h3 h4).mono ?_; rintro e1 w1 ⟨rfl, hb1⟩) | (go_at_call 28; refine (bad_any _ _ _).mono ?_; rintro e2 w2 ⟨rfl, hb2⟩))
  go_ret
  exact ⟨rfl, hb1.trans (hb2.mono hb1.size)⟩

theorem left_nil (w : World) : Calls Try.prog 55 #[.pointer none] w fun e w' => e = .returned (.int .i64 0) ∧ Below w.heap.size w w' := by
  go_enter Try.func55, Try.ntmps55
  go_wp2_with (go_at_call 63; refine (stopped_nil _).mono ?_; rintro e1 w1 ⟨rfl, hb1⟩)
  go_ret
  exact ⟨rfl, hb1⟩
theorem at_nil (w : World) : Calls Try.prog 45 #[.pointer none] w fun e w' => e = .returned (.int .i64 0) ∧ Below w.heap.size w w' := by
  go_enter Try.func45, Try.ntmps45
  go_wp2
  go_ret
  exact ⟨rfl, Below.refl _ _⟩
theorem take_nil (n : Int) (w : World) : Calls Try.prog 49 #[.pointer none, .int .i64 n] w fun e w' => e = .returned (.string ⟨#[]⟩) ∧ Below w.heap.size w w' := by
  go_enter Try.func49, Try.ntmps49
  go_wp2_with (go_at_call 63; refine (stopped_nil _).mono ?_; rintro e1 w1 ⟨rfl, hb1⟩)
  go_ret
  exact ⟨rfl, hb1⟩
theorem peek_nil (n : Int) (w : World) : Calls Try.prog 44 #[.pointer none, .int .i64 n] w fun e w' => e = .returned (.string ⟨#[]⟩) ∧ Below w.heap.size w w' := by
  go_enter Try.func44, Try.ntmps44
  go_wp2_with (go_at_call 63; refine (stopped_nil _).mono ?_; rintro e1 w1 ⟨rfl, hb1⟩)
  go_ret
  exact ⟨rfl, hb1⟩
theorem rest_nil (w : World) : Calls Try.prog 27 #[.pointer none] w fun e w' => e = .returned (.string ⟨#[]⟩) ∧ Below w.heap.size w w' := by
  go_enter Try.func27, Try.ntmps27
  go_wp2_with (first | (go_at_call 55; refine (left_nil _).mono ?_; rintro e1 w1 ⟨rfl, hb1⟩) | (go_at_call 49; refine (take_nil _ _).mono ?_; rintro e2 w2 ⟨rfl, hb2⟩))
  go_ret
  exact ⟨rfl, hb1.trans (hb2.mono hb1.size)⟩
theorem fail_nil (e n : Int) (w : World) : Calls Try.prog 51 #[.pointer none, .int .i64 e, .int .i64 n] w fun e w' => e = .returned (.tuple #[]) ∧ Below w.heap.size w w' := by
  go_enter Try.func51, Try.ntmps51
  go_wp2_with (go_at_call 63; refine (stopped_nil _).mono ?_; rintro e1 w1 ⟨rfl, hb1⟩)
  exact bodyPost_ret (v := .tuple #[]) (by simp [results, Try.results51, go_sem]) rfl ⟨rfl, hb1⟩
theorem bounded_any (n : Int) (w : World) (h0 : -9223372036854775808 ≤ n) (h1 : n ≤ 9223372036854775807) : Calls Try.prog 72 #[.int .i64 n] w fun e w' => e = .returned (.int .i64 (min (max n 0) 8)) ∧ w = w' := by
  go_enter Try.func72, Try.ntmps72
  go_wp2
  all_goals
    go_ret
    exact ⟨ret_int (by omega), rfl⟩
end Go.Proofs.Ytkhajafjieofhaa.oct
namespace Go.Proofs.Ytkhajafjieofhaa.oct
open Go.RowKit
theorem int_eq {k : IntKind} {a b : Int} (h : a = b) : Value.int k a = Value.int k b := by rw [h]
def num (l : List UInt8) : Nat := l.foldl (fun a c => a * 256 + c.toNat) 0
theorem num_snoc (l : List UInt8) (c : UInt8) : num (l ++ [c]) = num l * 256 + c.toNat := by simp [num]
theorem num_lt_aux : ∀ (n : Nat) (l : List UInt8), l.length = n → num l < 256 ^ n
  | 0, l, h => by rw [List.length_eq_zero_iff.1 h]; simp [num]
  | n + 1, l, h => by
    have hne : l ≠ [] := by intro e; rw [e] at h; simp at h
    have := num_lt_aux n l.dropLast (by simp [h])
    rw [← List.dropLast_concat_getLast hne, num_snoc, Nat.pow_succ]
    have := (l.getLast hne).toNat_lt
    omega
theorem num_lt (l : List UInt8) : num l < 256 ^ l.length := num_lt_aux _ l rfl
theorem num_le (l : List UInt8) (k : Nat) (h : l.length ≤ k) : num l < 256 ^ k := Nat.lt_of_lt_of_le (num_lt l) (Nat.pow_le_pow_right (by omega) h)
theorem pow_le7 (k : Nat) (h : k ≤ 7) : 256 ^ k ≤ 72057594037927936 := (Nat.pow_le_pow_right (n := 256) (by omega) h : 256 ^ k ≤ 256 ^ 7)
theorem or_add (a b : Nat) (i : Nat) (h : b < 2 ^ i) : (a * 2 ^ i) ||| b = a * 2 ^ i + b := by
  rw [Nat.mul_comm]; exact (Nat.two_pow_add_eq_or_of_lt h a).symm
theorem or_step (a : Nat) (c : UInt8) (h : a < 72057594037927936) : bits BinOp.or IntKind.u64 (IntKind.u64.wrap ((a : Int) * 256)) (IntKind.u64.wrap (c.toNat : Int)) = ((a * 256 + c.toNat : Nat) : Int) := by
  have hc := c.toNat_lt
  have e1 : IntKind.u64.wrap ((a : Int) * 256) = ((a * 256 : Nat) : Int) := by rw [IntWalk.u64_in _ (by omega)]; simp
  have e2 : IntKind.u64.wrap (c.toNat : Int) = ((c.toNat : Nat) : Int) := by rw [IntWalk.u64_in _ (by omega)]
  rw [e1, e2, u64_or_nat _ _ (by omega) (by omega), show a * 256 = a * 2 ^ 8 from rfl, or_add _ _ 8 (by omega)]
theorem take_snoc (s : ByteArray) (k : Nat) (h : k < s.size) : s.data.toList.take (k + 1) = s.data.toList.take k ++ [s[k]] := by
  rw [List.take_succ_eq_append_getElem (by simpa using h)]; rfl
theorem rbig_of (p : Value) (n k : Int) (s : ByteArray) (R : World → Prop) (w : World) (h0 : -9223372036854775808 ≤ n) (h1 : n ≤ 9223372036854775807) (hk : min (max n 0) 8 = k) (hs : s.size ≤ 8)
    (ht : Calls Try.prog 49 #[p, .int .i64 k] w fun e w' => e = .returned (.string s) ∧ R w') :
    Calls Try.prog 65 #[p, .int .i64 n] w fun e w' => e = .returned (.int .u64 (num s.data.toList)) ∧ R w' := by
  have HK := Lib.hid hk
  have HT := Lib.hid ht
  clear hk ht
  go_enter Try.func65, Try.ntmps65
  go_wp2_with (first | (go_at_call 72; refine (bounded_any _ _ (by omega) (by omega)).mono ?_; rintro e1 w1 ⟨rfl, rfl⟩; rw [HK.out]) | (go_at_call 49; refine HT.out.mono ?_; rintro e2 w2 ⟨rfl, hR⟩))
  go_loop [5, 14] (fun n i => ∃ k : Nat, k ≤ s.size ∧ i = .int .i64 k ∧ n = .int .u64 (num (s.data.toList.take k))) (fun _ i => s.size - (intOf i).toNat)
  case atStart => exact ⟨0, Nat.zero_le _, rfl, rfl⟩
  case round =>
    obtain ⟨k, hk, rfl, rfl⟩ := hrel
    by_cases hlt : k < s.size
    · go_wp2
      go_round
      case rel => exact ⟨k + 1, by omega, by go_num, int_eq (by rw [or_step _ _ (Nat.lt_of_lt_of_le (num_le _ k (List.length_take_le _ _)) (pow_le7 k (by omega))), take_snoc s k hlt, num_snoc])⟩
      case measure => simp [intOf]; omega
    · go_wp2
      go_ret
      exact ⟨ret_int (by rw [List.take_of_length_le (by simp; omega)]), hR⟩
theorem drop_rev (s : ByteArray) (j : Nat) (h : j < s.size) : (s.data.toList.drop j).reverse = (s.data.toList.drop (j + 1)).reverse ++ [s[j]] := by
  rw [List.drop_eq_getElem_cons (by simpa using h), List.reverse_cons]; rfl
def num7 (l : List UInt8) : Nat := l.foldl (fun a c => a * 128 + c.toNat) 0
theorem num7_snoc (l : List UInt8) (c : UInt8) : num7 (l ++ [c]) = num7 l * 128 + c.toNat := by simp [num7]
theorem num7_lt : ∀ (n : Nat) (l : List UInt8), l.length ≤ n → (∀ c ∈ l, c.toNat < 128) → num7 l < 128 ^ n
  | 0, l, h, _ => by rw [List.length_eq_zero_iff.1 (show l.length = 0 from by omega)]; simp [num7]
  | n + 1, l, h, hc => by
    by_cases hne : l = []
    · subst hne; simp [num7]; exact Nat.pow_pos (by omega)
    have h1 := num7_lt n l.dropLast (by simp; omega) (fun c hm => hc c (List.dropLast_subset l hm))
    have h2 := hc _ (List.getLast_mem hne)
    rw [← List.dropLast_concat_getLast hne, num7_snoc, Nat.pow_succ]
    omega
theorem i64_or_nat (a b : Nat) (h : (a ||| b) < 9223372036854775808) (ha : a < 9223372036854775808) (hb : b < 9223372036854775808) : bits .or .i64 (a : Int) (b : Int) = ((a ||| b : Nat) : Int) := by
  show IntKind.i64.wrap ((BitVec.ofInt 64 (a : Int) ||| BitVec.ofInt 64 (b : Int)).toNat : Int) = _
  rw [BitVec.toNat_or, ofInt_u64 a (by omega), ofInt_u64 b (by omega)]
  exact IntWalk.i64_in _ (by omega)
theorem or_step7 (a : Nat) (c : UInt8) (h : a < 2097152) (hc : c.toNat < 128) : bits BinOp.or IntKind.i64 (wrap64 ((a : Int) * 128)) (c.toNat : Int) = ((a * 128 + c.toNat : Nat) : Int) := by
  have e1 : wrap64 ((a : Int) * 128) = ((a * 128 : Nat) : Int) := by rw [← IntWalk.i64_left, IntWalk.i64_in _ (by omega)]; simp
  have e3 : (a * 128) ||| c.toNat = a * 128 + c.toNat := by rw [show a * 128 = a * 2 ^ 7 from rfl, or_add _ _ 7 (by omega)]
  rw [e1, i64_or_nat _ _ (by omega) (by omega) (by omega), e3]
theorem mem_at (s : ByteArray) (k : Nat) (h : k < s.size) : s[k] ∈ s.data.toList := List.getElem_mem (l := s.data.toList) (by simpa using h)
set_option maxRecDepth 100000 in
theorem rsafe_of (p : Value) (s : ByteArray) (R : World → Prop) (w : World) (hs : s.size ≤ 4) (hc : ∀ c ∈ s.data.toList, c.toNat < 128)
    (ht : Calls Try.prog 49 #[p, .int .i64 4] w fun e w' => e = .returned (.string s) ∧ R w') :
    Calls Try.prog 66 #[p] w fun e w' => e = .returned (.int .i64 (num7 s.data.toList)) ∧ R w' := by
  have HT := Lib.hid ht
  have HC := Lib.hid hc
  clear ht hc
  go_enter Try.func66, Try.ntmps66
  go_wp2_with (go_at_call 49; refine HT.out.mono ?_; rintro e2 w2 ⟨rfl, hR⟩)
  go_loop [3, 10] (fun n i => ∃ k : Nat, k ≤ s.size ∧ i = .int .i64 k ∧ n = .int .i64 (num7 (s.data.toList.take k))) (fun _ i => s.size - (intOf i).toNat)
  case atStart => exact ⟨0, Nat.zero_le _, rfl, rfl⟩
  case round =>
    obtain ⟨k, hk, rfl, rfl⟩ := hrel
    by_cases hlt : k < s.size
    · have hb : (s[k].toNat : Int) < 128 := by have := HC.out s[k] (mem_at s k hlt); omega
      go_wp2
      go_round
      case rel => exact ⟨k + 1, by omega, by go_num, int_eq (by rw [or_step7 _ _ (num7_lt 3 _ (by simp; omega) (fun c hm => HC.out c (List.mem_of_mem_take hm))) (by omega), take_snoc s k hlt, num7_snoc])⟩
      case measure => simp [intOf]; omega
    · go_wp2
      go_ret
      exact ⟨ret_int (by rw [List.take_of_length_le (by simp; omega)]), hR⟩
end Go.Proofs.Ytkhajafjieofhaa.oct
namespace Go.Proofs.Ytkhajafjieofhaa.oct
open Go.RowKit
set_option linter.unusedVariables false

/-- w' is w, but for new blocks, draws, and what stands in block b. -/
structure Upd (b : Nat) (w w' : World) : Prop where
  os : w'.os = w.os
  tape : w'.tape = w.tape
  output : w'.output = w.output
  size : w.heap.size ≤ w'.heap.size
  block : ∀ k, k < w.heap.size → k ≠ b → w'.heap[k]? = w.heap[k]?
theorem Upd.refl (b : Nat) (w : World) : Upd b w w := ⟨rfl, rfl, rfl, Nat.le_refl _, fun _ _ _ => rfl⟩
theorem Upd.trans {b : Nat} {x y z : World} (h : Upd b x y) (k : Upd b y z) : Upd b x z :=
  ⟨k.os.trans h.os, k.tape.trans h.tape, k.output.trans h.output, Nat.le_trans h.size k.size, fun i hi hb => (k.block i (Nat.lt_of_lt_of_le hi h.size) hb).trans (h.block i hi hb)⟩
theorem Upd.of {b B : Nat} {w w' : World} (h : Below B w w') (hB : w.heap.size ≤ B) : Upd b w w' := ⟨h.os, h.tape, h.output, h.size, fun k hk _ => h.block k (by omega)⟩
theorem Upd.setCell {b : Nat} {x y : World} (h : Upd b x y) (o : Nat) (u : Value) : Upd b x (y.setCell ⟨b, o, none⟩ u) :=
  h.trans ⟨rfl, rfl, rfl, by simp [World.setCell], fun k _ hk => Below.heap_setCell _ _ _ _ (by simpa using hk)⟩
theorem Upd.below {b B : Nat} {x y z : World} (h : Below B x y) (k : Upd b y z) (hB : B ≤ b) (hs : B ≤ y.heap.size) : Below B x z :=
  h.trans ⟨k.os, k.tape, k.output, k.size, fun i hi => k.block i (by omega) (by omega)⟩
theorem Upd.cell {b : Nat} {w w' : World} (h : Upd b w w') {p : Addr} (h1 : p.block < w.heap.size) (h2 : p.block ≠ b) : w'.cell? p = w.cell? p := World.cell?_of_block (w := w) (h.block p.block h1 h2)
theorem Upd.frozen {b : Nat} {w w' : World} (h : Upd b w w') {p : Addr} (h1 : p.block < w.heap.size) (h2 : p.block ≠ b) : w'.frozen? p = w.frozen? p := World.frozen?_of_block (w := w) (h.block p.block h1 h2)

/-- Block b is a reader of text t, at k, its base bs, its fault e at at'. -/
structure Rd (w : World) (b : Nat) (t : ByteArray) (k bs e at' : Int) : Prop where
  lt : b < w.heap.size
  c0 : w.cell? ⟨b, 0, none⟩ = some (.string t)
  c1 : w.cell? ⟨b, 1, none⟩ = some (.int .i64 k)
  c2 : w.cell? ⟨b, 2, none⟩ = some (.int .i64 bs)
  c3 : w.cell? ⟨b, 3, none⟩ = some (.int .i64 e)
  c4 : w.cell? ⟨b, 4, none⟩ = some (.int .i64 at')
  f1 : w.frozen? ⟨b, 1, none⟩ = false
  f3 : w.frozen? ⟨b, 3, none⟩ = false
  f4 : w.frozen? ⟨b, 4, none⟩ = false
theorem Rd.below {w w' : World} {b : Nat} {t : ByteArray} {k bs e at' : Int} {B : Nat} (h : Rd w b t k bs e at') (hb : Below B w w') (hB : b < B) : Rd w' b t k bs e at' := by
  have H : ∀ o, w'.cell? ⟨b, o, none⟩ = w.cell? ⟨b, o, none⟩ := fun o => hb.cell (p := ⟨b, o, none⟩) hB
  have F : ∀ o, w'.frozen? ⟨b, o, none⟩ = w.frozen? ⟨b, o, none⟩ := fun o => hb.frozen (p := ⟨b, o, none⟩) hB
  exact ⟨Nat.lt_of_lt_of_le h.lt hb.size, (H 0).trans h.c0, (H 1).trans h.c1, (H 2).trans h.c2, (H 3).trans h.c3, (H 4).trans h.c4, (F 1).trans h.f1, (F 3).trans h.f3, (F 4).trans h.f4⟩
theorem Rd.upd {w w' : World} {b c : Nat} {t : ByteArray} {k bs e at' : Int} (h : Rd w b t k bs e at') (hb : Upd c w w') (hB : b ≠ c) : Rd w' b t k bs e at' := by
  have H : ∀ o, w'.cell? ⟨b, o, none⟩ = w.cell? ⟨b, o, none⟩ := fun o => hb.cell (p := ⟨b, o, none⟩) h.lt hB
  have F : ∀ o, w'.frozen? ⟨b, o, none⟩ = w.frozen? ⟨b, o, none⟩ := fun o => hb.frozen (p := ⟨b, o, none⟩) h.lt hB
  exact ⟨Nat.lt_of_lt_of_le h.lt hb.size, (H 0).trans h.c0, (H 1).trans h.c1, (H 2).trans h.c2, (H 3).trans h.c3, (H 4).trans h.c4, (F 1).trans h.f1, (F 3).trans h.f3, (F 4).trans h.f4⟩

theorem left_on (w : World) (b : Nat) (t : ByteArray) (k : Nat) (bs at' : Int) (h : Rd w b t k bs 0 at') (hk : k ≤ t.size) (ht : t.size ≤ maxLen) :
    Calls Try.prog 55 #[.pointer (some ⟨b, 0, none⟩)] w fun e' w' => e' = .returned (.int .i64 ((t.size - k : Nat) : Int)) ∧ Below w.heap.size w w' := by
  unfold maxLen at ht
  have H := Lib.hid h
  have hlt := h.lt
  clear h
  go_enter Try.func55, Try.ntmps55
  go_wp2_with (go_at_call 63; refine (stopped_some _ _ 0 at' H.out.lt H.out.c3 H.out.c4).mono ?_; rintro e1 w1 ⟨rfl, hb1⟩; have c0 := (H.out.below hb1 hlt).c0; have c1 := (H.out.below hb1 hlt).c1)
  go_quiet (fail)
  go_wp2
  go_ret
  exact ⟨ret_int (by omega), below_drewN hb1 _⟩
theorem left_l (w : World) (b : Nat) (t : ByteArray) (k l : Nat) (bs at' : Int) (h : Rd w b t k bs 0 at') (hk : k + l = t.size) (ht : t.size ≤ maxLen) :
    Calls Try.prog 55 #[.pointer (some ⟨b, 0, none⟩)] w fun e' w' => e' = .returned (.int .i64 (l : Int)) ∧ Below w.heap.size w w' := by
  have := left_on w b t k bs at' h (by omega) ht
  rwa [show t.size - k = l from by omega] at this
theorem left_off (w : World) (b : Nat) (t : ByteArray) (k bs e at' : Int) (h : Rd w b t k bs e at') (he : (e != 0) = true) :
    Calls Try.prog 55 #[.pointer (some ⟨b, 0, none⟩)] w fun e' w' => e' = .returned (.int .i64 0) ∧ Below w.heap.size w w' := by
  go_enter Try.func55, Try.ntmps55
  go_wp2_with (go_at_call 63; refine (stopped_some _ _ _ _ h.lt h.c3 h.c4).mono ?_; rintro e1 w1 ⟨rfl, hb1⟩)
  go_ret
  exact ⟨rfl, hb1⟩
/-- Where a byte of the text stands in the greater one. -/
def plc (bs n : Int) : Int := if 9223372036854775807 - n < bs then 9223372036854775807 else bs + n
theorem plc_small {bs n : Int} (h : bs + n ≤ 9223372036854775807) : plc bs n = bs + n := by unfold plc; rw [if_neg (by omega)]
theorem plc_lo {bs n : Int} (h : 0 ≤ bs) (hn : 0 ≤ n) : 0 ≤ plc bs n := by unfold plc; split <;> omega
theorem plc_hi {bs n : Int} : plc bs n ≤ 9223372036854775807 := by unfold plc; split <;> omega
theorem place_on (w : World) (b : Nat) (bs n : Int) (hb : b < w.heap.size) (h2 : w.cell? ⟨b, 2, none⟩ = some (.int .i64 bs)) (h0 : 0 ≤ bs) (h1 : bs ≤ 9223372036854775807) (hn : 0 ≤ n) (hn' : n ≤ 9223372036854775807) :
    Calls Try.prog 64 #[.pointer (some ⟨b, 0, none⟩), .int .i64 n] w fun e' w' => e' = .returned (.int .i64 (plc bs n)) ∧ w = w' := by
  by_cases hh : 9223372036854775807 - n < bs
  · have hp : Hid (plc bs n = 9223372036854775807) := Lib.hid (by unfold plc; rw [if_pos hh])
    go_enter Try.func64, Try.ntmps64
    go_wp2
    go_ret
    exact ⟨ret_int hp.out.symm, rfl⟩
  · have hp : Hid (plc bs n = bs + n) := Lib.hid (by unfold plc; rw [if_neg hh])
    go_enter Try.func64, Try.ntmps64
    go_wp2
    go_ret
    exact ⟨ret_int hp.out.symm, rfl⟩
theorem at_on (w : World) (b : Nat) (t : ByteArray) (k : Nat) (bs e at' : Int) (h : Rd w b t k bs e at') (hk : k ≤ t.size) (ht : t.size ≤ maxLen) (h0 : 0 ≤ bs) (h1 : bs ≤ 9223372036854775807) :
    Calls Try.prog 45 #[.pointer (some ⟨b, 0, none⟩)] w fun e' w' => e' = .returned (.int .i64 (plc bs k)) ∧ w = w' := by
  unfold maxLen at ht
  have H := Lib.hid h
  have c1 := h.c1
  have hlt := h.lt
  clear h
  go_enter Try.func45, Try.ntmps45
  go_wp2_with (go_at_call 64; refine (place_on _ _ _ _ H.out.lt H.out.c2 h0 h1 (by omega) (by omega)).mono ?_; rintro e1 w1 ⟨rfl, rfl⟩)
  go_ret
  exact ⟨rfl, rfl⟩
theorem rd_fault {w : World} {b : Nat} {t : ByteArray} {k bs e at' c n : Int} (h : Rd w b t k bs e at') : Rd ((w.setCell ⟨b, 3, none⟩ (.int .i64 c)).setCell ⟨b, 4, none⟩ (.int .i64 n)) b t k bs c n := by
  have hc4 : (w.setCell ⟨b, 3, none⟩ (.int .i64 c)).cell? ⟨b, 4, none⟩ = some (.int .i64 at') := by rw [World.cell?_setCell_other _ _ _ _ (by simp)]; exact h.c4
  refine ⟨by simpa [World.setCell] using h.lt, ?_, ?_, ?_, ?_, World.cell?_setCell_same _ _ _ hc4, by simpa using h.f1, by simpa using h.f3, by simpa using h.f4⟩
  · rw [World.cell?_setCell_other _ _ _ _ (by simp), World.cell?_setCell_other _ _ _ _ (by simp)]; exact h.c0
  · rw [World.cell?_setCell_other _ _ _ _ (by simp), World.cell?_setCell_other _ _ _ _ (by simp)]; exact h.c1
  · rw [World.cell?_setCell_other _ _ _ _ (by simp), World.cell?_setCell_other _ _ _ _ (by simp)]; exact h.c2
  · rw [World.cell?_setCell_other _ _ _ _ (by simp)]; exact World.cell?_setCell_same _ _ _ h.c3
theorem rd_read {w : World} {b : Nat} {t : ByteArray} {k bs e at' n : Int} (h : Rd w b t k bs e at') : Rd (w.setCell ⟨b, 1, none⟩ (.int .i64 n)) b t n bs e at' := by
  refine ⟨by simpa [World.setCell] using h.lt, ?_, World.cell?_setCell_same _ _ _ h.c1, ?_, ?_, ?_, by simpa using h.f1, by simpa using h.f3, by simpa using h.f4⟩
  · rw [World.cell?_setCell_other _ _ _ _ (by simp)]; exact h.c0
  · rw [World.cell?_setCell_other _ _ _ _ (by simp)]; exact h.c2
  · rw [World.cell?_setCell_other _ _ _ _ (by simp)]; exact h.c3
  · rw [World.cell?_setCell_other _ _ _ _ (by simp)]; exact h.c4
theorem fail_on (w : World) (b : Nat) (t : ByteArray) (k bs at' c n : Int) (h : Rd w b t k bs 0 at') (hc : (c == 0) = false) :
    Calls Try.prog 51 #[.pointer (some ⟨b, 0, none⟩), .int .i64 c, .int .i64 n] w fun e' w' => e' = .returned (.tuple #[]) ∧ Rd w' b t k bs c n ∧ Upd b w w' := by
  have H := Lib.hid h
  have hlt := h.lt
  clear h
  go_enter Try.func51, Try.ntmps51
  go_wp2_with (go_at_call 63; refine (stopped_some _ _ 0 at' H.out.lt H.out.c3 H.out.c4).mono ?_; rintro e1 w1 ⟨rfl, hb1⟩; have c3 := (H.out.below hb1 hlt).c3; have c4 := (H.out.below hb1 hlt).c4; have f3 := (H.out.below hb1 hlt).f3; have f4 := (H.out.below hb1 hlt).f4)
  go_end0
  exact ⟨rfl, rd_fault (H.out.below hb1 hlt), ((Upd.of hb1 (Nat.le_refl _)).setCell _ _).setCell _ _⟩
theorem fail_ok (w : World) (b : Nat) (t : ByteArray) (k bs e at' n : Int) (h : Rd w b t k bs e at') :
    Calls Try.prog 51 #[.pointer (some ⟨b, 0, none⟩), .int .i64 0, .int .i64 n] w fun e' w' => e' = .returned (.tuple #[]) ∧ Below w.heap.size w w' := by
  by_cases he : (e != 0) = true
  all_goals
    go_enter Try.func51, Try.ntmps51
    go_wp2_with (go_at_call 63; refine (stopped_some _ _ _ _ h.lt h.c3 h.c4).mono ?_; rintro e1 w1 ⟨rfl, hb1⟩)
    exact bodyPost_ret (v := .tuple #[]) (by simp [results, Try.results51, go_sem]) rfl ⟨rfl, hb1⟩
theorem fail_off (w : World) (b : Nat) (t : ByteArray) (k bs e at' c n : Int) (h : Rd w b t k bs e at') (he : (e != 0) = true) :
    Calls Try.prog 51 #[.pointer (some ⟨b, 0, none⟩), .int .i64 c, .int .i64 n] w fun e' w' => e' = .returned (.tuple #[]) ∧ Below w.heap.size w w' := by
  go_enter Try.func51, Try.ntmps51
  go_wp2_with (go_at_call 63; refine (stopped_some _ _ _ _ h.lt h.c3 h.c4).mono ?_; rintro e1 w1 ⟨rfl, hb1⟩)
  exact bodyPost_ret (v := .tuple #[]) (by simp [results, Try.results51, go_sem]) rfl ⟨rfl, hb1⟩
theorem short_on (w : World) (b : Nat) (t : ByteArray) (k bs at' : Int) (h : Rd w b t k bs 0 at') (ht : t.size ≤ maxLen) (h0 : 0 ≤ bs) (h1 : bs ≤ 9223372036854775807) :
    Calls Try.prog 67 #[.pointer (some ⟨b, 0, none⟩)] w fun e' w' => e' = .returned (.tuple #[]) ∧ Rd w' b t k bs 1 (plc bs t.size) ∧ Upd b w w' := by
  unfold maxLen at ht
  have H := Lib.hid h
  have c0 := h.c0
  clear h
  go_enter Try.func67, Try.ntmps67
  go_wp2_with (first | (go_at_call 64; refine (place_on _ _ _ _ H.out.lt H.out.c2 h0 h1 (by omega) (by omega)).mono ?_; rintro e1 w1 ⟨rfl, rfl⟩) | (go_at_call 51; refine (fail_on _ _ _ _ _ _ _ _ H.out rfl).mono ?_; rintro e2 w2 ⟨rfl, hR, hU⟩))
  go_end0
  exact ⟨rfl, hR, hU⟩
theorem ret_str {a b : ByteArray} (h : a = b) : Ending.returned (.string a) = .returned (.string b) := by rw [h]
theorem slice_km (t : ByteArray) (k m : Nat) (h : k + m ≤ t.size) (wx : World) : (Instr.slice 9 (.string t) (some (.int .i64 (k : Int))) (some (.int .i64 ((k : Int) + (m : Int)))) none).run Try.prog wx = .ok (.string (t.extract k (k + m))) wx := by
  rw [run_slice_string _ _ _ _ _ _ _ Try.underlying9 (by omega) (by omega) (by omega)]
  rfl
theorem peek_m (w : World) (b : Nat) (t : ByteArray) (k m l : Nat) (bs at' n : Int) (h : Rd w b t k bs 0 at') (hk : k + l = t.size) (ht : t.size ≤ maxLen) (hn : n < 0 ∧ m = 0 ∨ n = m ∧ m ≤ l ∨ (l : Int) < n ∧ m = l) :
    Calls Try.prog 44 #[.pointer (some ⟨b, 0, none⟩), .int .i64 n] w fun e' w' => e' = .returned (.string (t.extract k (k + m))) ∧ Below w.heap.size w w' := by
  unfold maxLen at ht
  have H := Lib.hid h
  have HK := Lib.hid hk
  have hlt := h.lt
  have hlb : k + l ≤ t.size := by omega
  have hlb' : l ≤ t.size := by omega
  have hk' : k ≤ t.size := by omega
  clear h hk
  rcases hn with ⟨hn, hm⟩ | ⟨hn, hm⟩ | ⟨hn, hm⟩
  · subst hm
    go_enter Try.func44, Try.ntmps44
    go_wp2_with (first | (go_at_call 63; refine (stopped_some _ _ 0 at' H.out.lt H.out.c3 H.out.c4).mono ?_; rintro e1 w1 ⟨rfl, hb1⟩; have h1 := H.out.below hb1 hlt) | (go_at_call 55; refine (left_l _ _ _ _ _ _ _ (H.out.below hb1 hlt) HK.out (by unfold maxLen; exact ht)).mono ?_; rintro e1 w2 ⟨rfl, hb2⟩; have c0 := (H.out.below (hb1.trans (hb2.mono hb1.size)) hlt).c0; have c1 := (H.out.below (hb1.trans (hb2.mono hb1.size)) hlt).c1))
    go_quiet (fail)
    go_wp2
    go_ret
    exact ⟨ret_str (by simp), below_drewN (hb1.trans (hb2.mono hb1.size)) _⟩
  · subst hn
    have hml : (m : Int) ≤ (l : Int) := by omega
    go_enter Try.func44, Try.ntmps44
    go_wp2_with (first | (go_at_call 63; refine (stopped_some _ _ 0 at' H.out.lt H.out.c3 H.out.c4).mono ?_; rintro e1 w1 ⟨rfl, hb1⟩; have h1 := H.out.below hb1 hlt) | (go_at_call 55; refine (left_l _ _ _ _ _ _ _ (H.out.below hb1 hlt) HK.out (by unfold maxLen; exact ht)).mono ?_; rintro e1 w2 ⟨rfl, hb2⟩; have c0 := (H.out.below (hb1.trans (hb2.mono hb1.size)) hlt).c0; have c1 := (H.out.below (hb1.trans (hb2.mono hb1.size)) hlt).c1))
    have b1 : (k : Int) ≤ (k : Int) + (m : Int) := by omega
    have b2 : k + m ≤ t.size := by omega
    have b3 : (0 : Int) ≤ (k : Int) + (m : Int) := by omega
    have e2 : ((k : Int) + (m : Int)).toNat = k + m := by omega
    have e1 : IntKind.i64.wrap ((k : Int) + (m : Int)) = (k : Int) + (m : Int) := IntWalk.i64_in _ (by omega)
    have hsl := slice_km t k m (by omega)
    clear b1 b3 e2
    go_quiet (fail)
    clear e1 hsl
    go_wp2
    go_ret
    exact ⟨ret_str rfl, below_drewN (hb1.trans (hb2.mono hb1.size)) _⟩
  · have hml : ¬ n < 0 := by omega
    subst hm
    go_enter Try.func44, Try.ntmps44
    go_wp2_with (first | (go_at_call 63; refine (stopped_some _ _ 0 at' H.out.lt H.out.c3 H.out.c4).mono ?_; rintro e1 w1 ⟨rfl, hb1⟩; have h1 := H.out.below hb1 hlt) | (go_at_call 55; refine (left_l _ _ _ _ _ _ _ (H.out.below hb1 hlt) HK.out (by unfold maxLen; exact ht)).mono ?_; rintro e1 w2 ⟨rfl, hb2⟩; have c0 := (H.out.below (hb1.trans (hb2.mono hb1.size)) hlt).c0; have c1 := (H.out.below (hb1.trans (hb2.mono hb1.size)) hlt).c1))
    have b1 : (k : Int) ≤ (k : Int) + (m : Int) := by omega
    have b3 : (0 : Int) ≤ (k : Int) + (m : Int) := by omega
    have e2 : ((k : Int) + (m : Int)).toNat = k + m := by omega
    have e1 : IntKind.i64.wrap ((k : Int) + (m : Int)) = (k : Int) + (m : Int) := IntWalk.i64_in _ (by omega)
    have hsl := slice_km t k m (by omega)
    clear b1 b3 e2
    go_quiet (fail)
    clear e1 hsl
    go_wp2
    go_ret
    exact ⟨ret_str rfl, below_drewN (hb1.trans (hb2.mono hb1.size)) _⟩
theorem take_ok (w : World) (b : Nat) (t : ByteArray) (k n l : Nat) (bs at' : Int) (h : Rd w b t k bs 0 at') (hk : k + l = t.size) (hn : n ≤ l) (ht : t.size ≤ maxLen) :
    Calls Try.prog 49 #[.pointer (some ⟨b, 0, none⟩), .int .i64 n] w fun e' w' => e' = .returned (.string (t.extract k (k + n))) ∧ Rd w' b t ((k + n : Nat) : Int) bs 0 at' ∧ Upd b w w' := by
  have ht' := ht
  unfold maxLen at ht
  have H := Lib.hid h
  have HK := Lib.hid hk
  have hlt := h.lt
  have hk' : k ≤ t.size := by omega
  have hnl : (n : Int) ≤ (l : Int) := by omega
  have hkn : k + n ≤ t.size := by omega
  clear h hk
  go_enter Try.func49, Try.ntmps49
  go_wp2_with (first | (go_at_call 63; refine (stopped_some _ _ 0 at' H.out.lt H.out.c3 H.out.c4).mono ?_; rintro e1 w1 ⟨rfl, hb1⟩; have h1 := Lib.hid (H.out.below hb1 hlt); have l1 := hb1.size) | (go_at_call 55; refine (left_l _ _ _ _ _ _ _ h1.out HK.out ht').mono ?_; rintro e1 w2 ⟨rfl, hb2⟩; have h2 := Lib.hid (h1.out.below hb2 (Nat.lt_of_lt_of_le hlt l1)); have l2 := hb2.size) | (go_at_call 44; refine (peek_m _ _ _ _ n _ _ _ _ h2.out HK.out ht' (Or.inr (Or.inl ⟨rfl, hn⟩))).mono ?_; rintro e1 w3 ⟨rfl, hb3⟩; have h3 := Lib.hid (h2.out.below hb3 (by omega)); have c1 := h3.out.c1; have f1 := h3.out.f1))
  go_ret
  exact ⟨rfl, rd_read h3.out, ((((Upd.of hb1 (Nat.le_refl _)).trans (Upd.of hb2 (Nat.le_refl _))).trans (Upd.of hb3 (Nat.le_refl _)))).setCell _ _⟩
end Go.Proofs.Ytkhajafjieofhaa.oct
namespace Go.Proofs.Ytkhajafjieofhaa.oct
open Go.RowKit
set_option linter.unusedVariables false
theorem take_short (w : World) (b : Nat) (t : ByteArray) (k l : Nat) (n bs at' : Int) (h : Rd w b t k bs 0 at') (hk : k + l = t.size) (hn : n < 0 ∨ (l : Int) < n) (ht : t.size ≤ maxLen) (z0 : 0 ≤ bs) (z1 : bs ≤ 9223372036854775807) :
    Calls Try.prog 49 #[.pointer (some ⟨b, 0, none⟩), .int .i64 n] w fun e' w' => e' = .returned (.string ⟨#[]⟩) ∧ Rd w' b t k bs 1 (plc bs t.size) ∧ Upd b w w' := by
  have ht' := ht
  unfold maxLen at ht
  have H := Lib.hid h
  have HK := Lib.hid hk
  have hlt := h.lt
  have hk' : k ≤ t.size := by omega
  clear h hk
  rcases hn with hn | hn
  · go_enter Try.func49, Try.ntmps49
    go_wp2_with (first | (go_at_call 63; refine (stopped_some _ _ 0 at' H.out.lt H.out.c3 H.out.c4).mono ?_; rintro e1 w1 ⟨rfl, hb1⟩; have h1 := Lib.hid (H.out.below hb1 hlt)) | (go_at_call 67; refine (short_on _ _ _ _ _ _ h1.out ht' z0 z1).mono ?_; rintro e2 w2 ⟨rfl, hR, hU⟩))
    go_ret
    exact ⟨rfl, hR, (Upd.of hb1 (Nat.le_refl _)).trans hU⟩
  · have hn' : ¬ n < 0 := by omega
    go_enter Try.func49, Try.ntmps49
    go_wp2_with (first | (go_at_call 63; refine (stopped_some _ _ 0 at' H.out.lt H.out.c3 H.out.c4).mono ?_; rintro e1 w1 ⟨rfl, hb1⟩; have h1 := Lib.hid (H.out.below hb1 hlt); have l1 := hb1.size) | (go_at_call 55; refine (left_l _ _ _ _ _ _ _ h1.out HK.out ht').mono ?_; rintro e1 w2 ⟨rfl, hb2⟩; have h2 := Lib.hid (h1.out.below hb2 (Nat.lt_of_lt_of_le hlt l1))) | (go_at_call 67; refine (short_on _ _ _ _ _ _ h2.out ht' z0 z1).mono ?_; rintro e2 w3 ⟨rfl, hR, hU⟩))
    go_ret
    exact ⟨rfl, hR, ((Upd.of hb1 (Nat.le_refl _)).trans (Upd.of hb2 (Nat.le_refl _))).trans hU⟩
theorem take_off (w : World) (b : Nat) (t : ByteArray) (k bs e at' n : Int) (h : Rd w b t k bs e at') (he : (e != 0) = true) :
    Calls Try.prog 49 #[.pointer (some ⟨b, 0, none⟩), .int .i64 n] w fun e' w' => e' = .returned (.string ⟨#[]⟩) ∧ Below w.heap.size w w' := by
  go_enter Try.func49, Try.ntmps49
  go_wp2_with (go_at_call 63; refine (stopped_some _ _ _ _ h.lt h.c3 h.c4).mono ?_; rintro e1 w1 ⟨rfl, hb1⟩)
  go_ret
  exact ⟨rfl, hb1⟩
theorem peek_off (w : World) (b : Nat) (t : ByteArray) (k bs e at' n : Int) (h : Rd w b t k bs e at') (he : (e != 0) = true) :
    Calls Try.prog 44 #[.pointer (some ⟨b, 0, none⟩), .int .i64 n] w fun e' w' => e' = .returned (.string ⟨#[]⟩) ∧ Below w.heap.size w w' := by
  go_enter Try.func44, Try.ntmps44
  go_wp2_with (go_at_call 63; refine (stopped_some _ _ _ _ h.lt h.c3 h.c4).mono ?_; rintro e1 w1 ⟨rfl, hb1⟩)
  go_ret
  exact ⟨rfl, hb1⟩
theorem rest_off (w : World) (b : Nat) (t : ByteArray) (k bs e at' : Int) (h : Rd w b t k bs e at') (he : (e != 0) = true) :
    Calls Try.prog 27 #[.pointer (some ⟨b, 0, none⟩)] w fun e' w' => e' = .returned (.string ⟨#[]⟩) ∧ Below w.heap.size w w' := by
  have hlt := h.lt
  have H := Lib.hid h
  clear h
  go_enter Try.func27, Try.ntmps27
  go_wp2_with (first | (go_at_call 55; refine (left_off _ _ _ _ _ _ _ H.out he).mono ?_; rintro e1 w1 ⟨rfl, hb1⟩) | (go_at_call 49; refine (take_off _ _ _ _ _ _ _ _ (H.out.below hb1 hlt) he).mono ?_; rintro e1 w2 ⟨rfl, hb2⟩))
  go_ret
  exact ⟨rfl, hb1.trans (hb2.mono hb1.size)⟩
theorem rest_on (w : World) (b : Nat) (t : ByteArray) (k l : Nat) (bs at' : Int) (h : Rd w b t k bs 0 at') (hk : k + l = t.size) (ht : t.size ≤ maxLen) :
    Calls Try.prog 27 #[.pointer (some ⟨b, 0, none⟩)] w fun e' w' => e' = .returned (.string (t.extract k (k + l))) ∧ Rd w' b t ((k + l : Nat) : Int) bs 0 at' ∧ Upd b w w' := by
  have hlt := h.lt
  have H := Lib.hid h
  have HK := Lib.hid hk
  clear h hk
  go_enter Try.func27, Try.ntmps27
  go_wp2_with (first | (go_at_call 55; refine (left_l _ _ _ _ _ _ _ H.out HK.out ht).mono ?_; rintro e1 w1 ⟨rfl, hb1⟩) | (go_at_call 49; refine (take_ok _ _ _ _ _ _ _ _ (H.out.below hb1 hlt) HK.out (Nat.le_refl _) ht).mono ?_; rintro e1 w2 ⟨rfl, hR, hU⟩))
  go_ret
  exact ⟨rfl, hR, (Upd.of hb1 (Nat.le_refl _)).trans hU⟩
theorem rd_new (w : World) (t : ByteArray) (bs : Int) : Rd (w.alloc (.cells #[.string t, .int .i64 0, .int .i64 bs, .int .i64 0, .int .i64 0] 74)) w.heap.size t 0 bs 0 0 := by
  have F : ∀ o, (w.alloc (.cells #[.string t, .int .i64 0, .int .i64 bs, .int .i64 0, .int .i64 0] 74)).frozen? ⟨w.heap.size, o, none⟩ = false := fun o => by
    have := World.frozen?_alloc_mark w #[.string t, .int .i64 0, .int .i64 bs, .int .i64 0, .int .i64 0] 74 0 0 o
    rw [this]; simp
  refine ⟨by simp, ?_, ?_, ?_, ?_, ?_, F _, F _, F _⟩ <;> rw [World.cell?_alloc_mark] <;> rfl
theorem inner_any (t : ByteArray) (bs : Int) (w : World) :
    Calls Try.prog 29 #[.string t, .int .i64 bs] w fun e' w' => e' = .returned (.pointer (some ⟨w.heap.size, 0, none⟩)) ∧ Rd w' w.heap.size t 0 (max bs 0) 0 0 ∧ Below w.heap.size w w' := by
  by_cases h0 : bs < 0
  · have hm : Hid (max bs 0 = 0) := Lib.hid (by omega)
    rw [hm.out]
    go_enter Try.func29, Try.ntmps29
    go_wp2
    go_ret
    exact ⟨rfl, rd_new w t 0, (Below.refl _ _).alloc (Nat.le_refl _) _⟩
  · have hm : Hid (max bs 0 = bs) := Lib.hid (by omega)
    rw [hm.out]
    go_enter Try.func29, Try.ntmps29
    go_wp2
    go_ret
    exact ⟨rfl, rd_new w t bs, (Below.refl _ _).alloc (Nat.le_refl _) _⟩
theorem read_any (t : ByteArray) (w : World) :
    Calls Try.prog 24 #[.string t] w fun e' w' => e' = .returned (.pointer (some ⟨w.heap.size, 0, none⟩)) ∧ Rd w' w.heap.size t 0 0 0 0 ∧ Below w.heap.size w w' := by
  go_enter Try.func24, Try.ntmps24
  go_wp2_with (go_at_call 29; refine (inner_any t 0 _).mono ?_; rintro e1 w1 ⟨rfl, hR, hb⟩)
  go_ret
  exact ⟨rfl, hR, hb⟩
end Go.Proofs.Ytkhajafjieofhaa.oct
namespace Go.Proofs.Ytkhajafjieofhaa.oct
open Go.RowKit
set_option linter.unusedVariables false
/-- m digits of n by base B as bytes, the highest first. -/
def bigL (B : Nat) : Nat → Nat → List UInt8
  | 0, _ => []
  | m + 1, n => UInt8.ofNat (n / B ^ m % B) :: bigL B m n
theorem bigL_len (B : Nat) : ∀ m n, (bigL B m n).length = m
  | 0, _ => rfl
  | m + 1, n => by simp [bigL, bigL_len B m n]
theorem u8info : (Try.prog.info? 5).map (fun i => (i.zero, i.size, i.bytes)) = some (some (.int .u8 0), 1, 1) := by kernel_rfl
def cellsL (l : List UInt8) : List Value := l.map fun c => Value.int .u8 (c.toNat : Int)
/-- The loop that writes: j bytes are still to be written. -/
structure BigRel (B : Nat) (w wr : World) (m j n : Nat) : Prop where
  own : wr.ownsRow w.heap.size 5 1 (.slice (some ⟨w.heap.size, 0, none⟩) m m) m (List.replicate j (.int .u8 0) ++ cellsL (bigL B (m - j) n))
  bel : Below w.heap.size w wr
  jm : j ≤ m
theorem cellsL_len (l : List UInt8) : (cellsL l).length = l.length := by simp [cellsL]
theorem BigRel.cell {B : Nat} {w wr : World} {m j n : Nat} (h : BigRel B w wr m (j + 1) n) (i : Nat) (hi : i < j + 1) : wr.cell? ⟨w.heap.size, i, none⟩ = some (.int .u8 0) := by
  rw [h.own.cellAt i (by have := h.jm; omega), List.getElem?_append_left (by simpa using hi)]
  simp [hi]
theorem BigRel.free {B : Nat} {w wr : World} {m j n : Nat} (h : BigRel B w wr m j n) (i : Nat) : wr.frozen? ⟨w.heap.size, i, none⟩ = false := h.own.frozenAt i
theorem BigRel.done {B : Nat} {w wr : World} {m n : Nat} (h : BigRel B w wr m 0 n) : ∀ wx, wx = wr → (convert 82 9 (.slice (some ⟨w.heap.size, 0, none⟩) m m)).run Try.prog wx = .ok (.string ⟨(bigL B m n).toArray⟩) wx := by
  rintro wx rfl
  have := run_convert_bytes_back (P := Try.prog) wx 82 9 5 ⟨w.heap.size, 0, none⟩ m (bigL B m n) Try.underlying82 Try.underlying5 Try.underlying9 (fun j hj => by
    rw [bigL_len] at hj
    have e : (⟨w.heap.size, 0, none⟩ : Addr).add j = ⟨w.heap.size, j, none⟩ := by simp [Addr.add]; intro h; exact h.symm
    rw [e, h.own.cellAt j (by omega)]
    simp [cellsL, bigL_len, hj])
  rwa [bigL_len] at this
theorem BigRel.step {B : Nat} {w wr : World} {m j n p : Nat} (h : BigRel B w wr m (j + 1) n) (hp : p = n / B ^ (m - (j + 1))) (hB : 0 < B ∧ B ≤ 256) {v : Int} (hv : v = ((p % B : Nat) : Int)) : BigRel B w (wr.setCell ⟨w.heap.size, j, none⟩ (.int .u8 v)) m j n := by
  have hjm := h.jm
  obtain ⟨h1, h2⟩ := h.own.stored j (.int .u8 v)
  refine ⟨?_, h.bel.setCell (Nat.le_refl _) _, by omega⟩
  have e : m - j = (m - (j + 1)) + 1 := by omega
  have e3 : ((UInt8.ofNat (p % B)).toNat : Int) = ((p % B : Nat) : Int) := by have := Nat.mod_lt p hB.1; simp; omega
  rw [e]
  have e2 : (List.replicate (j + 1) (Value.int .u8 0) ++ cellsL (bigL B (m - (j + 1)) n)).set j (.int .u8 v) = List.replicate j (Value.int .u8 0) ++ cellsL (bigL B (m - (j + 1) + 1) n) := by
    rw [List.replicate_succ', List.append_assoc, List.set_append_right _ _ (by simp)]
    simp only [List.length_replicate, Nat.sub_self, List.singleton_append, List.set_cons_zero]
    simp only [bigL, cellsL, List.map_cons, ← hp, e3, hv]
  rwa [e2] at h1
theorem BigRel.start {B : Nat} {w w1 : World} {m n : Nat} (h : w1.ownsRow w.heap.size 5 1 (.slice (some ⟨w.heap.size, 0, none⟩) m m) m (madeCells (Value.int IntKind.u8 0).cells (m * 1)).toList) (hg : w.grownBy w1 none) : BigRel B w w1 m m n := by
  refine ⟨?_, (Below.refl _ _).grown hg (Nat.le_refl _) (by intro k h; cases h), Nat.le_refl _⟩
  have e : (madeCells (Value.int IntKind.u8 0).cells (m * 1)).toList = List.replicate m (Value.int .u8 0) := by rw [Nat.mul_one]; exact toList_madeCells_one _ _
  rw [e] at h
  simpa [bigL, cellsL] using h
theorem div_step (B n m j p : Nat) (hp : p = n / B ^ (m - (j + 1))) (hj : j < m) : (p : Int) / (B : Int) = ((n / B ^ (m - j) : Nat) : Int) := by
  have e : m - j = (m - (j + 1)) + 1 := by omega
  rw [e, Nat.pow_succ, ← Nat.div_div_eq_div_mul, ← hp]
  simp
set_option maxRecDepth 100000 in
theorem big_any (n : Nat) (z : Int) (m : Nat) (w : World) (h0 : -9223372036854775808 ≤ z) (h1 : z ≤ 9223372036854775807) (hm : min (max z 0) 8 = m) (hn : n ≤ 18446744073709551615) :
    Calls Try.prog 58 #[.int .u64 n, .int .i64 z] w fun e' w' => e' = .returned (.string ⟨(bigL 256 m n).toArray⟩) ∧ Below w.heap.size w w' := by
  obtain ⟨i0, hi, hz0, hz1, hz2⟩ := info_parts u8info
  have HM := Lib.hid hm
  have hm8 : m ≤ 8 := by omega
  clear hm
  have hI := Lib.hid hi; have hZ0 := Lib.hid hz0; have hZ1 := Lib.hid hz1; have hZ2 := Lib.hid hz2
  clear hi hz0 hz1 hz2
  go_enter Try.func58, Try.ntmps58
  go_wp2_with (first | (go_at_call 72; refine (bounded_any _ _ (by omega) (by omega)).mono ?_; rintro e1 w1 ⟨rfl, rfl⟩; rw [HM.out]) | (at_make; refine wpList_make_full _ rfl _ _ 82 rfl w.heap.size 5 i0 (.int .u8 0) 1 Try.underlying82 hI.out hZ0.out hZ1.out _ _ _ _ m rfl rfl rfl rfl (by rw [hZ2.out]; omega) (by unfold maxLen; omega) (Nat.le_refl _) ?_; intro w1 hown hgr))
  go_loopw [0, 6] (fun nn i wr => ∃ j : Nat, j ≤ m ∧ i = .int .i64 ((j : Int) - 1) ∧ nn = .int .u64 ((n / 256 ^ (m - j) : Nat) : Int) ∧ BigRel 256 w wr m j n) (fun _ i _ => (intOf i + 1).toNat)
  case atStart => exact ⟨m, Nat.le_refl _, rfl, by simp, BigRel.start hown hgr⟩
  case round =>
    obtain ⟨j, hj, rfl, rfl, hrel⟩ := hrel
    by_cases hlt : 0 < j
    · obtain ⟨j, rfl⟩ : ∃ i, j = i + 1 := ⟨j - 1, by omega⟩
      obtain ⟨p, hp⟩ : ∃ p, p = n / 256 ^ (m - (j + 1)) := ⟨_, rfl⟩
      have HP := Lib.hid hp
      have hpn : p ≤ 18446744073709551615 := by rw [hp]; exact Nat.le_trans (Nat.div_le_self _ _) hn
      rw [← hp, show (((j + 1 : Nat) : Int) - 1) = (j : Int) from by omega]
      clear hp hlt
      have hc := hrel.cell j (by omega)
      have hf := hrel.free j
      have hjm : j < m := by omega
      go_wp2
      go_roundw
      case rel => exact ⟨j, by omega, rfl, int_eq (div_step 256 n m j p HP.out hjm), hrel.step HP.out (by omega) (by simp)⟩
      case measure => simp [intOf]
    · obtain rfl : j = 0 := by omega
      clear hlt
      have hc := hrel.done
      go_wp2
      go_ret
      exact ⟨rfl, hrel.bel⟩
theorem and127 (p : Nat) (h : p ≤ 18446744073709551615) : bits BinOp.and IntKind.u64 (p : Int) 127 = ((p % 128 : Nat) : Int) := by
  have e := u64_and_nat p 127 (by omega) (by omega)
  have e2 : p &&& 127 = p % 128 := Nat.and_two_pow_sub_one_eq_mod p 7
  rw [e2] at e
  exact e
set_option maxRecDepth 100000 in
theorem safe_ok (n : Nat) (w : World) (hn : n ≤ 268435455) :
    Calls Try.prog 59 #[.int .u64 n] w fun e' w' => e' = .returned (.tuple #[.string ⟨(bigL 128 4 n).toArray⟩, .bool true]) ∧ Below w.heap.size w w' := by
  have hn' : ((n : Int) > 268435455) = False := by simp; omega
  obtain ⟨i0, hi, hz0, hz1, hz2⟩ := info_parts u8info
  have hI := Lib.hid hi; have hZ0 := Lib.hid hz0; have hZ1 := Lib.hid hz1; have hZ2 := Lib.hid hz2
  clear hi hz0 hz1 hz2
  go_enter Try.func59, Try.ntmps59
  go_wp2_with ((at_make; refine wpList_make_full _ rfl _ _ 82 rfl w.heap.size 5 i0 (.int .u8 0) 1 Try.underlying82 hI.out hZ0.out hZ1.out _ _ _ _ 4 rfl rfl rfl rfl (by rw [hZ2.out]; omega) (by unfold maxLen; omega) (Nat.le_refl _) ?_; intro w1 hown hgr))
  go_loopw [0, 5] (fun nn i wr => ∃ j : Nat, j ≤ 4 ∧ i = .int .i64 ((j : Int) - 1) ∧ nn = .int .u64 ((n / 128 ^ (4 - j) : Nat) : Int) ∧ BigRel 128 w wr 4 j n) (fun _ i _ => (intOf i + 1).toNat)
  case atStart => exact ⟨4, Nat.le_refl _, rfl, by simp, BigRel.start hown hgr⟩
  case round =>
    obtain ⟨j, hj, rfl, rfl, hrel⟩ := hrel
    by_cases hlt : 0 < j
    · obtain ⟨j, rfl⟩ : ∃ i, j = i + 1 := ⟨j - 1, by omega⟩
      obtain ⟨p, hp⟩ : ∃ p, p = n / 128 ^ (4 - (j + 1)) := ⟨_, rfl⟩
      have HP := Lib.hid hp
      have hpn : p ≤ 268435455 := by rw [hp]; exact Nat.le_trans (Nat.div_le_self _ _) hn
      rw [← hp, show (((j + 1 : Nat) : Int) - 1) = (j : Int) from by omega]
      clear hp hlt
      have hc := hrel.cell j (by omega)
      have hf := hrel.free j
      have hjm : j < 4 := by omega
      go_wp2
      go_roundw
      case rel => exact ⟨j, by omega, rfl, int_eq (div_step 128 n 4 j p HP.out hjm), hrel.step HP.out (by omega) (by rw [and127 _ (by omega)]; omega)⟩
      case measure => simp [intOf]
    · obtain rfl : j = 0 := by omega
      clear hlt
      have hc := hrel.done
      go_wp2
      go_ret2
      exact ⟨rfl, hrel.bel⟩
theorem safe_no (n : Int) (w : World) (hn : 268435455 < n) :
    Calls Try.prog 59 #[.int .u64 n] w fun e' w' => e' = .returned (.tuple #[.string ⟨#[]⟩, .bool false]) ∧ w = w' := by
  go_enter Try.func59, Try.ntmps59
  go_wp2
  go_ret2
  exact ⟨rfl, rfl⟩
/-- The loop of Small: i bytes are written. -/
structure SmallRel (w wr : World) (m i n : Nat) : Prop where
  own : wr.ownsRow w.heap.size 5 1 (.slice (some ⟨w.heap.size, 0, none⟩) m m) m (cellsL (bigL 256 i n).reverse ++ List.replicate (m - i) (.int .u8 0))
  bel : Below w.heap.size w wr
  im : i ≤ m
theorem SmallRel.cell {w wr : World} {m i n : Nat} (h : SmallRel w wr m i n) (hi : i < m) : wr.cell? ⟨w.heap.size, i, none⟩ = some (.int .u8 0) := by
  rw [h.own.cellAt i (by omega), List.getElem?_append_right (by simp [cellsL, bigL_len]), List.getElem?_replicate, if_pos (by simp [cellsL, bigL_len]; omega)]
theorem SmallRel.free {w wr : World} {m j n : Nat} (h : SmallRel w wr m j n) (i : Nat) : wr.frozen? ⟨w.heap.size, i, none⟩ = false := h.own.frozenAt i
theorem SmallRel.done {w wr : World} {m n : Nat} (h : SmallRel w wr m m n) : ∀ wx, wx = wr → (convert 82 9 (.slice (some ⟨w.heap.size, 0, none⟩) m m)).run Try.prog wx = .ok (.string ⟨(bigL 256 m n).reverse.toArray⟩) wx := by
  rintro wx rfl
  have := run_convert_bytes_back (P := Try.prog) wx 82 9 5 ⟨w.heap.size, 0, none⟩ m (bigL 256 m n).reverse Try.underlying82 Try.underlying5 Try.underlying9 (fun j hj => by
    rw [List.length_reverse, bigL_len] at hj
    have e : (⟨w.heap.size, 0, none⟩ : Addr).add j = ⟨w.heap.size, j, none⟩ := by simp [Addr.add]; intro h; exact h.symm
    rw [e, h.own.cellAt j (by omega)]
    simp [cellsL, bigL_len, hj])
  rwa [List.length_reverse, bigL_len] at this
theorem SmallRel.step {w wr : World} {m i n p : Nat} (h : SmallRel w wr m i n) (him : i < m) (hp : p = n / 256 ^ i) {v : Int} (hv : v = ((p % 256 : Nat) : Int)) : SmallRel w (wr.setCell ⟨w.heap.size, i, none⟩ (.int .u8 v)) m (i + 1) n := by
  obtain ⟨h1, h2⟩ := h.own.stored i (.int .u8 v)
  refine ⟨?_, h.bel.setCell (Nat.le_refl _) _, by omega⟩
  have e3 : ((UInt8.ofNat (p % 256)).toNat : Int) = ((p % 256 : Nat) : Int) := by simp
  have e : m - i = (m - (i + 1)) + 1 := by omega
  have e2 : (cellsL (bigL 256 i n).reverse ++ List.replicate (m - i) (Value.int .u8 0)).set i (.int .u8 v) = cellsL (bigL 256 (i + 1) n).reverse ++ List.replicate (m - (i + 1)) (.int .u8 0) := by
    rw [List.set_append_right _ _ (by simp [cellsL, bigL_len]), e, List.replicate_succ]
    have : i - (cellsL (bigL 256 i n).reverse).length = 0 := by simp [cellsL, bigL_len]
    rw [this, List.set_cons_zero]
    simp only [bigL, cellsL, List.reverse_cons, List.map_append, List.map_cons, List.map_nil, ← hp, e3, hv, List.append_assoc, List.singleton_append]
  rwa [e2] at h1
theorem SmallRel.start {w w1 : World} {m n : Nat} (h : w1.ownsRow w.heap.size 5 1 (.slice (some ⟨w.heap.size, 0, none⟩) m m) m (madeCells (Value.int IntKind.u8 0).cells (m * 1)).toList) (hg : w.grownBy w1 none) : SmallRel w w1 m 0 n := by
  refine ⟨?_, (Below.refl _ _).grown hg (Nat.le_refl _) (by intro k h; cases h), Nat.zero_le _⟩
  have e : (madeCells (Value.int IntKind.u8 0).cells (m * 1)).toList = List.replicate m (Value.int .u8 0) := by rw [Nat.mul_one]; exact toList_madeCells_one _ _
  rw [e] at h
  simpa [bigL, cellsL] using h
theorem div_step' (n i p : Nat) (hp : p = n / 256 ^ i) : (p : Int) / 256 = ((n / 256 ^ (i + 1) : Nat) : Int) := by
  rw [Nat.pow_succ, ← Nat.div_div_eq_div_mul, ← hp]
  omega
end Go.Proofs.Ytkhajafjieofhaa.oct
