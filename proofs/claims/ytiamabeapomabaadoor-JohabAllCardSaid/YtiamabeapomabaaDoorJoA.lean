/- The landed johab: the parts of a sign: contracts. -/
import Derived.Test.YtiamabeapomabaaDoorJo9
import Derived.Test.YtiamabeapomabaaDoorJo7
import Derived.Test.YtiamabeapomabaaDoorJo4
namespace Go.Proofs.YtiamabeapomabaaDoor.jo
open Go.RowKit Go.Lib
set_option linter.unusedVariables false
def aggP (a b d : Int) : Value := .agg #[.int .i64 a, .int .i64 b, .int .i64 d]
set_option maxRecDepth 100000 in
set_option maxHeartbeats 1000000 in
theorem letter_any (l : Int) (w : World) (h0 : 65 ≤ l) (h1 : l ≤ 255) : Calls Tryd.prog 26 #[.int .u8 l] w fun e w' => e = .returned (if 97 ≤ l then aggP (-1) (-1) (l - 97) else aggP (l - 65) (-1) 0) ∧ Below w.heap.size w w' := by
  by_cases h : 97 ≤ l
  · rw [if_pos h]
    obtain ⟨a3, a0, a1, a2, a4⟩ := f3_new w (-1) (-1) (l - 97) 39
    have w1 : IntKind.u8.wrap (l - 97) = l - 97 := by rw [IntKind.wrap_u8]; omega
    have w2 : IntKind.i64.wrap (l - 97) = l - 97 := wrap64 (by omega) (by omega)
    go_enter Tryd.func26, Tryd.ntmps26
    go_wp2_with fail
    refine bodyPost_ret (v := aggP (-1) (-1) (l - 97)) ?_ rfl ⟨rfl, (Below.refl w.heap.size w).alloc (Nat.le_refl _) _⟩
    simp [results, aggP, Tryd.results26, go_sem, a0, a1, a2]
  · rw [if_neg h]
    obtain ⟨a3, a0, a1, a2, a4⟩ := f3_new w (l - 65) (-1) 0 39
    have w1 : IntKind.u8.wrap (l - 65) = l - 65 := by rw [IntKind.wrap_u8]; omega
    have w2 : IntKind.i64.wrap (l - 65) = l - 65 := wrap64 (by omega) (by omega)
    go_enter Tryd.func26, Tryd.ntmps26
    go_wp2_with fail
    refine bodyPost_ret (v := aggP (l - 65) (-1) 0) ?_ rfl ⟨rfl, (Below.refl w.heap.size w).alloc (Nat.le_refl _) _⟩
    simp [results, aggP, Tryd.results26, go_sem, a0, a1, a2]
def tupP (v : Value) (b : Bool) : Value := .tuple #[v, .bool b]
set_option maxRecDepth 100000 in
set_option maxHeartbeats 1000000 in
theorem pos_none (p : Int) (w : World) (h : ¬ (12593 ≤ p ∧ p ≤ 55203 ∧ ¬ (12643 < p ∧ p < 44032))) : Calls Tryd.prog 20 #[.int .i32 p] w fun e w' => e = .returned (tupP (aggP 0 0 0) false) ∧ Below w.heap.size w w' := by
  obtain ⟨a3, a0, a1, a2, a4⟩ := f3_new w 0 0 0 39
  have hh : p < 12593 ∨ 55203 < p ∨ (12643 < p ∧ p < 44032) := by omega
  clear h
  rcases hh with h | h | ⟨h1, h2⟩
  · have n0 : ¬ 44032 ≤ p := by omega
    have n1 : ¬ 12623 ≤ p := by omega
    have n2 : ¬ 12593 ≤ p := by omega
    go_enter Tryd.func20, Tryd.ntmps20
    go_wp2_with fail
    refine bodyPost_ret (v := tupP (aggP 0 0 0) false) ?_ rfl ⟨rfl, (Below.refl w.heap.size w).alloc (Nat.le_refl _) _⟩
    simp [results, aggP, tupP, Tryd.results20, go_sem, a0, a1, a2]
  · have n0 : 44032 ≤ p := by omega
    have n3 : ¬ p ≤ 55203 := by omega
    have n1 : 12623 ≤ p := by omega
    have n4 : ¬ p ≤ 12643 := by omega
    have n2 : 12593 ≤ p := by omega
    have n5 : ¬ p ≤ 12622 := by omega
    go_enter Tryd.func20, Tryd.ntmps20
    go_wp2_with fail
    refine bodyPost_ret (v := tupP (aggP 0 0 0) false) ?_ rfl ⟨rfl, (Below.refl w.heap.size w).alloc (Nat.le_refl _) _⟩
    simp [results, aggP, tupP, Tryd.results20, go_sem, a0, a1, a2]
  · have n0 : ¬ 44032 ≤ p := by omega
    have n1 : 12623 ≤ p := by omega
    have n4 : ¬ p ≤ 12643 := by omega
    have n2 : 12593 ≤ p := by omega
    have n5 : ¬ p ≤ 12622 := by omega
    go_enter Tryd.func20, Tryd.ntmps20
    go_wp2_with fail
    refine bodyPost_ret (v := tupP (aggP 0 0 0) false) ?_ rfl ⟨rfl, (Below.refl w.heap.size w).alloc (Nat.le_refl _) _⟩
    simp [results, aggP, tupP, Tryd.results20, go_sem, a0, a1, a2]
set_option maxRecDepth 100000 in
set_option maxHeartbeats 1000000 in
theorem pos_syl (p n : Int) (w : World) (hp : p = 44032 + n) (h0 : 0 ≤ n) (h1 : n < 11172) : Calls Tryd.prog 20 #[.int .i32 p] w fun e w' => e = .returned (tupP (aggP (n / 28 / 21) (n / 28 % 21) (n % 28)) true) ∧ Below w.heap.size w w' := by
  obtain ⟨a3, a0, a1, a2, a4⟩ := f3_new w (n / 28 / 21) (n / 28 % 21) (n % 28) 39
  have n0 : 44032 ≤ p := by omega
  have n1 : p ≤ 55203 := by omega
  have e1 : IntKind.i32.wrap (p - 44032) = n := by rw [wrap32 (by omega) (by omega)]; omega
  have e2 : p - 44032 = n := by omega
  clear hp
  go_enter Tryd.func20, Tryd.ntmps20
  go_wp2_with fail
  refine bodyPost_ret (v := tupP (aggP (n / 28 / 21) (n / 28 % 21) (n % 28)) true) ?_ rfl ⟨rfl, (Below.refl w.heap.size w).alloc (Nat.le_refl _) _⟩
  simp [results, aggP, tupP, Tryd.results20, go_sem, a0, a1, a2]
set_option maxRecDepth 100000 in
set_option maxHeartbeats 1000000 in
theorem pos_med (p n : Int) (w : World) (hp : p = 12623 + n) (h0 : 0 ≤ n) (h1 : n ≤ 20) : Calls Tryd.prog 20 #[.int .i32 p] w fun e w' => e = .returned (tupP (aggP (-1) n 0) true) ∧ Below w.heap.size w w' := by
  obtain ⟨a3, a0, a1, a2, a4⟩ := f3_new w (-1) n 0 39
  have n0 : ¬ 44032 ≤ p := by omega
  have n1 : p ≤ 12643 := by omega
  have n2 : 12623 ≤ p := by omega
  have e1 : IntKind.i32.wrap (p - 12623) = n := by rw [wrap32 (by omega) (by omega)]; omega
  have e2 : p - 12623 = n := by omega
  clear hp
  go_enter Tryd.func20, Tryd.ntmps20
  go_wp2_with fail
  refine bodyPost_ret (v := tupP (aggP (-1) n 0) true) ?_ rfl ⟨rfl, (Below.refl w.heap.size w).alloc (Nat.le_refl _) _⟩
  simp [results, aggP, tupP, Tryd.results20, go_sem, a0, a1, a2]
theorem index_at32 (t : TypeId) (s : ByteArray) (i : Nat) (hi : i < s.size) (w : World) (h : Tryd.prog.underlying t = some .string) : (Instr.index t (.string s) (.int .i32 (i : Int))).run Tryd.prog w = .ok (.int .u8 ((s[i]).toNat : Int)) w := by
  rw [run_index_string w t s .i32 i h]
  simp [hi]
/-- The letter of a consonant. -/
def letL : List Nat := [65, 66, 100, 67, 102, 103, 68, 69, 70, 106, 107, 108, 109, 110, 111, 112, 71, 72, 73, 115, 74, 75, 76, 77, 78, 79, 80, 81, 82, 83]
theorem let_at : ∀ i : Fin 30, (consB[i.1]'(show i.1 < consB.size from i.2)).toNat = letL.getD i.1 0 := by decide +kernel
theorem let_le : ∀ k < 30, 65 ≤ letL.getD k 0 ∧ letL.getD k 0 ≤ 115 := by decide
set_option maxRecDepth 100000 in
set_option maxHeartbeats 2000000 in
theorem pos_con (p : Int) (k : Nat) (a b d : Int) (w : World) (hp : p = 12593 + (k : Int)) (h1 : k < 30) (hv : aggP a b d = (if 97 ≤ ((letL.getD k 0 : Nat) : Int) then aggP (-1) (-1) (((letL.getD k 0 : Nat) : Int) - 97) else aggP (((letL.getD k 0 : Nat) : Int) - 65) (-1) 0)) : Calls Tryd.prog 20 #[.int .i32 p] w fun e w' => e = .returned (tupP (aggP a b d) true) ∧ Below w.heap.size w w' := by
  have hl := let_le k h1
  have hat : (consB[k]'(show k < consB.size from h1)).toNat = letL.getD k 0 := let_at ⟨k, h1⟩
  have hix : ∀ wx, (Instr.index 9 (.string consB) (.int .i32 (k : Int))).run Tryd.prog wx = .ok (.int .u8 ((letL.getD k 0 : Nat) : Int)) wx := fun wx => by rw [← hat]; exact index_at32 9 consB k h1 wx Tryd.underlying9
  generalize letL.getD k 0 = l at *
  have HL := Lib.hid (fun w2 => letter_any l w2 (by omega) (by omega))
  rw [← hv] at HL
  have n0 : ¬ 44032 ≤ p := by omega
  have n1 : p ≤ 12622 := by omega
  have n2 : 12593 ≤ p := by omega
  have n3 : ¬ 12623 ≤ p := by omega
  have e1 : IntKind.i32.wrap (p - 12593) = (k : Int) := by rw [wrap32 (by omega) (by omega)]; omega
  have e2 : p - 12593 = (k : Int) := by omega
  have lt := f3_new w 0 0 0 39
  have LT := Lib.hid lt
  clear hp hv hl hat lt
  unfold consB at hix
  unfold aggP at HL
  go_enter Tryd.func20, Tryd.ntmps20
  go_wp2_with (go_at_call 26; refine (HL.out _).mono ?_; rintro e2 w2 ⟨rfl, hb2⟩; have G0 := Lib.hid (LT.out.below hb2 LT.out.lt); have HB2 := Lib.hid (((Below.refl w.heap.size w).alloc (Nat.le_refl _) _).trans (hb2.mono (by simp))); obtain ⟨a3, a0, a1, a2, a4⟩ := G0.out; clear hb2)
  refine bodyPost_ret (v := tupP (aggP a b d) true) ?_ rfl ⟨rfl, ((HB2.out.setCell (p := ⟨w.heap.size, 0, none⟩) (Nat.le_refl _) _).setCell (p := ⟨w.heap.size, 1, none⟩) (Nat.le_refl _) _).setCell (p := ⟨w.heap.size, 2, none⟩) (Nat.le_refl _) _⟩
  simp [results, aggP, tupP, Tryd.results20, go_sem, a0, a1, a2]
end Go.Proofs.YtiamabeapomabaaDoor.jo
