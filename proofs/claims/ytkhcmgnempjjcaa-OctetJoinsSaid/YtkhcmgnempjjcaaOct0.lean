/- The reader of layer 1 where it is none (nil), and the small calls that every reader goes through: contracts. -/
import Derived.Test.YtkhcmgnempjjcaaChecked
import Derived.WalkKit
import Derived.WalkSmall
import Derived.BigQuiet
import Derived.Deep.QuietTactic
import Derived.Lib.Hide
namespace Go.Proofs.Ytkhcmgnempjjcaa
open Go.RowKit
theorem ret_int {k : IntKind} {a b : Int} (h : a = b) : Ending.returned (.int k a) = .returned (.int k b) := by rw [h]

theorem fault_nil (w : World) : Calls Try.prog 20 #[.pointer none] w fun e w' => e = .returned (.agg #[.int .i64 8, .int .i64 0]) ∧ Below w.heap.size w w' := by
  go_enter Try.func20, Try.ntmps20
  go_wp2
  exact bodyPost_ret (v := .agg #[.int .i64 8, .int .i64 0]) (by simp [results, Try.results20, go_sem]) rfl ⟨rfl, (Below.refl _ _).alloc (Nat.le_refl _) _⟩
theorem bad_any (n at' : Int) (w : World) : Calls Try.prog 21 #[.agg #[.int .i64 n, .int .i64 at']] w fun e w' => e = .returned (.bool (n != 0)) ∧ Below w.heap.size w w' := by
  go_enter Try.func21, Try.ntmps21
  go_wp2
  go_ret
  exact ⟨rfl, (Below.refl _ _).alloc (Nat.le_refl _) _⟩
theorem fault_some (w : World) (b : Nat) (e at' : Int) (hb : b < w.heap.size) (h3 : w.cell? ⟨b, 3, none⟩ = some (.int .i64 e)) (h4 : w.cell? ⟨b, 4, none⟩ = some (.int .i64 at')) : Calls Try.prog 20 #[.pointer (some ⟨b, 0, none⟩)] w fun e' w' => e' = .returned (.agg #[.int .i64 e, .int .i64 at']) ∧ Below w.heap.size w w' := by
  go_enter Try.func20, Try.ntmps20
  go_wp2
  exact bodyPost_ret (v := .agg #[.int .i64 e, .int .i64 at']) (by simp [results, Try.results20, go_sem]) rfl ⟨rfl, (Below.refl _ _).alloc (Nat.le_refl _) _⟩

theorem stopped_nil (w : World) : Calls Try.prog 38 #[.pointer none] w fun e w' => e = .returned (.bool true) ∧ Below w.heap.size w w' := by
  go_enter Try.func38, Try.ntmps38
  go_wp2_with (first | (go_at_call 20; refine (fault_nil _).mono ?_; rintro e1 w1 ⟨rfl, hb1⟩) | (go_at_call 21; refine (bad_any _ _ _).mono ?_; rintro e2 w2 ⟨rfl, hb2⟩))
  go_ret
  exact ⟨rfl, hb1.trans (hb2.mono hb1.size)⟩
theorem stopped_some (w : World) (b : Nat) (e at' : Int) (hb : b < w.heap.size) (h3 : w.cell? ⟨b, 3, none⟩ = some (.int .i64 e)) (h4 : w.cell? ⟨b, 4, none⟩ = some (.int .i64 at')) : Calls Try.prog 38 #[.pointer (some ⟨b, 0, none⟩)] w fun e' w' => e' = .returned (.bool (e != 0)) ∧ Below w.heap.size w w' := by
  go_enter Try.func38, Try.ntmps38
  go_wp2_with (first | (go_at_call 20; refine (fault_some _ _ _ _ hb h3 h4).mono ?_; rintro e1 w1 ⟨rfl, hb1⟩) | (go_at_call 21; refine (bad_any _ _ _).mono ?_; rintro e2 w2 ⟨rfl, hb2⟩))
  go_ret
  exact ⟨rfl, hb1.trans (hb2.mono hb1.size)⟩

theorem left_nil (w : World) : Calls Try.prog 19 #[.pointer none] w fun e w' => e = .returned (.int .i64 0) ∧ Below w.heap.size w w' := by
  go_enter Try.func19, Try.ntmps19
  go_wp2_with (go_at_call 38; refine (stopped_nil _).mono ?_; rintro e1 w1 ⟨rfl, hb1⟩)
  go_ret
  exact ⟨rfl, hb1⟩
theorem at_nil (w : World) : Calls Try.prog 28 #[.pointer none] w fun e w' => e = .returned (.int .i64 0) ∧ Below w.heap.size w w' := by
  go_enter Try.func28, Try.ntmps28
  go_wp2
  go_ret
  exact ⟨rfl, Below.refl _ _⟩
theorem take_nil (n : Int) (w : World) : Calls Try.prog 32 #[.pointer none, .int .i64 n] w fun e w' => e = .returned (.string ⟨#[]⟩) ∧ Below w.heap.size w w' := by
  go_enter Try.func32, Try.ntmps32
  go_wp2_with (go_at_call 38; refine (stopped_nil _).mono ?_; rintro e1 w1 ⟨rfl, hb1⟩)
  go_ret
  exact ⟨rfl, hb1⟩
theorem peek_nil (n : Int) (w : World) : Calls Try.prog 34 #[.pointer none, .int .i64 n] w fun e w' => e = .returned (.string ⟨#[]⟩) ∧ Below w.heap.size w w' := by
  go_enter Try.func34, Try.ntmps34
  go_wp2_with (go_at_call 38; refine (stopped_nil _).mono ?_; rintro e1 w1 ⟨rfl, hb1⟩)
  go_ret
  exact ⟨rfl, hb1⟩
theorem until_nil (s : ByteArray) (w : World) : Calls Try.prog 35 #[.pointer none, .string s] w fun e w' => e = .returned (.string ⟨#[]⟩) ∧ Below w.heap.size w w' := by
  go_enter Try.func35, Try.ntmps35
  go_wp2_with (go_at_call 38; refine (stopped_nil _).mono ?_; rintro e1 w1 ⟨rfl, hb1⟩)
  go_ret
  exact ⟨rfl, hb1⟩
theorem want_nil (s : ByteArray) (w : World) : Calls Try.prog 30 #[.pointer none, .string s] w fun e w' => e = .returned (.bool false) ∧ Below w.heap.size w w' := by
  go_enter Try.func30, Try.ntmps30
  go_wp2_with (go_at_call 38; refine (stopped_nil _).mono ?_; rintro e1 w1 ⟨rfl, hb1⟩)
  go_ret
  exact ⟨rfl, hb1⟩
theorem rest_nil (w : World) : Calls Try.prog 33 #[.pointer none] w fun e w' => e = .returned (.string ⟨#[]⟩) ∧ Below w.heap.size w w' := by
  go_enter Try.func33, Try.ntmps33
  go_wp2_with (first | (go_at_call 19; refine (left_nil _).mono ?_; rintro e1 w1 ⟨rfl, hb1⟩) | (go_at_call 32; refine (take_nil _ _).mono ?_; rintro e2 w2 ⟨rfl, hb2⟩))
  go_ret
  exact ⟨rfl, hb1.trans (hb2.mono hb1.size)⟩
theorem fail_nil (e n : Int) (w : World) : Calls Try.prog 31 #[.pointer none, .int .i64 e, .int .i64 n] w fun e w' => e = .returned (.tuple #[]) ∧ Below w.heap.size w w' := by
  go_enter Try.func31, Try.ntmps31
  go_wp2_with (go_at_call 38; refine (stopped_nil _).mono ?_; rintro e1 w1 ⟨rfl, hb1⟩)
  exact bodyPost_ret (v := .tuple #[]) (by simp [results, Try.results31, go_sem]) rfl ⟨rfl, hb1⟩
theorem bounded_any (n : Int) (w : World) (h0 : -9223372036854775808 ≤ n) (h1 : n ≤ 9223372036854775807) : Calls Try.prog 36 #[.int .i64 n] w fun e w' => e = .returned (.int .i64 (min (max n 0) 8)) ∧ w = w' := by
  go_enter Try.func36, Try.ntmps36
  go_wp2
  all_goals
    go_ret
    exact ⟨ret_int (by omega), rfl⟩
end Go.Proofs.Ytkhcmgnempjjcaa
