/- The reader of layer 1 where it is none (nil), and the small calls that every reader goes through: contracts. -/
import Derived.Test.YtmogjimiiadmmaaDoorChecked
import Derived.WalkKit
import Derived.WalkSmall
import Derived.BigQuiet
import Derived.Deep.QuietTactic
import Derived.Lib.Hide
namespace Go.Proofs.YtmogjimiiadmmaaDoor.oct
open Go.RowKit
theorem ret_int {k : IntKind} {a b : Int} (h : a = b) : Ending.returned (.int k a) = .returned (.int k b) := by rw [h]

theorem fault_nil (w : World) : Calls Tryd.prog 65 #[.pointer none] w fun e w' => e = .returned (.agg #[.int .i64 8, .int .i64 0]) ∧ Below w.heap.size w w' := by
  go_enter Tryd.func65, Tryd.ntmps65
  go_wp2
  exact bodyPost_ret (v := .agg #[.int .i64 8, .int .i64 0]) (by simp [results, Tryd.results65, go_sem]) rfl ⟨rfl, (Below.refl _ _).alloc (Nat.le_refl _) _⟩
theorem bad_any (n at' : Int) (w : World) : Calls Tryd.prog 15 #[.agg #[.int .i64 n, .int .i64 at']] w fun e w' => e = .returned (.bool (n != 0)) ∧ Below w.heap.size w w' := by
  go_enter Tryd.func15, Tryd.ntmps15
  go_wp2
  go_ret
  exact ⟨rfl, (Below.refl _ _).alloc (Nat.le_refl _) _⟩
theorem fault_some (w : World) (b : Nat) (e at' : Int) (hb : b < w.heap.size) (h3 : w.cell? ⟨b, 3, none⟩ = some (.int .i64 e)) (h4 : w.cell? ⟨b, 4, none⟩ = some (.int .i64 at')) : Calls Tryd.prog 65 #[.pointer (some ⟨b, 0, none⟩)] w fun e' w' => e' = .returned (.agg #[.int .i64 e, .int .i64 at']) ∧ Below w.heap.size w w' := by
  go_enter Tryd.func65, Tryd.ntmps65
  go_wp2
  exact bodyPost_ret (v := .agg #[.int .i64 e, .int .i64 at']) (by simp [results, Tryd.results65, go_sem]) rfl ⟨rfl, (Below.refl _ _).alloc (Nat.le_refl _) _⟩

theorem stopped_nil (w : World) : Calls Tryd.prog 61 #[.pointer none] w fun e w' => e = .returned (.bool true) ∧ Below w.heap.size w w' := by
  go_enter Tryd.func61, Tryd.ntmps61
  go_wp2_with (first | (go_at_call 65; refine (fault_nil _).mono ?_; rintro e1 w1 ⟨rfl, hb1⟩) | (go_at_call 15; refine (bad_any _ _ _).mono ?_; rintro e2 w2 ⟨rfl, hb2⟩))
  go_ret
  exact ⟨rfl, hb1.trans (hb2.mono hb1.size)⟩
theorem stopped_some (w : World) (b : Nat) (e at' : Int) (hb : b < w.heap.size) (h3 : w.cell? ⟨b, 3, none⟩ = some (.int .i64 e)) (h4 : w.cell? ⟨b, 4, none⟩ = some (.int .i64 at')) : Calls Tryd.prog 61 #[.pointer (some ⟨b, 0, none⟩)] w fun e' w' => e' = .returned (.bool (e != 0)) ∧ Below w.heap.size w w' := by
  go_enter Tryd.func61, Tryd.ntmps61
  go_wp2_with (first | (go_at_call 65; refine (fault_some _ _ _ _ hb h3 h4).mono ?_; rintro e1 w1 ⟨rfl, hb1⟩) | (go_at_call 15; refine (bad_any _ _ _).mono ?_; rintro e2 w2 ⟨rfl, hb2⟩))
  go_ret
  exact ⟨rfl, hb1.trans (hb2.mono hb1.size)⟩

theorem left_nil (w : World) : Calls Tryd.prog 52 #[.pointer none] w fun e w' => e = .returned (.int .i64 0) ∧ Below w.heap.size w w' := by
  go_enter Tryd.func52, Tryd.ntmps52
  go_wp2_with (go_at_call 61; refine (stopped_nil _).mono ?_; rintro e1 w1 ⟨rfl, hb1⟩)
  go_ret
  exact ⟨rfl, hb1⟩
theorem at_nil (w : World) : Calls Tryd.prog 53 #[.pointer none] w fun e w' => e = .returned (.int .i64 0) ∧ Below w.heap.size w w' := by
  go_enter Tryd.func53, Tryd.ntmps53
  go_wp2
  go_ret
  exact ⟨rfl, Below.refl _ _⟩
theorem take_nil (n : Int) (w : World) : Calls Tryd.prog 76 #[.pointer none, .int .i64 n] w fun e w' => e = .returned (.string ⟨#[]⟩) ∧ Below w.heap.size w w' := by
  go_enter Tryd.func76, Tryd.ntmps76
  go_wp2_with (go_at_call 61; refine (stopped_nil _).mono ?_; rintro e1 w1 ⟨rfl, hb1⟩)
  go_ret
  exact ⟨rfl, hb1⟩
theorem peek_nil (n : Int) (w : World) : Calls Tryd.prog 80 #[.pointer none, .int .i64 n] w fun e w' => e = .returned (.string ⟨#[]⟩) ∧ Below w.heap.size w w' := by
  go_enter Tryd.func80, Tryd.ntmps80
  go_wp2_with (go_at_call 61; refine (stopped_nil _).mono ?_; rintro e1 w1 ⟨rfl, hb1⟩)
  go_ret
  exact ⟨rfl, hb1⟩
theorem fail_nil (e n : Int) (w : World) : Calls Tryd.prog 81 #[.pointer none, .int .i64 e, .int .i64 n] w fun e w' => e = .returned (.tuple #[]) ∧ Below w.heap.size w w' := by
  go_enter Tryd.func81, Tryd.ntmps81
  go_wp2_with (go_at_call 61; refine (stopped_nil _).mono ?_; rintro e1 w1 ⟨rfl, hb1⟩)
  exact bodyPost_ret (v := .tuple #[]) (by simp [results, Tryd.results81, go_sem]) rfl ⟨rfl, hb1⟩
theorem bounded_any (n : Int) (w : World) (h0 : -9223372036854775808 ≤ n) (h1 : n ≤ 9223372036854775807) : Calls Tryd.prog 73 #[.int .i64 n] w fun e w' => e = .returned (.int .i64 (min (max n 0) 8)) ∧ w = w' := by
  go_enter Tryd.func73, Tryd.ntmps73
  go_wp2
  all_goals
    go_ret
    exact ⟨ret_int (by omega), rfl⟩
end Go.Proofs.YtmogjimiiadmmaaDoor.oct
