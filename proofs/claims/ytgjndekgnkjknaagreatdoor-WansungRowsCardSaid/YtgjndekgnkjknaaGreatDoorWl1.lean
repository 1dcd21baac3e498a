/- The landed wansung: the small calls (repeat (first | (with_reducible exact Below.refl _ _) | (with_reducible refine Below.setCell ?_ (by simp) _) | (with_reducible refine Below.alloc ?_ (by simp) _)), extrasAhead, second bytes, places, codes): contracts. -/
import Derived.Test.YtgjndekgnkjknaaGreatDoorChecked
import Derived.Test.YtgjndekgnkjknaaGreatDoorWa1
import Derived.Test.YtgjndekgnkjknaaGreatDoorWl0
import Derived.WalkSmall
import Derived.Lib.Hide
namespace Go.Proofs.YtgjndekgnkjknaaGreatDoor.wa
open Go.RowKit Go.Lib
set_option linter.unusedVariables false
theorem wrapU8 {x : Int} (h0 : 0 ≤ x) (h1 : x < 256) : IntKind.u8.wrap x = x := by simp [IntKind.wrap, IntKind.bits, IntKind.signed]; omega
theorem below_yes (n c : Int) (w : World) (h0 : 0 ≤ n) (h1 : n < c) : Calls Tryz.prog 66 #[.int .i64 n, .int .i64 c] w fun e w' => e = .returned (.bool true) ∧ w = w' := by
  go_enter Tryz.func66, Tryz.ntmps66
  go_wp2
  go_ret
  exact ⟨rfl, rfl⟩
theorem below_no (n c : Int) (w : World) (h : n < 0 ∨ c ≤ n) : Calls Tryz.prog 66 #[.int .i64 n, .int .i64 c] w fun e w' => e = .returned (.bool false) ∧ w = w' := by
  by_cases h0 : 0 ≤ n
  · have h1 : ¬ n < c := by omega
    go_enter Tryz.func66, Tryz.ntmps66
    go_wp2
    go_ret
    exact ⟨rfl, rfl⟩
  · go_enter Tryz.func66, Tryz.ntmps66
    go_wp2
    go_ret
    exact ⟨rfl, rfl⟩
theorem ahead_any (p i : Int) (w : World) (h0 : 44032 ≤ p) (h1 : p ≤ 55203) (h2 : 0 ≤ i) (h3 : i ≤ 2350) : Calls Tryz.prog 82 #[.int .i32 p, .int .i64 i] w fun e w' => e = .returned (.int .i64 (p - 44032 - i)) ∧ w = w' := by
  have e1 : IntKind.i32.wrap (p - 44032) = p - 44032 := wrap32 (by omega) (by omega)
  have e2 : IntKind.i64.wrap (p - 44032) = p - 44032 := wrap64 (by omega) (by omega)
  have e3 : IntKind.i64.wrap (p - 44032 - i) = p - 44032 - i := wrap64 (by omega) (by omega)
  go_enter Tryz.func82, Tryz.ntmps82
  go_wp2
  go_ret
  exact ⟨rfl, rfl⟩
/-- What secondNumber answers. -/
def snV (b : Nat) : Value := match sec b with
  | some t => .tuple #[.int .i64 (t : Int), .bool true]
  | none => .tuple #[.int .i64 0, .bool false]
set_option maxRecDepth 100000 in
theorem secnum_any (b : Nat) (w : World) (hb : b < 256) : Calls Tryz.prog 64 #[.int .u8 b] w fun e w' => e = .returned (snV b) ∧ w = w' := by
  have g0 : (0 : Int) ≤ (b : Int) := by omega
  have g1 : (b : Int) < 256 := by omega
  unfold snV sec
  by_cases h1 : 65 ≤ b ∧ b ≤ 90
  · have k0 : (65 : Int) ≤ (b : Int) := by omega
    have k1 : (b : Int) ≤ 90 := by omega
    have e1 : IntKind.u8.wrap ((b : Int) - 65) = (b : Int) - 65 := wrapU8 (by omega) (by omega)
    have e2 : IntKind.i64.wrap ((b : Int) - 65) = (b : Int) - 65 := wrap64 (by omega) (by omega)
    have e3 : Hid (((b - 65 : Nat) : Int) = (b : Int) - 65) := Lib.hid (by omega)
    rw [if_pos h1]
    clear h1
    go_enter Tryz.func64, Tryz.ntmps64
    go_wp2
    go_ret2
    exact ⟨by rw [e3.out]; rfl, rfl⟩
  · rw [if_neg h1]
    by_cases h2 : 97 ≤ b ∧ b ≤ 122
    · have k0 : (97 : Int) ≤ (b : Int) := by omega
      have k1 : (b : Int) ≤ 122 := by omega
      have e1 : IntKind.u8.wrap ((b : Int) - 97) = (b : Int) - 97 := wrapU8 (by omega) (by omega)
      have e2 : IntKind.i64.wrap ((b : Int) - 97) = (b : Int) - 97 := wrap64 (by omega) (by omega)
      have e4 : IntKind.i64.wrap (26 + ((b : Int) - 97)) = 26 + ((b : Int) - 97) := wrap64 (by omega) (by omega)
      have e3 : Hid (((b - 97 + 26 : Nat) : Int) = 26 + ((b : Int) - 97)) := Lib.hid (by omega)
      rw [if_pos h2]
      clear h1 h2
      go_enter Tryz.func64, Tryz.ntmps64
      go_wp2
      go_ret2
      exact ⟨by rw [e3.out]; rfl, rfl⟩
    · rw [if_neg h2]
      by_cases h3 : 129 ≤ b ∧ b ≤ 254
      · have k0 : (129 : Int) ≤ (b : Int) := by omega
        have k1 : (b : Int) ≤ 254 := by omega
        have e1 : IntKind.u8.wrap ((b : Int) - 129) = (b : Int) - 129 := wrapU8 (by omega) (by omega)
        have e2 : IntKind.i64.wrap ((b : Int) - 129) = (b : Int) - 129 := wrap64 (by omega) (by omega)
        have e4 : IntKind.i64.wrap (52 + ((b : Int) - 129)) = 52 + ((b : Int) - 129) := wrap64 (by omega) (by omega)
        have e3 : Hid (((b - 129 + 52 : Nat) : Int) = 52 + ((b : Int) - 129)) := Lib.hid (by omega)
        rw [if_pos h3]
        clear h1 h2 h3
        go_enter Tryz.func64, Tryz.ntmps64
        go_wp2
        go_ret2
        exact ⟨by rw [e3.out]; rfl, rfl⟩
      · rw [if_neg h3]
        have hc : (b : Int) < 65 ∨ ((90 : Int) < b ∧ (b : Int) < 97) ∨ ((122 : Int) < b ∧ (b : Int) < 129) ∨ (254 : Int) < b := by omega
        clear h1 h2 h3
        rcases hc with h | ⟨h, h'⟩ | ⟨h, h'⟩ | h
        all_goals
          go_enter Tryz.func64, Tryz.ntmps64
          go_wp2
          go_ret2
          exact ⟨rfl, rfl⟩
theorem secB_I (t : Nat) (w : World) (h : t < 178) : Calls Tryz.prog 89 #[.int .i64 t] w fun e w' => e = .returned (.int .i64 ((secB t : Nat) : Int)) ∧ w = w' := by
  have g0 : (0 : Int) ≤ (t : Int) := by omega
  by_cases h1 : t < 26
  · have k : (t : Int) < 26 := by omega
    have e3 : Hid (((secB t : Nat) : Int) = 65 + (t : Int)) := Lib.hid (by unfold secB; rw [if_pos h1]; omega)
    go_enter Tryz.func89, Tryz.ntmps89
    go_wp2
    go_ret
    exact ⟨rInt e3.out.symm, rfl⟩
  · have k : ¬ (t : Int) < 26 := by omega
    by_cases h2 : t < 52
    · have k2 : (t : Int) < 52 := by omega
      have e3 : Hid (((secB t : Nat) : Int) = 97 + (t : Int) - 26)   := Lib.hid (by unfold secB; rw [if_neg h1, if_pos h2]; omega)
      go_enter Tryz.func89, Tryz.ntmps89
      go_wp2
      go_ret
      exact ⟨rInt e3.out.symm, rfl⟩
    · have k2 : ¬ (t : Int) < 52 := by omega
      have k3 : (t : Int) < 178 := by omega
      have e3 : Hid (((secB t : Nat) : Int) = 129 + (t : Int) - 52)   := Lib.hid (by unfold secB; rw [if_neg h1, if_neg h2]; omega)
      go_enter Tryz.func89, Tryz.ntmps89
      go_wp2
      go_ret
      exact ⟨rInt e3.out.symm, rfl⟩
end Go.Proofs.YtgjndekgnkjknaaGreatDoor.wa
