/- Several texts in one. -/
import Derived.Test.YthnadkokibcehaaGreatDoorChecked
import Derived.Test.YthnadkokibcehaaGreatDoorZ0
import Derived.WalkSmall
import Derived.Lib.Hide
namespace Go.Proofs.YthnadkokibcehaaGreatDoor.wa
open Go.RowKit Go.Lib
set_option linter.unusedVariables false
theorem wrap64 {x : Int} (h0 : -9223372036854775808 ≤ x) (h1 : x ≤ 9223372036854775807) : IntKind.i64.wrap x = x := by simp [IntKind.wrap, IntKind.bits, IntKind.signed]; omega
theorem wrap32 {x : Int} (h0 : -2147483648 ≤ x) (h1 : x ≤ 2147483647) : IntKind.i32.wrap x = x := by simp [IntKind.wrap, IntKind.bits, IntKind.signed]; omega
theorem rInt {k : IntKind} {a b : Int} (h : a = b) : Ending.returned (.int k a) = .returned (.int k b) := by rw [h]
theorem index_at (t : TypeId) (s : ByteArray) (i : Nat) (hi : i < s.size) (w : World) (h : Tryz.prog.underlying t = some .string) : (Instr.index t (.string s) (.int .i64 (i : Int))).run Tryz.prog w = .ok (.int .u8 ((s[i]).toNat : Int)) w := by
  rw [run_index_string w t s .i64 i h]
  simp [hi]
end Go.Proofs.YthnadkokibcehaaGreatDoor.wa
namespace Go.Proofs.YthnadkokibcehaaGreatDoor.wa
open Go.RowKit Go.Lib
set_option linter.unusedVariables false
theorem wrapU8 {x : Int} (h0 : 0 ≤ x) (h1 : x < 256) : IntKind.u8.wrap x = x := by simp [IntKind.wrap, IntKind.bits, IntKind.signed]; omega
theorem below_yes (n c : Int) (w : World) (h0 : 0 ≤ n) (h1 : n < c) : Calls Tryz.prog 102 #[.int .i64 n, .int .i64 c] w fun e w' => e = .returned (.bool true) ∧ w = w' := by
  go_enter Tryz.func102, Tryz.ntmps102
  go_wp2
  go_ret
  exact ⟨rfl, rfl⟩
theorem below_no (n c : Int) (w : World) (h : n < 0 ∨ c ≤ n) : Calls Tryz.prog 102 #[.int .i64 n, .int .i64 c] w fun e w' => e = .returned (.bool false) ∧ w = w' := by
  by_cases h0 : 0 ≤ n
  · have h1 : ¬ n < c := by omega
    go_enter Tryz.func102, Tryz.ntmps102
    go_wp2
    go_ret
    exact ⟨rfl, rfl⟩
  · go_enter Tryz.func102, Tryz.ntmps102
    go_wp2
    go_ret
    exact ⟨rfl, rfl⟩
theorem ahead_any (p i : Int) (w : World) (h0 : 44032 ≤ p) (h1 : p ≤ 55203) (h2 : 0 ≤ i) (h3 : i ≤ 2350) : Calls Tryz.prog 140 #[.int .i32 p, .int .i64 i] w fun e w' => e = .returned (.int .i64 (p - 44032 - i)) ∧ w = w' := by
  have e1 : IntKind.i32.wrap (p - 44032) = p - 44032 := wrap32 (by omega) (by omega)
  have e2 : IntKind.i64.wrap (p - 44032) = p - 44032 := wrap64 (by omega) (by omega)
  have e3 : IntKind.i64.wrap (p - 44032 - i) = p - 44032 - i := wrap64 (by omega) (by omega)
  go_enter Tryz.func140, Tryz.ntmps140
  go_wp2
  go_ret
  exact ⟨rfl, rfl⟩
/-- What secondNumber answers. -/
def snV (b : Nat) : Value := match sec b with
  | some t => .tuple #[.int .i64 (t : Int), .bool true]
  | none => .tuple #[.int .i64 0, .bool false]
set_option maxRecDepth 100000 in
theorem secnum_any (b : Nat) (w : World) (hb : b < 256) : Calls Tryz.prog 100 #[.int .u8 b] w fun e w' => e = .returned (snV b) ∧ w = w' := by
  have g0 : (0 : Int) ≤ (b : Int) := by omega
  have g1 : (b : Int) < 256 := by omega
  unfold snV sec
  by_cases h1 : 65 ≤ b ∧ b ≤ 90
  · have k0 : (65 : Int) ≤ (b : Int) := by omega
    have k1 : (b : Int) ≤ 90 := by omega
    have e1 : IntKind.u8.wrap ((b : Int) - 65) = (b : Int) - 65 := wrapU8 (by omega) (by omega)
    have e2 : IntKind.i64.wrap ((b : Int) - 65) = (b : Int) - 65 := wrap64 (by omega) (by omega)
    have e3 : Hid (((b - 65 : Nat) : Int) = (b : Int) - 65) := Lib.hid (by omega)
    rw [if_pos h1]
    clear h1
    go_enter Tryz.func100, Tryz.ntmps100
    go_wp2
    go_ret2
    exact ⟨by rw [e3.out]; rfl, rfl⟩
  · rw [if_neg h1]
    by_cases h2 : 97 ≤ b ∧ b ≤ 122
    · have k0 : (97 : Int) ≤ (b : Int) := by omega
      have k1 : (b : Int) ≤ 122 := by omega
      have e1 : IntKind.u8.wrap ((b : Int) - 97) = (b : Int) - 97 := wrapU8 (by omega) (by omega)
      have e2 : IntKind.i64.wrap ((b : Int) - 97) = (b : Int) - 97 := wrap64 (by omega) (by omega)
      have e4 : IntKind.i64.wrap (26 + ((b : Int) - 97)) = 26 + ((b : Int) - 97) := wrap64 (by omega) (by omega)
      have e3 : Hid (((b - 97 + 26 : Nat) : Int) = 26 + ((b : Int) - 97)) := Lib.hid (by omega)
      rw [if_pos h2]
      clear h1 h2
      go_enter Tryz.func100, Tryz.ntmps100
      go_wp2
      go_ret2
      exact ⟨by rw [e3.out]; rfl, rfl⟩
    · rw [if_neg h2]
      by_cases h3 : 129 ≤ b ∧ b ≤ 254
      · have k0 : (129 : Int) ≤ (b : Int) := by omega
        have k1 : (b : Int) ≤ 254 := by omega
        have e1 : IntKind.u8.wrap ((b : Int) - 129) = (b : Int) - 129 := wrapU8 (by omega) (by omega)
        have e2 : IntKind.i64.wrap ((b : Int) - 129) = (b : Int) - 129 := wrap64 (by omega) (by omega)
        have e4 : IntKind.i64.wrap (52 + ((b : Int) - 129)) = 52 + ((b : Int) - 129) := wrap64 (by omega) (by omega)
        have e3 : Hid (((b - 129 + 52 : Nat) : Int) = 52 + ((b : Int) - 129)) := Lib.hid (by omega)
        rw [if_pos h3]
        clear h1 h2 h3
        go_enter Tryz.func100, Tryz.ntmps100
        go_wp2
        go_ret2
        exact ⟨by rw [e3.out]; rfl, rfl⟩
      · rw [if_neg h3]
        have hc : (b : Int) < 65 ∨ ((90 : Int) < b ∧ (b : Int) < 97) ∨ ((122 : Int) < b ∧ (b : Int) < 129) ∨ (254 : Int) < b := by omega
        clear h1 h2 h3
        rcases hc with h | ⟨h, h'⟩ | ⟨h, h'⟩ | h
        all_goals
          go_enter Tryz.func100, Tryz.ntmps100
          go_wp2
          go_ret2
          exact ⟨rfl, rfl⟩
theorem secB_I (t : Nat) (w : World) (h : t < 178) : Calls Tryz.prog 144 #[.int .i64 t] w fun e w' => e = .returned (.int .i64 ((secB t : Nat) : Int)) ∧ w = w' := by
  have g0 : (0 : Int) ≤ (t : Int) := by omega
  by_cases h1 : t < 26
  · have k : (t : Int) < 26 := by omega
    have e3 : Hid (((secB t : Nat) : Int) = 65 + (t : Int)) := Lib.hid (by unfold secB; rw [if_pos h1]; omega)
    go_enter Tryz.func144, Tryz.ntmps144
    go_wp2
    go_ret
    exact ⟨rInt e3.out.symm, rfl⟩
  · have k : ¬ (t : Int) < 26 := by omega
    by_cases h2 : t < 52
    · have k2 : (t : Int) < 52 := by omega
      have e3 : Hid (((secB t : Nat) : Int) = 97 + (t : Int) - 26)   := Lib.hid (by unfold secB; rw [if_neg h1, if_pos h2]; omega)
      go_enter Tryz.func144, Tryz.ntmps144
      go_wp2
      go_ret
      exact ⟨rInt e3.out.symm, rfl⟩
    · have k2 : ¬ (t : Int) < 52 := by omega
      have k3 : (t : Int) < 178 := by omega
      have e3 : Hid (((secB t : Nat) : Int) = 129 + (t : Int) - 52)   := Lib.hid (by unfold secB; rw [if_neg h1, if_neg h2]; omega)
      go_enter Tryz.func144, Tryz.ntmps144
      go_wp2
      go_ret
      exact ⟨rInt e3.out.symm, rfl⟩
end Go.Proofs.YthnadkokibcehaaGreatDoor.wa
namespace Go.Proofs.YthnadkokibcehaaGreatDoor.jo
open Go.RowKit Go.Lib
set_option linter.unusedVariables false
theorem wrap64 {x : Int} (h0 : -9223372036854775808 ≤ x) (h1 : x ≤ 9223372036854775807) : IntKind.i64.wrap x = x := by simp [IntKind.wrap, IntKind.bits, IntKind.signed]; omega
theorem wrap32 {x : Int} (h0 : -2147483648 ≤ x) (h1 : x ≤ 2147483647) : IntKind.i32.wrap x = x := by simp [IntKind.wrap, IntKind.bits, IntKind.signed]; omega
theorem rInt {k : IntKind} {a b : Int} (h : a = b) : Ending.returned (.int k a) = .returned (.int k b) := by rw [h]
end Go.Proofs.YthnadkokibcehaaGreatDoor.jo
namespace Go.Proofs.YthnadkokibcehaaGreatDoor.jo
open Go.RowKit Go.Lib
set_option linter.unusedVariables false
theorem med_cases (c : Nat) (h : c < 32) : med c = 98 ∨ med c = 99 ∨ med c ≤ 20 := by
  have : ∀ c < 32, med c = 98 ∨ med c = 99 ∨ med c ≤ 20 := by decide
  exact this c h
theorem fin_cases (c : Nat) (h : c < 32) : fin c = 98 ∨ fin c ≤ 27 := by
  have : ∀ c < 32, fin c = 98 ∨ fin c ≤ 27 := by decide
  exact this c h
/-- The sign of sixteen bits; 0: there is none. -/
def sg (c : Nat) : Nat := if c < 32768 then 0 else sgn c
/-- The document's Sign, told by the three codes. -/
def sgP (I m f : Nat) : Nat := if I = 0 ∨ 20 < I ∨ m = 98 ∨ f = 98 then 0
    else if 2 ≤ I ∧ m < 98 then 44032 + ((I - 2) * 21 + m) * 28 + f
    else if I = 1 ∧ m < 98 ∧ f = 0 then 12623 + m
    else if 2 ≤ I ∧ m = 99 ∧ f = 0 then alo (I - 2)
    else if I = 1 ∧ m = 99 ∧ 0 < f then alo (100 + f)
    else 0
theorem sgn_is (c : Nat) : sgn c = sgP (c / 1024 % 32) (med (c / 32 % 32)) (fin (c % 32)) := rfl
/-- A number: -1: none; -2: it isn't there. -/
def nI (m : Nat) : Int := if m = 98 then -2 else if m = 99 then -1 else m
theorem nI_le {m : Nat} (h : m ≤ 27) : nI m = m := by unfold nI; rw [if_neg (by omega), if_neg (by omega)]
end Go.Proofs.YthnadkokibcehaaGreatDoor.jo
namespace Go.Proofs.YthnadkokibcehaaGreatDoor.jo
open Go.RowKit Go.Lib
set_option linter.unusedVariables false
theorem medC_le (m : Nat) (h : m ≤ 20) : medC m ≤ 29 ∧ 3 ≤ medC m := by
  unfold medC; (repeat' split) <;> omega
theorem finC_le (f : Nat) (h : f ≤ 27) : finC f ≤ 29 ∧ 1 ≤ finC f := by
  unfold finC; split <;> omega
theorem aloL_has : ∀ k < 30, aloL.getD k 0 ≤ 18 ∨ (103 ≤ aloL.getD k 0 ∧ aloL.getD k 0 ≤ 118) := by decide
theorem code_le {p : Nat} (h : hasJ p) : 32768 ≤ code p ∧ code p < 65536 := by
  unfold hasJ at h
  unfold code
  by_cases h0 : 44032 ≤ p ∧ p ≤ 55203
  · rw [if_pos h0]
    have h1 := medC_le ((p - 44032) / 28 % 21) (by omega)
    have h2 := finC_le ((p - 44032) % 28) (by omega)
    omega
  · rw [if_neg h0]
    by_cases h3 : 12623 ≤ p ∧ p ≤ 12643
    · rw [if_pos h3]
      have h1 := medC_le (p - 12623) (by omega)
      omega
    · rw [if_neg h3, if_pos (by omega)]
      have h4 := aloL_has (p - 12593) (by omega)
      split
      · omega
      · have h2 := finC_le (aloL.getD (p - 12593) 0 - 100) (by omega)
        omega
end Go.Proofs.YthnadkokibcehaaGreatDoor.jo
