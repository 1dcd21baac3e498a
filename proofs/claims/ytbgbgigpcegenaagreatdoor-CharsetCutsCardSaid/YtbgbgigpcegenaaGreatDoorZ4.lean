/- Several texts in one. -/
import Derived.Test.YtbgbgigpcegenaaGreatDoorZ2
import Derived.Test.YtbgbgigpcegenaaGreatDoorZ3
import Derived.WalkKit
import Derived.Lib.RuneBytes
import Derived.Test.YtbgbgigpcegenaaGreatDoorChecked
import Derived.WalkSmall
import Derived.BigQuiet
import Derived.Deep.QuietTactic
import Derived.Lib.Hide
import Derived.Laws.MakeOwn
import Derived.OwnWalk
import Derived.Deep.LoopGhost
namespace Go.Proofs.YtbgbgigpcegenaaGreatDoor.wa
open Go.RowKit Go.Lib
set_option linter.unusedVariables false
def SpC (b f l : Int) (p S : Int) : Prop := ∀ w2, Calls Tryz.prog 121 #[.int .i64 b, .int .i64 f, .int .i64 l, .int .i32 p] w2 fun e w' => e = .returned (.int .i32 S) ∧ w2 = w'
theorem spn_le (b f l p : Nat) (hb : b < 256) : spn b f l p ≤ p + 256 := by unfold spn; split <;> omega
theorem spC {b : Nat} (f l p : Nat) (hb : b < 256) (hf : f < 256) (hp : p < 65536) : ∃ S : Int, S = ((spn b f l p : Nat) : Int) ∧ 0 ≤ S ∧ S ≤ 70000 ∧ SpC b f l p S :=
  ⟨_, rfl, by omega, by have := spn_le b f l p hb; omega, fun w2 => span_any b f l p w2 hb hf hp⟩
def RowPost (w : World) (l b : Nat) : Ending → World → Prop := fun e w' => e = .returned (.int .i32 ((row l b : Nat) : Int)) ∧ Below w.heap.size w w'
theorem rowPost {w w' : World} {l b : Nat} {v : Int} (h : ((row l b : Nat) : Int) = v) (hb : Below w.heap.size w w') : RowPost w l b (.returned (.int .i32 v)) w' := ⟨by rw [h], hb⟩
set_option maxRecDepth 100000 in
set_option maxHeartbeats 4000000 in
theorem row_161 (b : Nat) (w : World) (h0 : 161 ≤ b) (h1 : b ≤ 254) : Calls Tryz.prog 69 #[.int .i64 161, .int .i64 b] w (RowPost w 161 b) := by
  have hn : b - 161 < 94 := by omega
  have hl : b - 161 < a1L.length := hn
  have HV : Hid (((row 161 b : Nat) : Int) = ((a1L.getD (b - 161) 0 : Nat) : Int)) := Lib.hid (by unfold row; rw [if_pos rfl])
  have HN := Lib.hid (fun s hs hz w2 => sg.nth_any a1L s hs hz (b - 161) hl w2)
  rw [show ((b - 161 : Nat) : Int) = (b : Int) - 161 by omega] at HN
  generalize ((a1L.getD (b - 161) 0 : Nat) : Int) = V at *
  have g0 : (161 : Int) ≤ (b : Int) := by omega
  have g1 : (b : Int) ≤ 254 := by omega
  clear hn hl
  generalize (b : Int) = B at *
  go_enter Tryz.func69, Tryz.ntmps69
  go_wp2_with (go_at_call 61; refine (HN.out _ (by decide +kernel) (by decide +kernel) _).mono ?_; rintro e2 w2 ⟨rfl, hb2⟩)
  go_ret
  exact rowPost HV.out hb2
set_option maxRecDepth 100000 in
set_option maxHeartbeats 4000000 in
theorem row_162 (b : Nat) (w : World) (h0 : 161 ≤ b) (h1 : b ≤ 254) : Calls Tryz.prog 69 #[.int .i64 162, .int .i64 b] w (RowPost w 162 b) := by
  by_cases hn : b - 161 < 71
  · have hl : b - 161 < a2L.length := hn
    have HV : Hid (((row 162 b : Nat) : Int) = ((a2L.getD (b - 161) 0 : Nat) : Int)) := Lib.hid (by unfold row; rw [if_neg (by omega), if_pos rfl, if_pos hn])
    have HN := Lib.hid (fun s hs hz w2 => sg.nth_any a2L s hs hz (b - 161) hl w2)
    rw [show ((b - 161 : Nat) : Int) = (b : Int) - 161 by omega] at HN
    generalize ((a2L.getD (b - 161) 0 : Nat) : Int) = V at *
    have g0 : (161 : Int) ≤ (b : Int) := by omega
    have g1 : (b : Int) ≤ 254 := by omega
    have g2 : (b : Int) - 161 < 71 := by omega
    clear hn hl
    generalize (b : Int) = B at *
    go_enter Tryz.func69, Tryz.ntmps69
    go_wp2_with (go_at_call 61; refine (HN.out _ (by decide +kernel) (by decide +kernel) _).mono ?_; rintro e2 w2 ⟨rfl, hb2⟩)
    go_ret
    exact rowPost HV.out hb2
  · have HV : Hid (((row 162 b : Nat) : Int) = 0) := Lib.hid (by unfold row; rw [if_neg (by omega), if_pos rfl, if_neg hn]; rfl)
    have g2 : ¬ (b : Int) - 161 < 71 := by omega
    have g0 : (161 : Int) ≤ (b : Int) := by omega
    have g1 : (b : Int) ≤ 254 := by omega
    clear hn
    generalize (b : Int) = B at *
    go_enter Tryz.func69, Tryz.ntmps69
    go_wp2_with fail
    go_ret
    exact rowPost HV.out (Below.refl _ _)
set_option maxRecDepth 100000 in
set_option maxHeartbeats 4000000 in
theorem row_166 (b : Nat) (w : World) (h0 : 161 ≤ b) (h1 : b ≤ 254) : Calls Tryz.prog 69 #[.int .i64 166, .int .i64 b] w (RowPost w 166 b) := by
  by_cases hn : b - 161 < 68
  · have hl : b - 161 < a6L.length := hn
    have HV : Hid (((row 166 b : Nat) : Int) = ((a6L.getD (b - 161) 0 : Nat) : Int)) := Lib.hid (by unfold row; rw [if_neg (by omega), if_neg (by omega), if_neg (by omega), if_neg (by omega), if_neg (by omega), if_pos rfl, if_pos hn])
    have HN := Lib.hid (fun s hs hz w2 => sg.nth_any a6L s hs hz (b - 161) hl w2)
    rw [show ((b - 161 : Nat) : Int) = (b : Int) - 161 by omega] at HN
    generalize ((a6L.getD (b - 161) 0 : Nat) : Int) = V at *
    have g0 : (161 : Int) ≤ (b : Int) := by omega
    have g1 : (b : Int) ≤ 254 := by omega
    have g2 : (b : Int) - 161 < 68 := by omega
    clear hn hl
    generalize (b : Int) = B at *
    go_enter Tryz.func69, Tryz.ntmps69
    go_wp2_with (go_at_call 61; refine (HN.out _ (by decide +kernel) (by decide +kernel) _).mono ?_; rintro e2 w2 ⟨rfl, hb2⟩)
    go_ret
    exact rowPost HV.out hb2
  · have HV : Hid (((row 166 b : Nat) : Int) = 0) := Lib.hid (by unfold row; rw [if_neg (by omega), if_neg (by omega), if_neg (by omega), if_neg (by omega), if_neg (by omega), if_pos rfl, if_neg hn]; rfl)
    have g2 : ¬ (b : Int) - 161 < 68 := by omega
    have g0 : (161 : Int) ≤ (b : Int) := by omega
    have g1 : (b : Int) ≤ 254 := by omega
    clear hn
    generalize (b : Int) = B at *
    go_enter Tryz.func69, Tryz.ntmps69
    go_wp2_with fail
    go_ret
    exact rowPost HV.out (Below.refl _ _)
set_option maxRecDepth 100000 in
set_option maxHeartbeats 4000000 in
theorem row_163 (b : Nat) (w : World) (h0 : 161 ≤ b) (h1 : b ≤ 254) : Calls Tryz.prog 69 #[.int .i64 163, .int .i64 b] w (RowPost w 163 b) := by
  by_cases h2 : b = 220
  · subst h2
    go_enter Tryz.func69, Tryz.ntmps69
    go_wp2_with fail
    go_ret
    exact rowPost rfl (Below.refl _ _)
  by_cases h3 : b = 254
  · subst h3
    go_enter Tryz.func69, Tryz.ntmps69
    go_wp2_with fail
    go_ret
    exact rowPost rfl (Below.refl _ _)
  · have HV : Hid (((row 163 b : Nat) : Int) = 65281 + (b : Int) - 161) := Lib.hid (by unfold row; rw [if_neg (by omega), if_neg (by omega), if_pos rfl, if_neg h2, if_neg h3]; omega)
    have e1 : ((b : Int) == 220) = false := beq_eq_false_iff_ne.2 (by omega)
    have e2 : ((b : Int) == 254) = false := beq_eq_false_iff_ne.2 (by omega)
    have g0 : (161 : Int) ≤ (b : Int) := by omega
    have g1 : (b : Int) ≤ 254 := by omega
    clear h2 h3
    generalize (b : Int) = B at *
    have w1 : IntKind.i32.wrap (65281 + B - 161) = 65281 + B - 161 := wrap32 (by omega) (by omega)
    go_enter Tryz.func69, Tryz.ntmps69
    go_wp2_with fail
    go_ret
    exact rowPost HV.out (Below.refl _ _)
set_option maxRecDepth 100000 in
set_option maxHeartbeats 4000000 in
theorem row_164 (b : Nat) (w : World) (h0 : 161 ≤ b) (h1 : b ≤ 254) : Calls Tryz.prog 69 #[.int .i64 164, .int .i64 b] w (RowPost w 164 b) := by
  have HV : Hid (((row 164 b : Nat) : Int) = 12593 + (b : Int) - 161) := Lib.hid (by unfold row; rw [if_neg (by omega), if_neg (by omega), if_neg (by omega), if_pos rfl]; omega)
  have g0 : (161 : Int) ≤ (b : Int) := by omega
  have g1 : (b : Int) ≤ 254 := by omega
  generalize (b : Int) = B at *
  have w1 : IntKind.i32.wrap (12593 + B - 161) = 12593 + B - 161 := wrap32 (by omega) (by omega)
  go_enter Tryz.func69, Tryz.ntmps69
  go_wp2_with fail
  go_ret
  exact rowPost HV.out (Below.refl _ _)
set_option maxRecDepth 100000 in
set_option maxHeartbeats 4000000 in
theorem row_165 (b : Nat) (w : World) (h0 : 161 ≤ b) (h1 : b ≤ 254) : Calls Tryz.prog 69 #[.int .i64 165, .int .i64 b] w (RowPost w 165 b) := by
  have hb : b < 256 := by omega
  obtain ⟨S0, q0, u0, v0, c0⟩ := spC (b := b) 161 170 8560 hb (by omega) (by omega)
  have H0 : Hid (∀ w2, Calls Tryz.prog 121 #[.int .i64 b, .int .i64 161, .int .i64 170, .int .i32 8560] w2 fun e w' => e = .returned (.int .i32 S0) ∧ w2 = w') := Lib.hid c0
  obtain ⟨S1, q1, u1, v1, c1⟩ := spC (b := b) 176 185 8544 hb (by omega) (by omega)
  have H1 : Hid (∀ w2, Calls Tryz.prog 121 #[.int .i64 b, .int .i64 176, .int .i64 185, .int .i32 8544] w2 fun e w' => e = .returned (.int .i32 S1) ∧ w2 = w') := Lib.hid c1
  obtain ⟨S2, q2, u2, v2, c2⟩ := spC (b := b) 193 209 913 hb (by omega) (by omega)
  have H2 : Hid (∀ w2, Calls Tryz.prog 121 #[.int .i64 b, .int .i64 193, .int .i64 209, .int .i32 913] w2 fun e w' => e = .returned (.int .i32 S2) ∧ w2 = w') := Lib.hid c2
  obtain ⟨S3, q3, u3, v3, c3⟩ := spC (b := b) 210 216 931 hb (by omega) (by omega)
  have H3 : Hid (∀ w2, Calls Tryz.prog 121 #[.int .i64 b, .int .i64 210, .int .i64 216, .int .i32 931] w2 fun e w' => e = .returned (.int .i32 S3) ∧ w2 = w') := Lib.hid c3
  obtain ⟨S4, q4, u4, v4, c4⟩ := spC (b := b) 225 241 945 hb (by omega) (by omega)
  have H4 : Hid (∀ w2, Calls Tryz.prog 121 #[.int .i64 b, .int .i64 225, .int .i64 241, .int .i32 945] w2 fun e w' => e = .returned (.int .i32 S4) ∧ w2 = w') := Lib.hid c4
  obtain ⟨S5, q5, u5, v5, c5⟩ := spC (b := b) 242 248 963 hb (by omega) (by omega)
  have H5 : Hid (∀ w2, Calls Tryz.prog 121 #[.int .i64 b, .int .i64 242, .int .i64 248, .int .i32 963] w2 fun e w' => e = .returned (.int .i32 S5) ∧ w2 = w') := Lib.hid c5
  have HV : Hid (((row 165 b : Nat) : Int) = S0 + S1 + S2 + S3 + S4 + S5) := Lib.hid (by unfold row; rw [if_neg (by omega), if_neg (by omega), if_neg (by omega), if_neg (by omega), if_pos rfl]; omega)
  have g0 : (161 : Int) ≤ (b : Int) := by omega
  have g1 : (b : Int) ≤ 254 := by omega
  clear q0 c0 q1 c1 q2 c2 q3 c3 q4 c4 q5 c5
  generalize (b : Int) = B at *
  go_enter Tryz.func69, Tryz.ntmps69
  go_wp2_with (first | (go_at_call 121; (with_reducible refine (H0.out _).mono ?_); rintro e2 w2 ⟨rfl, rfl⟩) | (go_at_call 121; (with_reducible refine (H1.out _).mono ?_); rintro e2 w2 ⟨rfl, rfl⟩) | (go_at_call 121; (with_reducible refine (H2.out _).mono ?_); rintro e2 w2 ⟨rfl, rfl⟩) | (go_at_call 121; (with_reducible refine (H3.out _).mono ?_); rintro e2 w2 ⟨rfl, rfl⟩) | (go_at_call 121; (with_reducible refine (H4.out _).mono ?_); rintro e2 w2 ⟨rfl, rfl⟩) | (go_at_call 121; (with_reducible refine (H5.out _).mono ?_); rintro e2 w2 ⟨rfl, rfl⟩))
  go_ret
  exact rowPost HV.out (Below.refl _ _)
set_option maxRecDepth 100000 in
set_option maxHeartbeats 4000000 in
theorem row_170 (b : Nat) (w : World) (h0 : 161 ≤ b) (h1 : b ≤ 254) : Calls Tryz.prog 69 #[.int .i64 170, .int .i64 b] w (RowPost w 170 b) := by
  have hb : b < 256 := by omega
  obtain ⟨S0, q0, u0, v0, c0⟩ := spC (b := b) 161 243 12353 hb (by omega) (by omega)
  have H0 : Hid (∀ w2, Calls Tryz.prog 121 #[.int .i64 b, .int .i64 161, .int .i64 243, .int .i32 12353] w2 fun e w' => e = .returned (.int .i32 S0) ∧ w2 = w') := Lib.hid c0
  have HV : Hid (((row 170 b : Nat) : Int) = S0) := Lib.hid (by unfold row; rw [if_neg (by omega), if_neg (by omega), if_neg (by omega), if_neg (by omega), if_neg (by omega), if_neg (by omega), if_pos rfl]; omega)
  have g0 : (161 : Int) ≤ (b : Int) := by omega
  have g1 : (b : Int) ≤ 254 := by omega
  clear q0 c0
  generalize (b : Int) = B at *
  go_enter Tryz.func69, Tryz.ntmps69
  go_wp2_with (first | (go_at_call 121; (with_reducible refine (H0.out _).mono ?_); rintro e2 w2 ⟨rfl, rfl⟩))
  go_ret
  exact rowPost HV.out (Below.refl _ _)
set_option maxRecDepth 100000 in
set_option maxHeartbeats 4000000 in
theorem row_171 (b : Nat) (w : World) (h0 : 161 ≤ b) (h1 : b ≤ 254) : Calls Tryz.prog 69 #[.int .i64 171, .int .i64 b] w (RowPost w 171 b) := by
  have hb : b < 256 := by omega
  obtain ⟨S0, q0, u0, v0, c0⟩ := spC (b := b) 161 246 12449 hb (by omega) (by omega)
  have H0 : Hid (∀ w2, Calls Tryz.prog 121 #[.int .i64 b, .int .i64 161, .int .i64 246, .int .i32 12449] w2 fun e w' => e = .returned (.int .i32 S0) ∧ w2 = w') := Lib.hid c0
  have HV : Hid (((row 171 b : Nat) : Int) = S0) := Lib.hid (by unfold row; rw [if_neg (by omega), if_neg (by omega), if_neg (by omega), if_neg (by omega), if_neg (by omega), if_neg (by omega), if_neg (by omega), if_pos rfl]; omega)
  have g0 : (161 : Int) ≤ (b : Int) := by omega
  have g1 : (b : Int) ≤ 254 := by omega
  clear q0 c0
  generalize (b : Int) = B at *
  go_enter Tryz.func69, Tryz.ntmps69
  go_wp2_with (first | (go_at_call 121; (with_reducible refine (H0.out _).mono ?_); rintro e2 w2 ⟨rfl, rfl⟩))
  go_ret
  exact rowPost HV.out (Below.refl _ _)
set_option maxRecDepth 100000 in
set_option maxHeartbeats 4000000 in
theorem row_172 (b : Nat) (w : World) (h0 : 161 ≤ b) (h1 : b ≤ 254) : Calls Tryz.prog 69 #[.int .i64 172, .int .i64 b] w (RowPost w 172 b) := by
  have hb : b < 256 := by omega
  obtain ⟨S0, q0, u0, v0, c0⟩ := spC (b := b) 161 166 1040 hb (by omega) (by omega)
  have H0 : Hid (∀ w2, Calls Tryz.prog 121 #[.int .i64 b, .int .i64 161, .int .i64 166, .int .i32 1040] w2 fun e w' => e = .returned (.int .i32 S0) ∧ w2 = w') := Lib.hid c0
  obtain ⟨S1, q1, u1, v1, c1⟩ := spC (b := b) 167 167 1025 hb (by omega) (by omega)
  have H1 : Hid (∀ w2, Calls Tryz.prog 121 #[.int .i64 b, .int .i64 167, .int .i64 167, .int .i32 1025] w2 fun e w' => e = .returned (.int .i32 S1) ∧ w2 = w') := Lib.hid c1
  obtain ⟨S2, q2, u2, v2, c2⟩ := spC (b := b) 168 193 1046 hb (by omega) (by omega)
  have H2 : Hid (∀ w2, Calls Tryz.prog 121 #[.int .i64 b, .int .i64 168, .int .i64 193, .int .i32 1046] w2 fun e w' => e = .returned (.int .i32 S2) ∧ w2 = w') := Lib.hid c2
  obtain ⟨S3, q3, u3, v3, c3⟩ := spC (b := b) 209 214 1072 hb (by omega) (by omega)
  have H3 : Hid (∀ w2, Calls Tryz.prog 121 #[.int .i64 b, .int .i64 209, .int .i64 214, .int .i32 1072] w2 fun e w' => e = .returned (.int .i32 S3) ∧ w2 = w') := Lib.hid c3
  obtain ⟨S4, q4, u4, v4, c4⟩ := spC (b := b) 215 215 1105 hb (by omega) (by omega)
  have H4 : Hid (∀ w2, Calls Tryz.prog 121 #[.int .i64 b, .int .i64 215, .int .i64 215, .int .i32 1105] w2 fun e w' => e = .returned (.int .i32 S4) ∧ w2 = w') := Lib.hid c4
  obtain ⟨S5, q5, u5, v5, c5⟩ := spC (b := b) 216 241 1078 hb (by omega) (by omega)
  have H5 : Hid (∀ w2, Calls Tryz.prog 121 #[.int .i64 b, .int .i64 216, .int .i64 241, .int .i32 1078] w2 fun e w' => e = .returned (.int .i32 S5) ∧ w2 = w') := Lib.hid c5
  have HV : Hid (((row 172 b : Nat) : Int) = S0 + S1 + S2 + S3 + S4 + S5) := Lib.hid (by unfold row; rw [if_neg (by omega), if_neg (by omega), if_neg (by omega), if_neg (by omega), if_neg (by omega), if_neg (by omega), if_neg (by omega), if_neg (by omega), if_pos rfl]; omega)
  have g0 : (161 : Int) ≤ (b : Int) := by omega
  have g1 : (b : Int) ≤ 254 := by omega
  clear q0 c0 q1 c1 q2 c2 q3 c3 q4 c4 q5 c5
  generalize (b : Int) = B at *
  go_enter Tryz.func69, Tryz.ntmps69
  go_wp2_with (first | (go_at_call 121; (with_reducible refine (H0.out _).mono ?_); rintro e2 w2 ⟨rfl, rfl⟩) | (go_at_call 121; (with_reducible refine (H1.out _).mono ?_); rintro e2 w2 ⟨rfl, rfl⟩) | (go_at_call 121; (with_reducible refine (H2.out _).mono ?_); rintro e2 w2 ⟨rfl, rfl⟩) | (go_at_call 121; (with_reducible refine (H3.out _).mono ?_); rintro e2 w2 ⟨rfl, rfl⟩) | (go_at_call 121; (with_reducible refine (H4.out _).mono ?_); rintro e2 w2 ⟨rfl, rfl⟩) | (go_at_call 121; (with_reducible refine (H5.out _).mono ?_); rintro e2 w2 ⟨rfl, rfl⟩))
  go_ret
  exact rowPost HV.out (Below.refl _ _)
set_option maxRecDepth 100000 in
set_option maxHeartbeats 4000000 in
theorem row_else (l b : Nat) (w : World) (h : l ≠ 161 ∧ l ≠ 162 ∧ l ≠ 163 ∧ l ≠ 164 ∧ l ≠ 165 ∧ l ≠ 166 ∧ l ≠ 170 ∧ l ≠ 171 ∧ l ≠ 172) : Calls Tryz.prog 69 #[.int .i64 l, .int .i64 b] w (RowPost w l b) := by
  obtain ⟨h1, h2, h3, h4, h5, h6, h7, h8, h9⟩ := h
  have HV : Hid (((row l b : Nat) : Int) = 0) := Lib.hid (by unfold row; rw [if_neg h1, if_neg h2, if_neg h3, if_neg h4, if_neg h5, if_neg h6, if_neg h7, if_neg h8, if_neg h9]; rfl)
  have e0 : ((l : Int) == 161) = false := beq_eq_false_iff_ne.2 (by omega)
  have e1 : ((l : Int) == 162) = false := beq_eq_false_iff_ne.2 (by omega)
  have e2 : ((l : Int) == 163) = false := beq_eq_false_iff_ne.2 (by omega)
  have e3 : ((l : Int) == 164) = false := beq_eq_false_iff_ne.2 (by omega)
  have e4 : ((l : Int) == 165) = false := beq_eq_false_iff_ne.2 (by omega)
  have e5 : ((l : Int) == 166) = false := beq_eq_false_iff_ne.2 (by omega)
  have e6 : ((l : Int) == 170) = false := beq_eq_false_iff_ne.2 (by omega)
  have e7 : ((l : Int) == 171) = false := beq_eq_false_iff_ne.2 (by omega)
  have e8 : ((l : Int) == 172) = false := beq_eq_false_iff_ne.2 (by omega)
  clear h1 h2 h3 h4 h5 h6 h7 h8 h9
  generalize (l : Int) = L at *
  go_enter Tryz.func69, Tryz.ntmps69
  go_wp2_with fail
  go_ret
  exact rowPost HV.out (Below.refl _ _)
theorem row_any (l b : Nat) (w : World) (h0 : 161 ≤ b) (h1 : b ≤ 254) : Calls Tryz.prog 69 #[.int .i64 l, .int .i64 b] w fun e w' => e = .returned (.int .i32 ((row l b : Nat) : Int)) ∧ Below w.heap.size w w' := by
  by_cases h : l ≠ 161 ∧ l ≠ 162 ∧ l ≠ 163 ∧ l ≠ 164 ∧ l ≠ 165 ∧ l ≠ 166 ∧ l ≠ 170 ∧ l ≠ 171 ∧ l ≠ 172
  · exact row_else l b w h
  · have hh : l = 161 ∨ l = 162 ∨ l = 163 ∨ l = 164 ∨ l = 165 ∨ l = 166 ∨ l = 170 ∨ l = 171 ∨ l = 172 := by omega
    rcases hh with rfl | rfl | rfl | rfl | rfl | rfl | rfl | rfl | rfl
    · exact row_161 b w h0 h1
    · exact row_162 b w h0 h1
    · exact row_163 b w h0 h1
    · exact row_164 b w h0 h1
    · exact row_165 b w h0 h1
    · exact row_166 b w h0 h1
    · exact row_170 b w h0 h1
    · exact row_171 b w h0 h1
    · exact row_172 b w h0 h1
end Go.Proofs.YtbgbgigpcegenaaGreatDoor.wa
namespace Go.Proofs.YtbgbgigpcegenaaGreatDoor.wa
open Go.RowKit Go.Lib
set_option linter.unusedVariables false
def SgPost (w : World) (l b : Nat) : Ending → World → Prop := fun e w' => e = .returned (.int .i32 ((sgW l b : Nat) : Int)) ∧ Below w.heap.size w w'
theorem sgPost {w w' : World} {l b : Nat} {v : Int} (h : ((sgW l b : Nat) : Int) = v) (hb : Below w.heap.size w w') : SgPost w l b (.returned (.int .i32 v)) w' := ⟨by rw [h], hb⟩
def KtC (k : Int) (b : Bool) (V : Int) : Prop := ∀ w2, Calls Tryz.prog 68 #[.int .i64 k, .bool b] w2 fun e w' => e = .returned (.int .i32 V) ∧ w2 = w'
theorem ktC (k : Int) (q : Nat) (b : Bool) (h : k = (q : Int)) (hk : q ≤ 1000000) : Hid (KtC k b ((kth q b : Nat) : Int)) := Lib.hid (fun w2 => by
  subst h
  have := kth_any q b w2 (by omega)
  rw [kthI_nat] at this
  exact this)
set_option maxRecDepth 100000 in
set_option maxHeartbeats 4000000 in
theorem sgn_any (l b : Nat) (w : World) (hl : l < 256) (hb : b < 256) : Calls Tryz.prog 37 #[.int .i64 l, .int .i64 b] w (SgPost w l b) := by
  have HS := Lib.hid (fun w2 => second_any b w2 hb)
  have l0 : (0 : Int) ≤ (l : Int) := by omega
  have l1 : (l : Int) < 256 := by omega
  have b0 : (0 : Int) ≤ (b : Int) := by omega
  have b1 : (b : Int) < 256 := by omega
  cases hs : sec b with
  | none =>
    have e : secI b = -1 := by unfold secI; rw [hs]
    rw [e] at HS
    have HV : Hid (((sgW l b : Nat) : Int) = 0) := Lib.hid (by unfold sgW; rw [hs]; rfl)
    clear hs e
    go_enter Tryz.func37, Tryz.ntmps37
    go_wp2_with (go_at_call 67; refine (HS.out _).mono ?_; rintro e2 w2 ⟨rfl, rfl⟩)
    go_ret
    exact sgPost HV.out (Below.refl _ _)
  | some t =>
    have e : secI b = (t : Int) := by unfold secI; rw [hs]
    rw [e] at HS
    have ht := (sec_back hs).2.1
    have t0 : (0 : Int) ≤ (t : Int) := by omega
    have t1 : (t : Int) < 178 := by omega
    have hV : sgW l b = if l < 129 ∨ 254 < l then 0 else if l < 161 then kth ((l - 129) * 178 + t) false
      else if b < 161 then kth (5696 + (l - 161) * 84 + t) false
      else if 176 ≤ l ∧ l ≤ 200 then kth ((l - 176) * 94 + (b - 161)) true else row l b := by unfold sgW; rw [hs]
    have hb5 : b ≤ 254 := by
      by_cases q : b ≤ 254
      · exact q
      · exfalso; unfold sec at hs; rw [if_neg (by omega), if_neg (by omega), if_neg (by omega)] at hs; cases hs
    clear hs e
    by_cases h1 : l < 129
    · have HV : Hid (((sgW l b : Nat) : Int) = 0) := Lib.hid (by rw [hV, if_pos (.inl h1)]; rfl)
      have g1 : (l : Int) < 129 := by omega
      clear hV h1
      go_enter Tryz.func37, Tryz.ntmps37
      go_wp2_with (go_at_call 67; refine (HS.out _).mono ?_; rintro e2 w2 ⟨rfl, rfl⟩)
      go_ret
      exact sgPost HV.out (Below.refl _ _)
    by_cases h2 : 254 < l
    · have HV : Hid (((sgW l b : Nat) : Int) = 0) := Lib.hid (by rw [hV, if_pos (.inr h2)]; rfl)
      have g1 : ¬ (l : Int) < 129 := by omega
      have g2 : 254 < (l : Int) := by omega
      clear hV h1 h2
      go_enter Tryz.func37, Tryz.ntmps37
      go_wp2_with (go_at_call 67; refine (HS.out _).mono ?_; rintro e2 w2 ⟨rfl, rfl⟩)
      go_ret
      exact sgPost HV.out (Below.refl _ _)
    rw [if_neg (by omega)] at hV
    have g1 : ¬ (l : Int) < 129 := by omega
    have g2 : ¬ 254 < (l : Int) := by omega
    by_cases h3 : l < 161
    · have HK := ktC (((l : Int) - 129) * 178 + (t : Int)) ((l - 129) * 178 + t) false (by omega) (by omega)
      have HV : Hid (((sgW l b : Nat) : Int) = ((kth ((l - 129) * 178 + t) false : Nat) : Int)) := Lib.hid (by rw [hV, if_pos h3])
      generalize ((kth ((l - 129) * 178 + t) false : Nat) : Int) = V at *
      have g3 : (l : Int) < 161 := by omega
      clear hV h1 h2 h3
      go_enter Tryz.func37, Tryz.ntmps37
      go_wp2_with (first | (go_at_call 67; refine (HS.out _).mono ?_; rintro e2 w2 ⟨rfl, rfl⟩) | (go_at_call 68; refine (HK.out _).mono ?_; rintro e2 w2 ⟨rfl, rfl⟩))
      go_ret
      exact sgPost HV.out (Below.refl _ _)
    rw [if_neg h3] at hV
    have g3 : ¬ (l : Int) < 161 := by omega
    by_cases h4 : b < 161
    · have HK := ktC (5696 + ((l : Int) - 161) * 84 + (t : Int)) (5696 + (l - 161) * 84 + t) false (by omega) (by omega)
      have HV : Hid (((sgW l b : Nat) : Int) = ((kth (5696 + (l - 161) * 84 + t) false : Nat) : Int)) := Lib.hid (by rw [hV, if_pos h4])
      generalize ((kth (5696 + (l - 161) * 84 + t) false : Nat) : Int) = V at *
      have g4 : (b : Int) < 161 := by omega
      clear hV h1 h2 h3 h4
      go_enter Tryz.func37, Tryz.ntmps37
      go_wp2_with (first | (go_at_call 67; refine (HS.out _).mono ?_; rintro e2 w2 ⟨rfl, rfl⟩) | (go_at_call 68; refine (HK.out _).mono ?_; rintro e2 w2 ⟨rfl, rfl⟩))
      go_ret
      exact sgPost HV.out (Below.refl _ _)
    rw [if_neg h4] at hV
    have g4 : ¬ (b : Int) < 161 := by omega
    by_cases h5 : 176 ≤ l ∧ l ≤ 200
    · have HK := ktC (((l : Int) - 176) * 94 + (b : Int) - 161) ((l - 176) * 94 + (b - 161)) true (by omega) (by omega)
      have HV : Hid (((sgW l b : Nat) : Int) = ((kth ((l - 176) * 94 + (b - 161)) true : Nat) : Int)) := Lib.hid (by rw [hV, if_pos h5])
      generalize ((kth ((l - 176) * 94 + (b - 161)) true : Nat) : Int) = V at *
      have g5 : 176 ≤ (l : Int) := by omega
      have g6 : (l : Int) ≤ 200 := by omega
      clear hV h1 h2 h3 h4 h5
      go_enter Tryz.func37, Tryz.ntmps37
      go_wp2_with (first | (go_at_call 67; refine (HS.out _).mono ?_; rintro e2 w2 ⟨rfl, rfl⟩) | (go_at_call 68; refine (HK.out _).mono ?_; rintro e2 w2 ⟨rfl, rfl⟩))
      go_ret
      exact sgPost HV.out (Below.refl _ _)
    · rw [if_neg h5] at hV
      have HV : Hid (((sgW l b : Nat) : Int) = ((row l b : Nat) : Int)) := Lib.hid (by rw [hV])
      have HR := Lib.hid (fun w2 => row_any l b w2 (by omega) hb5)
      generalize ((row l b : Nat) : Int) = V at *
      by_cases h6 : 176 ≤ l
      · have g5 : 176 ≤ (l : Int) := by omega
        have g6 : ¬ (l : Int) ≤ 200 := by omega
        clear hV h1 h2 h3 h4 h5 h6
        go_enter Tryz.func37, Tryz.ntmps37
        go_wp2_with (first | (go_at_call 67; refine (HS.out _).mono ?_; rintro e2 w2 ⟨rfl, rfl⟩) | (go_at_call 69; refine (HR.out _).mono ?_; rintro e2 w2 ⟨rfl, hb2⟩))
        go_ret
        exact sgPost HV.out hb2
      · have g5 : ¬ 176 ≤ (l : Int) := by omega
        clear hV h1 h2 h3 h4 h5 h6
        go_enter Tryz.func37, Tryz.ntmps37
        go_wp2_with (first | (go_at_call 67; refine (HS.out _).mono ?_; rintro e2 w2 ⟨rfl, rfl⟩) | (go_at_call 69; refine (HR.out _).mono ?_; rintro e2 w2 ⟨rfl, hb2⟩))
        go_ret
        exact sgPost HV.out hb2
end Go.Proofs.YtbgbgigpcegenaaGreatDoor.wa
namespace Go.Proofs.YtbgbgigpcegenaaGreatDoor.tb
open Go.RowKit Go.Lib
set_option linter.unusedVariables false
/-- Pairs by rising codes. -/
def Srt (l : List (Int × Int)) : Prop := l.Pairwise (fun a b => a.1 < b.1)
theorem Srt.tail {q : Int × Int} {l : List (Int × Int)} (h : Srt (q :: l)) : Srt l := (List.pairwise_cons.1 h).2
theorem Srt.head {q : Int × Int} {l : List (Int × Int)} (h : Srt (q :: l)) : ∀ r ∈ l, q.1 < r.1 := (List.pairwise_cons.1 h).1
theorem Srt.nil : Srt [] := List.Pairwise.nil
/-- Two rows of pairs by rising codes that have the same pairs are one. -/
theorem srt_ext : ∀ (l m : List (Int × Int)), Srt l → Srt m → (∀ q, q ∈ l ↔ q ∈ m) → l = m
  | [], [], _, _, _ => rfl
  | [], q :: m, _, _, h => by have := (h q).2 (List.mem_cons_self ..); cases this
  | q :: l, [], _, _, h => by have := (h q).1 (List.mem_cons_self ..); cases this
  | q :: l, r :: m, hl, hm, h => by
    have e : q = r := by
      have h1 := (h q).1 (List.mem_cons_self ..)
      have h2 := (h r).2 (List.mem_cons_self ..)
      rcases List.mem_cons.1 h1 with h1 | h1
      · exact h1
      rcases List.mem_cons.1 h2 with h2 | h2
      · exact h2.symm
      have a := hm.head q h1
      have b := hl.head r h2
      omega
    subst e
    have : l = m := srt_ext l m hl.tail hm.tail (fun s => by
      have hs := h s
      rw [List.mem_cons, List.mem_cons] at hs
      constructor
      · intro hs1
        have h3 := hl.head s hs1
        rcases hs.1 (.inr hs1) with h4 | h4
        · rw [h4] at h3; omega
        · exact h4
      · intro hs1
        have h3 := hm.head s hs1
        rcases hs.2 (.inr hs1) with h4 | h4
        · rw [h4] at h3; omega
        · exact h4)
    rw [this]
/-- A code's sign. -/
def lk : List (Int × Int) → Int → Option Int
  | [], _ => none
  | q :: l, c => if q.1 = c then some q.2 else lk l c
theorem lk_mem {l : List (Int × Int)} (hs : Srt l) (c p : Int) : lk l c = some p ↔ (c, p) ∈ l := by
  induction l with
  | nil => simp [lk]
  | cons q l ih =>
    have ih := ih hs.tail
    unfold lk
    rw [List.mem_cons]
    by_cases h : q.1 = c
    · rw [if_pos h]
      constructor
      · intro h2; left; injection h2 with h2; rw [← h, ← h2]
      · rintro (h2 | h2)
        · rw [← h2]
        · have := hs.head _ h2; simp only at this; omega
    · rw [if_neg h, ih]
      constructor
      · exact .inr
      · rintro (h2 | h2)
        · rw [← h2] at h; exact absurd rfl h
        · exact h2
theorem srt_lk {l m : List (Int × Int)} (hl : Srt l) (hm : Srt m) (h : ∀ c, lk l c = lk m c) : l = m :=
  srt_ext l m hl hm fun q => by rw [← lk_mem hl q.1 q.2, ← lk_mem hm q.1 q.2, h]
theorem lk_none {l : List (Int × Int)} (c : Int) : lk l c = none ↔ ∀ q ∈ l, q.1 ≠ c := by
  induction l with
  | nil => simp [lk]
  | cons q l ih =>
    unfold lk
    by_cases h : q.1 = c
    · rw [if_pos h]; simp; intro h2; exact absurd h h2
    · rw [if_neg h, ih]; simp [h]
/-- The place of a code; -1. -/
def findFrom (c : Int) : Nat → List (Int × Int) → Int
  | _, [] => -1
  | i, q :: l => if q.1 = c then (i : Int) else findFrom c (i + 1) l
def find (l : List (Int × Int)) (c : Int) : Int := findFrom c 0 l
theorem findFrom_cases (c : Int) : ∀ (l : List (Int × Int)) (i : Nat), (lk l c = none ∧ findFrom c i l = -1) ∨ ∃ k p, lk l c = some p ∧ findFrom c i l = ((i + k : Nat) : Int) ∧ l[k]? = some (c, p)
  | [], i => .inl ⟨rfl, rfl⟩
  | q :: l, i => by
    unfold lk findFrom
    by_cases h : q.1 = c
    · rw [if_pos h, if_pos h]
      exact .inr ⟨0, q.2, rfl, by simp, by simp [← h]⟩
    · rw [if_neg h, if_neg h]
      rcases findFrom_cases c l (i + 1) with ⟨h1, h2⟩ | ⟨k, p, h1, h2, h3⟩
      · exact .inl ⟨h1, h2⟩
      · exact .inr ⟨k + 1, p, h1, by rw [h2]; congr 1; omega, by simpa using h3⟩
theorem find_cases (l : List (Int × Int)) (c : Int) : (lk l c = none ∧ find l c = -1) ∨ ∃ (k : Nat) (p : Int), lk l c = some p ∧ find l c = (k : Int) ∧ l[k]? = some (c, p) := by
  rcases findFrom_cases c l 0 with h | ⟨k, p, h1, h2, h3⟩
  · exact .inl h
  · exact .inr ⟨k, p, h1, by rw [Nat.zero_add] at h2; exact h2, h3⟩
/-- With a pair more. -/
def put : List (Int × Int) → Int × Int → List (Int × Int)
  | [], p => [p]
  | q :: l, p => if p.1 < q.1 then p :: q :: l else q :: put l p
theorem mem_put (l : List (Int × Int)) (p q : Int × Int) : q ∈ put l p ↔ q = p ∨ q ∈ l := by
  induction l with
  | nil => simp [put]
  | cons r l ih =>
    unfold put
    split
    · simp
    · rw [List.mem_cons, ih, List.mem_cons]
      constructor
      · rintro (h | h | h)
        · exact .inr (.inl h)
        · exact .inl h
        · exact .inr (.inr h)
      · rintro (h | h | h)
        · exact .inr (.inl h)
        · exact .inl h
        · exact .inr (.inr h)
theorem put_srt {l : List (Int × Int)} {p : Int × Int} (hs : Srt l) (hn : lk l p.1 = none) : Srt (put l p) := by
  induction l with
  | nil => exact List.pairwise_singleton _ _
  | cons r l ih =>
    have hne := (lk_none _).1 hn
    have h1 : r.1 ≠ p.1 := hne r (List.mem_cons_self ..)
    have h2 : lk l p.1 = none := (lk_none _).2 fun q hq => hne q (List.mem_cons_of_mem _ hq)
    unfold put
    split
    · rename_i h
      refine List.pairwise_cons.2 ⟨fun q hq => ?_, hs⟩
      rcases List.mem_cons.1 hq with hq | hq
      · rw [hq]; exact h
      · have := hs.head q hq; omega
    · rename_i h
      refine List.pairwise_cons.2 ⟨fun q hq => ?_, ih hs.tail h2⟩
      rcases (mem_put l p q).1 hq with hq | hq
      · rw [hq]; omega
      · exact hs.head q hq
theorem lk_put {l : List (Int × Int)} {p : Int × Int} (hs : Srt l) (hn : lk l p.1 = none) (c : Int) : lk (put l p) c = if p.1 = c then some p.2 else lk l c := by
  have hp := put_srt hs hn
  by_cases h : p.1 = c
  · rw [if_pos h, lk_mem hp, mem_put, ← h]; exact .inl rfl
  · rw [if_neg h]
    cases hc : lk l c with
    | none =>
      rw [lk_none]
      intro q hq
      rcases (mem_put l p q).1 hq with hq | hq
      · rw [hq]; exact h
      · exact (lk_none c).1 hc q hq
    | some x =>
      rw [lk_mem hp, mem_put]
      exact .inr ((lk_mem hs c x).1 hc)
def puts (l more : List (Int × Int)) : List (Int × Int) := more.foldl put l
/-- Both, if no code of the second is in the first. -/
def join (l more : List (Int × Int)) : Option (List (Int × Int)) := if more.all (fun q => decide (find l q.1 < 0)) then some (puts l more) else none
theorem find_neg (l : List (Int × Int)) (c : Int) : find l c < 0 ↔ lk l c = none := by
  rcases find_cases l c with ⟨h1, h2⟩ | ⟨k, p, h1, h2, _⟩
  · rw [h1, h2]; simp
  · rw [h1, h2]; simp
/-- Codes are apart, and none is in the other row. -/
theorem puts_spec : ∀ (more l : List (Int × Int)), Srt l → (more.map (·.1)).Nodup → (∀ q ∈ more, lk l q.1 = none) →
    Srt (puts l more) ∧ ∀ q, q ∈ puts l more ↔ q ∈ l ∨ q ∈ more
  | [], l, hs, _, _ => ⟨hs, fun q => by simp [puts]⟩
  | p :: more, l, hs, hd, hn => by
    rw [List.map_cons, List.nodup_cons] at hd
    have hp := hn p (List.mem_cons_self ..)
    have h1 := put_srt hs hp
    have ih := puts_spec more (put l p) h1 hd.2 (fun q hq => by
      rw [lk_put hs hp, if_neg]
      · exact hn q (List.mem_cons_of_mem _ hq)
      · intro e
        exact hd.1 (by rw [e]; exact List.mem_map_of_mem hq))
    refine ⟨ih.1, fun q => ?_⟩
    have := ih.2 q
    show q ∈ puts (put l p) more ↔ _
    rw [this, mem_put, List.mem_cons]
    constructor
    · rintro ((h | h) | h)
      · exact .inr (.inl h)
      · exact .inl h
      · exact .inr (.inr h)
    · rintro (h | h | h)
      · exact .inl (.inr h)
      · exact .inl (.inl h)
      · exact .inr h
/-- One over the other. -/
def over (l other : List (Int × Int)) : List (Int × Int) := other.foldl (fun out q => if find l q.1 < 0 then put out q else out) l
theorem over_spec (l : List (Int × Int)) (hs : Srt l) : ∀ (other out : List (Int × Int)), Srt out → Srt other → (∀ q ∈ other, lk out q.1 = lk l q.1) →
    Srt (other.foldl (fun out q => if find l q.1 < 0 then put out q else out) out) ∧ ∀ c, lk (other.foldl (fun out q => if find l q.1 < 0 then put out q else out) out) c = (if (lk l c).isNone ∧ (lk other c).isSome then lk other c else lk out c)
  | [], out, ho, _, _ => ⟨ho, fun c => by simp [lk]⟩
  | q :: other, out, ho, hso, hh => by
    have hq := hh q (List.mem_cons_self ..)
    rw [List.foldl_cons]
    by_cases hf : find l q.1 < 0
    · have hn : lk l q.1 = none := (find_neg l q.1).1 hf
      rw [hn] at hq
      rw [if_pos hf]
      have ih := over_spec l hs other (put out q) (put_srt ho hq) hso.tail (fun r hr => by
        rw [lk_put ho hq, if_neg]
        · exact hh r (List.mem_cons_of_mem _ hr)
        · have := hso.head r hr; omega)
      refine ⟨ih.1, fun c => ?_⟩
      rw [ih.2 c, lk_put ho hq]
      have e : lk (q :: other) c = if q.1 = c then some q.2 else lk other c := rfl
      rw [e]
      by_cases hc : q.1 = c
      · subst hc
        have h2 : lk other q.1 = none := (lk_none _).2 fun r hr => by have := hso.head r hr; omega
        rw [if_pos rfl, if_pos rfl, h2, hn]; simp
      · rw [if_neg hc, if_neg hc]
    · have hn : lk l q.1 ≠ none := fun h => hf ((find_neg l q.1).2 h)
      rw [if_neg hf]
      have ih := over_spec l hs other out ho hso.tail (fun r hr => hh r (List.mem_cons_of_mem _ hr))
      refine ⟨ih.1, fun c => ?_⟩
      rw [ih.2 c]
      have e : lk (q :: other) c = if q.1 = c then some q.2 else lk other c := rfl
      rw [e]
      by_cases hc : q.1 = c
      · subst hc
        have h3 : (lk l q.1).isNone = false := by
          cases h : lk l q.1 with
          | none => exact absurd h hn
          | some x => rfl
        simp [h3]
      · rw [if_neg hc]
theorem over_lk {l m : List (Int × Int)} (hl : Srt l) (hm : Srt m) : Srt (over l m) ∧ ∀ c, lk (over l m) c = (lk l c).or (lk m c) := by
  have h := over_spec l hl m l hl hm (fun _ _ => rfl)
  refine ⟨h.1, fun c => ?_⟩
  have := h.2 c
  unfold over
  rw [this]
  cases h1 : lk l c <;> cases h2 : lk m c <;> simp
/-- The least code of a sign; -1. -/
def rev : List (Int × Int) → Int → Int
  | [], _ => -1
  | q :: l, p => if q.2 = p then q.1 else rev l p
/-- Signs, from a code on. -/
def lsp : Int → List Int → List (Int × Int)
  | _, [] => []
  | f, z :: zs => (f, z) :: lsp (f + 1) zs
theorem lsp_snoc (f : Int) (zs : List Int) (z : Int) : lsp f (zs ++ [z]) = lsp f zs ++ [(f + zs.length, z)] := by
  induction zs generalizing f with
  | nil => simp [lsp]
  | cons y zs ih =>
    rw [List.cons_append, lsp, ih, lsp]
    simp only [List.cons_append, List.length_cons]
    congr 3
    have : ((zs.length + 1 : Nat) : Int) = (zs.length : Int) + 1 := by omega
    rw [this]; congr 1; omega
/-- Numbers, one behind the other. -/
def sqp (f t : Int) : Nat → List (Int × Int)
  | 0 => []
  | n + 1 => sqp f t n ++ [(f + n, t + n)]
theorem sqp_len (f t : Int) (n : Nat) : (sqp f t n).length = n := by
  induction n with
  | zero => rfl
  | succ n ih => simp [sqp, ih]
end Go.Proofs.YtbgbgigpcegenaaGreatDoor.tb
namespace Go.Proofs.YtbgbgigpcegenaaGreatDoor.tb
open Go.RowKit Go.Lib
set_option linter.unusedVariables false
/-- A slice of pairs, none or a row. -/
def RowP (w : World) (A : Option Addr) (n c : Nat) (l : List (Int × Int)) : Prop :=
  (A = none ∧ n = 0 ∧ c = 0 ∧ l = []) ∨ ∃ a, A = some a ∧ n ≤ c ∧ c ≤ maxLen ∧ l.length = n ∧ ∀ i, i < n → w.cell? (a.add (i * 2)) = some (.int .i64 (l.getD i (0, 0)).1) ∧ w.cell? ((a.add (i * 2)).add 1) = some (.int .i32 (l.getD i (0, 0)).2)
theorem ret_int {k : IntKind} {a b : Int} (h : a = b) : Ending.returned (.int k a) = .returned (.int k b) := by rw [h]
end Go.Proofs.YtbgbgigpcegenaaGreatDoor.tb
namespace Go.Proofs.YtbgbgigpcegenaaGreatDoor.tb
open Go.RowKit Go.Lib
set_option linter.unusedVariables false
theorem owns_below2 {B B' : Nat} {e : TypeId} {v : Value} {k n : Nat} {xs : List Value} {wr w1 : World} (h : wr.ownsRow B e k v n xs) (hb : Below B' wr w1) (hB : wr.heap.size ≤ B') : w1.ownsRow B e k v n xs := by
  obtain ⟨hl, h | ⟨g, cap, cur, rfl, hB2, hg, h1, h2, h3, h4⟩⟩ := h
  · exact ⟨hl, .inl h⟩
  · have hlt : g < wr.heap.size := (Array.getElem?_eq_some_iff.1 hg).1
    exact ⟨hl, .inr ⟨g, cap, cur, rfl, hB2, (hb.block g (by omega)).trans hg, h1, h2, h3, h4⟩⟩
theorem below_own {B : Nat} {w wr w' : World} {e : TypeId} {k : Nat} {v : Value} {n : Nat} {xs : List Value} (hb : Below B w wr) (hB : B ≤ wr.heap.size) (ho : wr.ownsRow B e k v n xs) (hg : wr.grownBy w' v.ownBlock) : Below B w w' := by
  refine ⟨hg.os.trans hb.os, hg.tape.trans hb.tape, hg.output.trans hb.output, Nat.le_trans hb.size hg.size, fun i hi => ?_⟩
  rw [hg.block i (by omega) (fun e => by have := ho.lt i e.symm; omega)]
  exact hb.block i hi
theorem own_base {B B' : Nat} {e : TypeId} {k n : Nat} {v : Value} {xs : List Value} {w : World} (h : w.ownsRow B e k v n xs) (hB : B' ≤ B) : w.ownsRow B' e k v n xs := by
  obtain ⟨hl, h | ⟨g, cap, cur, rfl, hB2, hg, h1, h2, h3, h4⟩⟩ := h
  · exact ⟨hl, .inl h⟩
  · exact ⟨hl, .inr ⟨g, cap, cur, rfl, by omega, hg, h1, h2, h3, h4⟩⟩
theorem new_cells (w : World) (x y : Value) (t : TypeId) : ∀ j u, ([x, y] : List Value)[j]? = some u → (w.alloc (.cells #[x, y] t)).cell? ((⟨w.heap.size, 0, none⟩ : Addr).add j) = some u := by
  intro j u hj
  have e : (⟨w.heap.size, 0, none⟩ : Addr).add j = ⟨w.heap.size, j, none⟩ := by unfold Addr.add; by_cases h : j = 0 <;> simp [h]
  rw [e, World.cell?_alloc_mark]
  match j, hj with
  | 0, hj => simpa using hj
  | 1, hj => simpa using hj
  | (j + 2), hj => simp at hj
end Go.Proofs.YtbgbgigpcegenaaGreatDoor.tb
namespace Go.Proofs.YtbgbgigpcegenaaGreatDoor.wa
open Go.RowKit Go.Lib
open Go.Proofs.YtbgbgigpcegenaaGreatDoor.tb (RowP)
set_option linter.unusedVariables false
/-- Two bytes. -/
def two (c : Nat) : ByteArray := ⟨#[UInt8.ofNat (c / 256 % 256), UInt8.ofNat (c % 256)]⟩
/-- The k-th syllable in the rows, or of the others; 0: there is none. -/
def plI (k : Int) (b : Bool) : Int := if k < 0 then 0 else if (tot b : Int) ≤ k then 0 else ((kth k.toNat b : Nat) : Int)
theorem plI_none {k : Int} {b : Bool} (h : k < 0 ∨ (tot b : Int) ≤ k) : plI k b = 0 := by
  unfold plI
  rcases h with h | h
  · rw [if_pos h]
  · rw [if_neg (by omega), if_pos h]
theorem plI_some {k : Nat} {b : Bool} (h : k < tot b) : plI k b = ((kth k b : Nat) : Int) ∧ ((kth k b : Nat) : Int) ≠ 0 := by
  unfold plI
  rw [if_neg (by omega), if_neg (by omega), Int.toNat_natCast]
  obtain ⟨n, _, _, _, h4⟩ := kth_some h
  exact ⟨rfl, by rw [h4]; omega⟩
theorem plI_kth (k : Nat) (b : Bool) : plI k b = ((kth k b : Nat) : Int) := by
  by_cases h : k < tot b
  · exact (plI_some h).1
  · rw [plI_none (.inr (by omega)), kth_none (by omega)]; rfl
def plV (k : Int) (b : Bool) : Value := .tuple #[.int .i32 (plI k b), .bool (plI k b != 0)]
def sgV (S : Nat) : Value := .tuple #[.int .i32 (S : Int), .bool (decide (S ≠ 0))]
/-- What the walks ask of the landed functions: of all of them (the example), of Ranks and Places, of Signs and Bytes, of Rows. -/
structure Aw (K : World → Prop) : Prop where
  stay : ∀ w w', K w → Below w.heap.size w w' → K w'
  awS : ∀ w, K w → Calls Tryz.prog 57 #[.int .u8 176, .int .u8 162] w fun e w' => e = .returned (.tuple #[.int .i32 44033, .bool true]) ∧ Below w.heap.size w w'
  awB : ∀ w, K w → Calls Tryz.prog 58 #[.int .i32 55203] w fun e w' => e = .returned (.tuple #[.string ⟨#[198, 82]⟩, .bool true]) ∧ Below w.heap.size w w'
theorem sgV_pos {S : Nat} (h : S ≠ 0) : sgV S = .tuple #[.int .i32 (S : Int), .bool true] := by unfold sgV; rw [decide_eq_true h]
theorem awake_sign : sgW 176 162 = 44033 := by
  have h : inB 1 = true ∧ rk true 1 = 1 := by decide +kernel
  have h2 := kth_rank (n := 1) (by omega) h.1
  rw [h.2] at h2
  have h3 := sg_in (k := 1) (by omega)
  rw [h2] at h3
  exact h3
theorem awake_bytes : byW 55203 = some 50770 := by
  unfold byW
  rw [if_pos (by omega)]
  have h : inB 11171 = false := by decide +kernel
  have h2 : rk false 11171 = 8821 := by
    have h3 := tot_out
    rw [show 11172 = 11171 + 1 from rfl, rk_hit h] at h3
    omega
  unfold byS
  rw [show 55203 - 44032 = 11171 from rfl, h, h2]
  rfl
set_option maxRecDepth 100000 in
set_option maxHeartbeats 1000000 in
theorem Awake_any {K : World → Prop} (L : Aw K) (w : World) (hK : K w) : Calls Tryz.prog 30 #[] w fun e w' => e = .returned (.bool true) ∧ Below w.heap.size w w' := by
  have HS := Lib.hid L.awS
  have HB := Lib.hid L.awB
  have HL := Lib.hid L.stay
  have HK := Lib.hid hK
  clear hK L
  go_enter Tryz.func30, Tryz.ntmps30
  go_wp2_with (first | (go_at_call 57; refine (HS.out _ HK.out).mono ?_; rintro e2 w2 ⟨rfl, hb2⟩; have HB2 := Lib.hid hb2; have K2 := Lib.hid (HL.out _ _ HK.out hb2); clear hb2) | (go_at_call 58; refine (HB.out _ K2.out).mono ?_; rintro e3 w3 ⟨rfl, hb3⟩; have HB3 := Lib.hid (HB2.out.trans (hb3.mono HB2.out.size)); clear hb3))
  go_ret
  exact ⟨rfl, HB3.out⟩
end Go.Proofs.YtbgbgigpcegenaaGreatDoor.wa
namespace Go.Proofs.YtbgbgigpcegenaaGreatDoor.wa
open Go.RowKit Go.Lib
set_option linter.unusedVariables false
theorem kth_range {k : Nat} (h : k < 2350) : 44032 ≤ kth k true ∧ kth k true ≤ 55203 := by
  obtain ⟨x, y, z, _, _, _, _, _, _, c0, c1⟩ := mem_bytes h
  exact ⟨c0, c1⟩
set_option maxRecDepth 100000 in
set_option maxHeartbeats 2000000 in
theorem extraC_any (h : Nat) (k : Int) (b : Nat) (w : World) (hh : h < 2350) (hb : b < w.heap.size) (hc : w.cell? ⟨b, 0, none⟩ = some (.int .i64 k)) (hT : pt.Tabs w) :
    Calls Tryz.prog 179 (#[.int .i64 h] ++ #[.pointer (some ⟨b, 0, none⟩)]) w fun e w' => e = .returned (.bool (decide (k < ((kth h true : Nat) : Int) - 44032 - (h : Int)))) ∧ Below w.heap.size w w' := by
  have HM := Lib.hid (fun w2 h2 => member_any h w2 hh h2)
  have hr := kth_range hh
  have HA := Lib.hid (fun w2 => ahead_any ((kth h true : Nat) : Int) (h : Int) w2 (by omega) (by omega) (by omega) (by omega))
  generalize ((kth h true : Nat) : Int) - 44032 - (h : Int) = R at *
  generalize ((kth h true : Nat) : Int) = M at *
  have HT := Lib.hid hT
  show Calls Tryz.prog 179 #[.int .i64 h, .pointer (some ⟨b, 0, none⟩)] w _
  clear hh hT hr
  go_enter Tryz.func179, Tryz.ntmps179
  go_wp2_with fail
  go_region_held3 (fun w' => w'.cell? ⟨b, 0, none⟩ = some (.int .i64 k)) (go_keep) (first | (go_at_call 180; refine (HA.out _).mono ?_; rintro e2 w2 ⟨rfl, rfl⟩) | (go_at_call 148; refine (HM.out _ (HT.out.below ((Below.refl _ _).drew))).mono ?_; rintro e1 w1 ⟨rfl, hb1⟩; have y1 := (hb1.cell (p := ⟨b, 0, none⟩) hb).trans hc; have HB := Lib.hid hb1; clear hb1))
  all_goals go_wp2_with fail
  all_goals go_ret
  all_goals exact ⟨rfl, ((Below.refl _ w).drew).trans HB.out⟩
set_option maxRecDepth 100000 in
set_option maxHeartbeats 2000000 in
theorem place_any (k : Int) (w : World) (hT : pt.Tabs w) (h0 : -9223372036854775808 ≤ k) (h1 : k ≤ 9223372036854775807) : Calls Tryz.prog 108 #[.int .i64 k] w fun e w' => e = .returned (plV k true) ∧ Below w.heap.size w w' := by
  unfold plV
  by_cases hk : 0 ≤ k ∧ k < 2350
  · obtain ⟨n, rfl⟩ : ∃ n : Nat, k = (n : Int) := ⟨k.toNat, by omega⟩
    have hn : n < 2350 := by omega
    have hp := plI_some (b := true) (k := n) hn
    rw [hp.1]
    have hz : (((kth n true : Nat) : Int) != 0) = true := by rw [bne, beq_eq_false_iff_ne.2 hp.2]; rfl
    rw [hz]
    have HB := Lib.hid (fun w2 => below_yes (n : Int) 2350 w2 (by omega) (by omega))
    have HM := Lib.hid (fun w2 h2 => member_any n w2 hn h2)
    generalize ((kth n true : Nat) : Int) = M at *
    have HT := Lib.hid hT
    clear hz hp hT hn hk
    go_enter Tryz.func108, Tryz.ntmps108
    go_wp2_with (first | (go_at_call 147; refine (HB.out _).mono ?_; rintro e1 w1 ⟨rfl, rfl⟩) | (go_at_call 148; refine (HM.out _ HT.out).mono ?_; rintro e2 w2 ⟨rfl, hb2⟩; have B2 := Lib.hid hb2; clear hb2))
    go_ret2
    exact ⟨rfl, B2.out⟩
  · rw [plI_none (by have e : tot true = 2350 := rfl; omega)]
    have HB := Lib.hid (fun w2 => below_no k 2350 w2 (by omega))
    clear hk hT
    go_enter Tryz.func108, Tryz.ntmps108
    go_wp2_with (go_at_call 147; refine (HB.out _).mono ?_; rintro e1 w1 ⟨rfl, rfl⟩)
    go_ret2
    exact ⟨rfl, Below.refl _ _⟩
/-- The search that Rank does. -/
theorem rankFind (n : Nat) (w : World) (hn : n < 11172) (hT : pt.Tabs w) (b : Nat) (hb : b < w.heap.size) (hc : w.cell? ⟨b, 0, none⟩ = some (.int .i32 (44032 + (n : Int)))) :
    Calls Tryz.prog 132 #[.int .i64 2350, .func (.func 181) #[] #[.pointer (some ⟨b, 0, none⟩)]] w fun e w' => e = .returned (.tuple #[.int .i64 ((rk true n : Nat) : Int), .bool (inB n)]) ∧ Below w.heap.size w w' := by
  have eg : ∀ args w, (callFunc 181 args).run Tryz.prog w = .ok (.enter 181 args) w := enters_of Tryz.func181 (by kernel_rfl) rfl
  have hcon := sortFind_any 181 #[.pointer (some ⟨b, 0, none⟩)] (fun h => cm3 (44032 + (n : Int)) ((kth h true : Nat) : Int)) 2350 w (by omega) eg
    (fun W hW h hh => (rankC_any h _ b W hh (Nat.lt_of_lt_of_le hb hW.size) ((hW.cell (p := ⟨b, 0, none⟩) hb).trans hc) (hT.below hW)).mono fun e w' q => ⟨q.1, hW.trans (q.2.mono hW.size)⟩)
    (fun i j hij hj hi => by
      by_cases he : i = j
      · rw [← he]; exact hi
      · obtain ⟨m, m1, m2, m3, m4, _⟩ := memC_kth (k := i) (by omega)
        obtain ⟨m', n1, n2, n3, n4, _⟩ := memC_kth (k := j) hj
        have hlt : m < m' := by
          apply Classical.byContradiction
          intro hge
          have := rk_mono true m' (m - m')
          rw [show m' + (m - m') = m by omega] at this
          omega
        have h1 : ¬ (((kth i true : Nat) : Int) < 44032 + (n : Int)) := fun h => by have := cm3_neg.2 h; omega
        have h2 : ¬ (0 < cm3 (44032 + (n : Int)) ((kth j true : Nat) : Int)) := fun h => by have := cm3_neg.1 h; omega
        omega)
  refine hcon.mono ?_
  rintro e w' ⟨i, h1, h2, h3, rfl, h5⟩
  have hf := find_rank hn h1 (fun j hj => by have := cm3_neg.1 (h2 j hj); omega) (fun j hj hj2 => by
    have h4 : ¬ (0 < cm3 (44032 + (n : Int)) ((kth j true : Nat) : Int)) := fun h => by have := h3 j hj hj2; omega
    apply Classical.byContradiction
    intro h6
    exact h4 (cm3_neg.2 (by omega)))
  refine ⟨?_, h5⟩
  have hd : decide (i < 2350 ∧ cm3 (44032 + (n : Int)) ((kth i true : Nat) : Int) = 0) = inB n := by
    rw [Bool.eq_iff_iff, decide_eq_true_iff, ← hf.2, cm3_zero]
    constructor
    · rintro ⟨a, b⟩; exact ⟨a, by omega⟩
    · rintro ⟨a, b⟩; exact ⟨a, by omega⟩
  rw [hd, ← hf.1]
set_option maxRecDepth 100000 in
set_option maxHeartbeats 2000000 in
theorem rank_syl (n : Nat) (w : World) (hT : pt.Tabs w) (hn : n < 11172) : Calls Tryz.prog 152 #[.int .i32 (44032 + (n : Int))] w fun e w' => e = .returned (.tuple #[.int .i64 ((rk (inB n) n : Nat) : Int), .bool (inB n), .bool true]) ∧ Below w.heap.size w w' := by
  obtain ⟨p, hp⟩ : ∃ p : Int, p = 44032 + (n : Int) := ⟨_, rfl⟩
  have HF : Hid (Calls Tryz.prog 132 #[.int .i64 2350, .func (.func 181) #[] #[.pointer (some ⟨w.heap.size, 0, none⟩)]] (w.alloc (.cells #[.int .i32 p] 21)) fun e w' => e = .returned (.tuple #[.int .i64 ((rk true n : Nat) : Int), .bool (inB n)]) ∧ Below w.heap.size w w' ∧ w'.cell? ⟨w.heap.size, 0, none⟩ = some (.int .i32 p)) := Lib.hid (by
    refine (rankFind n _ hn (hT.below ((Below.refl _ w).alloc (Nat.le_refl _) _)) w.heap.size (by simp) (by simp [hp])).mono ?_
    rintro e w' ⟨h1, h2⟩
    refine ⟨h1, ((Below.refl _ w).alloc (Nat.le_refl _) _).trans (h2.mono (by simp)), ?_⟩
    exact (h2.cell (p := ⟨w.heap.size, 0, none⟩) (by simp)).trans (by simp))
  have g0 : 44032 ≤ p := by omega
  have g1 : p ≤ 55203 := by omega
  have hsum : rk true n + rk false n = n := cn_both 0 n
  have hle := rk_le true n
  rw [← hp]
  cases hb : inB n with
  | true =>
    rw [hb] at HF
    generalize ((rk true n : Nat) : Int) = R at *
    clear hT hn hp hsum hle hb
    go_enter Tryz.func152, Tryz.ntmps152
    go_wp2_with (go_at_call 132; refine (HF.out).mono ?_; rintro e2 w2 ⟨rfl, hb2, hc2⟩; have B2 := Lib.hid hb2; clear hb2)
    go_ret3
    exact ⟨rfl, B2.out⟩
  | false =>
    rw [hb] at HF
    have hle2 : rk true n ≤ 2350 := by
      have h1 := rk_mono true n (11172 - n)
      rw [show n + (11172 - n) = 11172 by omega] at h1
      have h2 := tot_in
      omega
    have HA : Hid (∀ w2, Calls Tryz.prog 180 #[.int .i32 p, .int .i64 ((rk true n : Nat) : Int)] w2 fun e w' => e = .returned (.int .i64 ((rk false n : Nat) : Int)) ∧ w2 = w') := Lib.hid (fun w2 => by
      have := ahead_any p ((rk true n : Nat) : Int) w2 g0 g1 (by omega) (by omega)
      rw [show p - 44032 - ((rk true n : Nat) : Int) = ((rk false n : Nat) : Int) by omega] at this
      exact this)
    generalize ((rk true n : Nat) : Int) = R at *
    generalize ((rk false n : Nat) : Int) = R2 at *
    clear hT hn hp hsum hle hb hle2
    go_enter Tryz.func152, Tryz.ntmps152
    go_wp2_with (first | (go_at_call 132; refine (HF.out).mono ?_; rintro e2 w2 ⟨rfl, hb2, hc2⟩; have B2 := Lib.hid hb2; clear hb2) | (go_at_call 180; refine (HA.out _).mono ?_; rintro e3 w3 ⟨rfl, rfl⟩))
    go_ret3
    exact ⟨rfl, B2.out⟩
end Go.Proofs.YtbgbgigpcegenaaGreatDoor.wa
namespace Go.Proofs.YtbgbgigpcegenaaGreatDoor.oct
open Go.RowKit
theorem ret_int {k : IntKind} {a b : Int} (h : a = b) : Ending.returned (.int k a) = .returned (.int k b) := by rw [h]

theorem fault_nil (w : World) : Calls Tryz.prog 77 #[.pointer none] w fun e w' => e = .returned (.agg #[.int .i64 8, .int .i64 0]) ∧ Below w.heap.size w w' := by
  go_enter Tryz.func77, Tryz.ntmps77
  go_wp2
  exact bodyPost_ret (v := .agg #[.int .i64 8, .int .i64 0]) (by simp [results, Tryz.results77, go_sem]) rfl ⟨rfl, (Below.refl _ _).alloc (Nat.le_refl _) _⟩
theorem bad_any (n at' : Int) (w : World) : Calls Tryz.prog 11 #[.agg #[.int .i64 n, .int .i64 at']] w fun e w' => e = .returned (.bool (n != 0)) ∧ Below w.heap.size w w' := by
  go_enter Tryz.func11, Tryz.ntmps11
  go_wp2
  go_ret
  exact ⟨rfl, (Below.refl _ _).alloc (Nat.le_refl _) _⟩
theorem fault_some (w : World) (b : Nat) (e at' : Int) (hb : b < w.heap.size) (h3 : w.cell? ⟨b, 3, none⟩ = some (.int .i64 e)) (h4 : w.cell? ⟨b, 4, none⟩ = some (.int .i64 at')) : Calls Tryz.prog 77 #[.pointer (some ⟨b, 0, none⟩)] w fun e' w' => e' = .returned (.agg #[.int .i64 e, .int .i64 at']) ∧ Below w.heap.size w w' := by
  go_enter Tryz.func77, Tryz.ntmps77
  go_wp2
  exact bodyPost_ret (v := .agg #[.int .i64 e, .int .i64 at']) (by simp [results, Tryz.results77, go_sem]) rfl ⟨rfl, (Below.refl _ _).alloc (Nat.le_refl _) _⟩

theorem stopped_nil (w : World) : Calls Tryz.prog 74 #[.pointer none] w fun e w' => e = .returned (.bool true) ∧ Below w.heap.size w w' := by
  go_enter Tryz.func74, Tryz.ntmps74
  go_wp2_with (first | (go_at_call 77; refine (fault_nil _).mono ?_; rintro e1 w1 ⟨rfl, hb1⟩) | (go_at_call 11; refine (bad_any _ _ _).mono ?_; rintro e2 w2 ⟨rfl, hb2⟩))
  go_ret
  exact ⟨rfl, hb1.trans (hb2.mono hb1.size)⟩
theorem stopped_some (w : World) (b : Nat) (e at' : Int) (hb : b < w.heap.size) (h3 : w.cell? ⟨b, 3, none⟩ = some (.int .i64 e)) (h4 : w.cell? ⟨b, 4, none⟩ = some (.int .i64 at')) : Calls Tryz.prog 74 #[.pointer (some ⟨b, 0, none⟩)] w fun e' w' => e' = .returned (.bool (e != 0)) ∧ Below w.heap.size w w' := by
  go_enter Tryz.func74, Tryz.ntmps74
  go_wp2_with (first | (go_at_call 77; refine (fault_some _ _ _ _ hb h3 h4).mono ?_; rintro e1 w1 ⟨rfl, hb1⟩) | (go_at_call 11; refine (bad_any _ _ _).mono ?_; rintro e2 w2 ⟨rfl, hb2⟩))
  go_ret
  exact ⟨rfl, hb1.trans (hb2.mono hb1.size)⟩

theorem bounded_any (n : Int) (w : World) (h0 : -9223372036854775808 ≤ n) (h1 : n ≤ 9223372036854775807) : Calls Tryz.prog 123 #[.int .i64 n] w fun e w' => e = .returned (.int .i64 (min (max n 0) 8)) ∧ w = w' := by
  go_enter Tryz.func123, Tryz.ntmps123
  go_wp2
  all_goals
    go_ret
    exact ⟨ret_int (by omega), rfl⟩
end Go.Proofs.YtbgbgigpcegenaaGreatDoor.oct
namespace Go.Proofs.YtbgbgigpcegenaaGreatDoor.oct
open Go.RowKit
theorem int_eq {k : IntKind} {a b : Int} (h : a = b) : Value.int k a = Value.int k b := by rw [h]
def num (l : List UInt8) : Nat := l.foldl (fun a c => a * 256 + c.toNat) 0
theorem num_snoc (l : List UInt8) (c : UInt8) : num (l ++ [c]) = num l * 256 + c.toNat := by simp [num]
theorem num_lt_aux : ∀ (n : Nat) (l : List UInt8), l.length = n → num l < 256 ^ n
  | 0, l, h => by rw [List.length_eq_zero_iff.1 h]; simp [num]
  | n + 1, l, h => by
    have hne : l ≠ [] := by intro e; rw [e] at h; simp at h
    have := num_lt_aux n l.dropLast (by simp [h])
    rw [← List.dropLast_concat_getLast hne, num_snoc, Nat.pow_succ]
    have := (l.getLast hne).toNat_lt
    omega
theorem num_lt (l : List UInt8) : num l < 256 ^ l.length := num_lt_aux _ l rfl
theorem num_le (l : List UInt8) (k : Nat) (h : l.length ≤ k) : num l < 256 ^ k := Nat.lt_of_lt_of_le (num_lt l) (Nat.pow_le_pow_right (by omega) h)
theorem pow_le7 (k : Nat) (h : k ≤ 7) : 256 ^ k ≤ 72057594037927936 := (Nat.pow_le_pow_right (n := 256) (by omega) h : 256 ^ k ≤ 256 ^ 7)
theorem or_add (a b : Nat) (i : Nat) (h : b < 2 ^ i) : (a * 2 ^ i) ||| b = a * 2 ^ i + b := by
  rw [Nat.mul_comm]; exact (Nat.two_pow_add_eq_or_of_lt h a).symm
theorem or_step (a : Nat) (c : UInt8) (h : a < 72057594037927936) : bits BinOp.or IntKind.u64 (IntKind.u64.wrap ((a : Int) * 256)) (IntKind.u64.wrap (c.toNat : Int)) = ((a * 256 + c.toNat : Nat) : Int) := by
  have hc := c.toNat_lt
  have e1 : IntKind.u64.wrap ((a : Int) * 256) = ((a * 256 : Nat) : Int) := by rw [IntWalk.u64_in _ (by omega)]; simp
  have e2 : IntKind.u64.wrap (c.toNat : Int) = ((c.toNat : Nat) : Int) := by rw [IntWalk.u64_in _ (by omega)]
  rw [e1, e2, u64_or_nat _ _ (by omega) (by omega), show a * 256 = a * 2 ^ 8 from rfl, or_add _ _ 8 (by omega)]
theorem take_snoc (s : ByteArray) (k : Nat) (h : k < s.size) : s.data.toList.take (k + 1) = s.data.toList.take k ++ [s[k]] := by
  rw [List.take_succ_eq_append_getElem (by simpa using h)]; rfl
theorem rbig_of (p : Value) (n k : Int) (s : ByteArray) (R : World → Prop) (w : World) (h0 : -9223372036854775808 ≤ n) (h1 : n ≤ 9223372036854775807) (hk : min (max n 0) 8 = k) (hs : s.size ≤ 8)
    (ht : Calls Tryz.prog 122 #[p, .int .i64 k] w fun e w' => e = .returned (.string s) ∧ R w') :
    Calls Tryz.prog 76 #[p, .int .i64 n] w fun e w' => e = .returned (.int .u64 (num s.data.toList)) ∧ R w' := by
  have HK := Lib.hid hk
  have HT := Lib.hid ht
  clear hk ht
  go_enter Tryz.func76, Tryz.ntmps76
  go_wp2_with (first | (go_at_call 123; refine (bounded_any _ _ (by omega) (by omega)).mono ?_; rintro e1 w1 ⟨rfl, rfl⟩; rw [HK.out]) | (go_at_call 122; refine HT.out.mono ?_; rintro e2 w2 ⟨rfl, hR⟩))
  go_loop [5, 14] (fun n i => ∃ k : Nat, k ≤ s.size ∧ i = .int .i64 k ∧ n = .int .u64 (num (s.data.toList.take k))) (fun _ i => s.size - (intOf i).toNat)
  case atStart => exact ⟨0, Nat.zero_le _, rfl, rfl⟩
  case round =>
    obtain ⟨k, hk, rfl, rfl⟩ := hrel
    by_cases hlt : k < s.size
    · go_wp2
      go_round
      case rel => exact ⟨k + 1, by omega, by go_num, int_eq (by rw [or_step _ _ (Nat.lt_of_lt_of_le (num_le _ k (List.length_take_le _ _)) (pow_le7 k (by omega))), take_snoc s k hlt, num_snoc])⟩
      case measure => simp [intOf]; omega
    · go_wp2
      go_ret
      exact ⟨ret_int (by rw [List.take_of_length_le (by simp; omega)]), hR⟩
theorem drop_rev (s : ByteArray) (j : Nat) (h : j < s.size) : (s.data.toList.drop j).reverse = (s.data.toList.drop (j + 1)).reverse ++ [s[j]] := by
  rw [List.drop_eq_getElem_cons (by simpa using h), List.reverse_cons]; rfl
theorem rsmall_of (p : Value) (n k : Int) (s : ByteArray) (R : World → Prop) (w : World) (h0 : -9223372036854775808 ≤ n) (h1 : n ≤ 9223372036854775807) (hk : min (max n 0) 8 = k) (hs : s.size ≤ 8)
    (ht : Calls Tryz.prog 122 #[p, .int .i64 k] w fun e w' => e = .returned (.string s) ∧ R w') :
    Calls Tryz.prog 167 #[p, .int .i64 n] w fun e w' => e = .returned (.int .u64 (num s.data.toList.reverse)) ∧ R w' := by
  have HK := Lib.hid hk
  have HT := Lib.hid ht
  clear hk ht
  go_enter Tryz.func167, Tryz.ntmps167
  go_wp2_with (first | (go_at_call 123; refine (bounded_any _ _ (by omega) (by omega)).mono ?_; rintro e1 w1 ⟨rfl, rfl⟩; rw [HK.out]) | (go_at_call 122; refine HT.out.mono ?_; rintro e2 w2 ⟨rfl, hR⟩))
  go_loop [5, 7] (fun n i => ∃ j : Nat, j ≤ s.size ∧ i = .int .i64 ((j : Int) - 1) ∧ n = .int .u64 (num (s.data.toList.drop j).reverse)) (fun _ i => (intOf i + 1).toNat)
  case atStart => exact ⟨s.size, Nat.le_refl _, rfl, by rw [List.drop_of_length_le (by simp)]; rfl⟩
  case round =>
    obtain ⟨j, hj, rfl, rfl⟩ := hrel
    by_cases hlt : 0 < j
    · obtain ⟨j, rfl⟩ : ∃ i, j = i + 1 := ⟨j - 1, by omega⟩
      have hlt' : j < s.size := by omega
      clear hlt
      rw [show (((j + 1 : Nat) : Int) - 1) = (j : Int) from by omega]
      go_wp2
      go_round
      case rel => exact ⟨j, by omega, by go_num, int_eq (by rw [or_step _ _ (Nat.lt_of_lt_of_le (num_le _ 7 (by simp; omega)) (pow_le7 7 (by omega))), drop_rev s j hlt', num_snoc])⟩
      case measure => simp [intOf]
    · obtain rfl : j = 0 := by omega
      go_wp2
      go_ret
      exact ⟨ret_int rfl, hR⟩
theorem mem_at (s : ByteArray) (k : Nat) (h : k < s.size) : s[k] ∈ s.data.toList := List.getElem_mem (l := s.data.toList) (by simpa using h)
end Go.Proofs.YtbgbgigpcegenaaGreatDoor.oct
namespace Go.Proofs.YtbgbgigpcegenaaGreatDoor.oct
open Go.RowKit
set_option linter.unusedVariables false

/-- w' is w, but for new blocks, draws, and what stands in block b. -/
structure Upd (b : Nat) (w w' : World) : Prop where
  os : w'.os = w.os
  tape : w'.tape = w.tape
  output : w'.output = w.output
  size : w.heap.size ≤ w'.heap.size
  block : ∀ k, k < w.heap.size → k ≠ b → w'.heap[k]? = w.heap[k]?
theorem Upd.trans {b : Nat} {x y z : World} (h : Upd b x y) (k : Upd b y z) : Upd b x z :=
  ⟨k.os.trans h.os, k.tape.trans h.tape, k.output.trans h.output, Nat.le_trans h.size k.size, fun i hi hb => (k.block i (Nat.lt_of_lt_of_le hi h.size) hb).trans (h.block i hi hb)⟩
theorem Upd.of {b B : Nat} {w w' : World} (h : Below B w w') (hB : w.heap.size ≤ B) : Upd b w w' := ⟨h.os, h.tape, h.output, h.size, fun k hk _ => h.block k (by omega)⟩
theorem Upd.setCell {b : Nat} {x y : World} (h : Upd b x y) (o : Nat) (u : Value) : Upd b x (y.setCell ⟨b, o, none⟩ u) :=
  h.trans ⟨rfl, rfl, rfl, by simp [World.setCell], fun k _ hk => Below.heap_setCell _ _ _ _ (by simpa using hk)⟩
theorem Upd.below {b B : Nat} {x y z : World} (h : Below B x y) (k : Upd b y z) (hB : B ≤ b) (hs : B ≤ y.heap.size) : Below B x z :=
  h.trans ⟨k.os, k.tape, k.output, k.size, fun i hi => k.block i (by omega) (by omega)⟩
theorem Upd.cell {b : Nat} {w w' : World} (h : Upd b w w') {p : Addr} (h1 : p.block < w.heap.size) (h2 : p.block ≠ b) : w'.cell? p = w.cell? p := World.cell?_of_block (w := w) (h.block p.block h1 h2)
theorem Upd.frozen {b : Nat} {w w' : World} (h : Upd b w w') {p : Addr} (h1 : p.block < w.heap.size) (h2 : p.block ≠ b) : w'.frozen? p = w.frozen? p := World.frozen?_of_block (w := w) (h.block p.block h1 h2)

/-- Block b is a reader of text t, at k, its base bs, its fault e at at'. -/
structure Rd (w : World) (b : Nat) (t : ByteArray) (k bs e at' : Int) : Prop where
  lt : b < w.heap.size
  c0 : w.cell? ⟨b, 0, none⟩ = some (.string t)
  c1 : w.cell? ⟨b, 1, none⟩ = some (.int .i64 k)
  c2 : w.cell? ⟨b, 2, none⟩ = some (.int .i64 bs)
  c3 : w.cell? ⟨b, 3, none⟩ = some (.int .i64 e)
  c4 : w.cell? ⟨b, 4, none⟩ = some (.int .i64 at')
  f1 : w.frozen? ⟨b, 1, none⟩ = false
  f3 : w.frozen? ⟨b, 3, none⟩ = false
  f4 : w.frozen? ⟨b, 4, none⟩ = false
theorem Rd.below {w w' : World} {b : Nat} {t : ByteArray} {k bs e at' : Int} {B : Nat} (h : Rd w b t k bs e at') (hb : Below B w w') (hB : b < B) : Rd w' b t k bs e at' := by
  have H : ∀ o, w'.cell? ⟨b, o, none⟩ = w.cell? ⟨b, o, none⟩ := fun o => hb.cell (p := ⟨b, o, none⟩) hB
  have F : ∀ o, w'.frozen? ⟨b, o, none⟩ = w.frozen? ⟨b, o, none⟩ := fun o => hb.frozen (p := ⟨b, o, none⟩) hB
  exact ⟨Nat.lt_of_lt_of_le h.lt hb.size, (H 0).trans h.c0, (H 1).trans h.c1, (H 2).trans h.c2, (H 3).trans h.c3, (H 4).trans h.c4, (F 1).trans h.f1, (F 3).trans h.f3, (F 4).trans h.f4⟩
theorem left_on (w : World) (b : Nat) (t : ByteArray) (k : Nat) (bs at' : Int) (h : Rd w b t k bs 0 at') (hk : k ≤ t.size) (ht : t.size ≤ maxLen) :
    Calls Tryz.prog 40 #[.pointer (some ⟨b, 0, none⟩)] w fun e' w' => e' = .returned (.int .i64 ((t.size - k : Nat) : Int)) ∧ Below w.heap.size w w' := by
  unfold maxLen at ht
  have H := Lib.hid h
  have hlt := h.lt
  clear h
  go_enter Tryz.func40, Tryz.ntmps40
  go_wp2_with (go_at_call 74; refine (stopped_some _ _ 0 at' H.out.lt H.out.c3 H.out.c4).mono ?_; rintro e1 w1 ⟨rfl, hb1⟩; have c0 := (H.out.below hb1 hlt).c0; have c1 := (H.out.below hb1 hlt).c1)
  go_quiet (fail)
  go_wp2
  go_ret
  exact ⟨ret_int (by omega), below_drewN hb1 _⟩
theorem left_l (w : World) (b : Nat) (t : ByteArray) (k l : Nat) (bs at' : Int) (h : Rd w b t k bs 0 at') (hk : k + l = t.size) (ht : t.size ≤ maxLen) :
    Calls Tryz.prog 40 #[.pointer (some ⟨b, 0, none⟩)] w fun e' w' => e' = .returned (.int .i64 (l : Int)) ∧ Below w.heap.size w w' := by
  have := left_on w b t k bs at' h (by omega) ht
  rwa [show t.size - k = l from by omega] at this
/-- Where a byte of the text stands in the greater one. -/
def plc (bs n : Int) : Int := if 9223372036854775807 - n < bs then 9223372036854775807 else bs + n
theorem plc_small {bs n : Int} (h : bs + n ≤ 9223372036854775807) : plc bs n = bs + n := by unfold plc; rw [if_neg (by omega)]
theorem place_on (w : World) (b : Nat) (bs n : Int) (hb : b < w.heap.size) (h2 : w.cell? ⟨b, 2, none⟩ = some (.int .i64 bs)) (h0 : 0 ≤ bs) (h1 : bs ≤ 9223372036854775807) (hn : 0 ≤ n) (hn' : n ≤ 9223372036854775807) :
    Calls Tryz.prog 75 #[.pointer (some ⟨b, 0, none⟩), .int .i64 n] w fun e' w' => e' = .returned (.int .i64 (plc bs n)) ∧ w = w' := by
  by_cases hh : 9223372036854775807 - n < bs
  · have hp : Hid (plc bs n = 9223372036854775807) := Lib.hid (by unfold plc; rw [if_pos hh])
    go_enter Tryz.func75, Tryz.ntmps75
    go_wp2
    go_ret
    exact ⟨ret_int hp.out.symm, rfl⟩
  · have hp : Hid (plc bs n = bs + n) := Lib.hid (by unfold plc; rw [if_neg hh])
    go_enter Tryz.func75, Tryz.ntmps75
    go_wp2
    go_ret
    exact ⟨ret_int hp.out.symm, rfl⟩
theorem at_on (w : World) (b : Nat) (t : ByteArray) (k : Nat) (bs e at' : Int) (h : Rd w b t k bs e at') (hk : k ≤ t.size) (ht : t.size ≤ maxLen) (h0 : 0 ≤ bs) (h1 : bs ≤ 9223372036854775807) :
    Calls Tryz.prog 41 #[.pointer (some ⟨b, 0, none⟩)] w fun e' w' => e' = .returned (.int .i64 (plc bs k)) ∧ w = w' := by
  unfold maxLen at ht
  have H := Lib.hid h
  have c1 := h.c1
  have hlt := h.lt
  clear h
  go_enter Tryz.func41, Tryz.ntmps41
  go_wp2_with (go_at_call 75; refine (place_on _ _ _ _ H.out.lt H.out.c2 h0 h1 (by omega) (by omega)).mono ?_; rintro e1 w1 ⟨rfl, rfl⟩)
  go_ret
  exact ⟨rfl, rfl⟩
theorem rd_fault {w : World} {b : Nat} {t : ByteArray} {k bs e at' c n : Int} (h : Rd w b t k bs e at') : Rd ((w.setCell ⟨b, 3, none⟩ (.int .i64 c)).setCell ⟨b, 4, none⟩ (.int .i64 n)) b t k bs c n := by
  have hc4 : (w.setCell ⟨b, 3, none⟩ (.int .i64 c)).cell? ⟨b, 4, none⟩ = some (.int .i64 at') := by rw [World.cell?_setCell_other _ _ _ _ (by simp)]; exact h.c4
  refine ⟨by simpa [World.setCell] using h.lt, ?_, ?_, ?_, ?_, World.cell?_setCell_same _ _ _ hc4, by simpa using h.f1, by simpa using h.f3, by simpa using h.f4⟩
  · rw [World.cell?_setCell_other _ _ _ _ (by simp), World.cell?_setCell_other _ _ _ _ (by simp)]; exact h.c0
  · rw [World.cell?_setCell_other _ _ _ _ (by simp), World.cell?_setCell_other _ _ _ _ (by simp)]; exact h.c1
  · rw [World.cell?_setCell_other _ _ _ _ (by simp), World.cell?_setCell_other _ _ _ _ (by simp)]; exact h.c2
  · rw [World.cell?_setCell_other _ _ _ _ (by simp)]; exact World.cell?_setCell_same _ _ _ h.c3
theorem rd_read {w : World} {b : Nat} {t : ByteArray} {k bs e at' n : Int} (h : Rd w b t k bs e at') : Rd (w.setCell ⟨b, 1, none⟩ (.int .i64 n)) b t n bs e at' := by
  refine ⟨by simpa [World.setCell] using h.lt, ?_, World.cell?_setCell_same _ _ _ h.c1, ?_, ?_, ?_, by simpa using h.f1, by simpa using h.f3, by simpa using h.f4⟩
  · rw [World.cell?_setCell_other _ _ _ _ (by simp)]; exact h.c0
  · rw [World.cell?_setCell_other _ _ _ _ (by simp)]; exact h.c2
  · rw [World.cell?_setCell_other _ _ _ _ (by simp)]; exact h.c3
  · rw [World.cell?_setCell_other _ _ _ _ (by simp)]; exact h.c4
theorem fail_on (w : World) (b : Nat) (t : ByteArray) (k bs at' c n : Int) (h : Rd w b t k bs 0 at') (hc : (c == 0) = false) :
    Calls Tryz.prog 190 #[.pointer (some ⟨b, 0, none⟩), .int .i64 c, .int .i64 n] w fun e' w' => e' = .returned (.tuple #[]) ∧ Rd w' b t k bs c n ∧ Upd b w w' := by
  have H := Lib.hid h
  have hlt := h.lt
  clear h
  go_enter Tryz.func190, Tryz.ntmps190
  go_wp2_with (go_at_call 74; refine (stopped_some _ _ 0 at' H.out.lt H.out.c3 H.out.c4).mono ?_; rintro e1 w1 ⟨rfl, hb1⟩; have c3 := (H.out.below hb1 hlt).c3; have c4 := (H.out.below hb1 hlt).c4; have f3 := (H.out.below hb1 hlt).f3; have f4 := (H.out.below hb1 hlt).f4)
  go_end0
  exact ⟨rfl, rd_fault (H.out.below hb1 hlt), ((Upd.of hb1 (Nat.le_refl _)).setCell _ _).setCell _ _⟩
theorem short_on (w : World) (b : Nat) (t : ByteArray) (k bs at' : Int) (h : Rd w b t k bs 0 at') (ht : t.size ≤ maxLen) (h0 : 0 ≤ bs) (h1 : bs ≤ 9223372036854775807) :
    Calls Tryz.prog 164 #[.pointer (some ⟨b, 0, none⟩)] w fun e' w' => e' = .returned (.tuple #[]) ∧ Rd w' b t k bs 1 (plc bs t.size) ∧ Upd b w w' := by
  unfold maxLen at ht
  have H := Lib.hid h
  have c0 := h.c0
  clear h
  go_enter Tryz.func164, Tryz.ntmps164
  go_wp2_with (first | (go_at_call 75; refine (place_on _ _ _ _ H.out.lt H.out.c2 h0 h1 (by omega) (by omega)).mono ?_; rintro e1 w1 ⟨rfl, rfl⟩) | (go_at_call 190; refine (fail_on _ _ _ _ _ _ _ _ H.out rfl).mono ?_; rintro e2 w2 ⟨rfl, hR, hU⟩))
  go_end0
  exact ⟨rfl, hR, hU⟩
theorem ret_str {a b : ByteArray} (h : a = b) : Ending.returned (.string a) = .returned (.string b) := by rw [h]
theorem slice_km (t : ByteArray) (k m : Nat) (h : k + m ≤ t.size) (wx : World) : (Instr.slice 9 (.string t) (some (.int .i64 (k : Int))) (some (.int .i64 ((k : Int) + (m : Int)))) none).run Tryz.prog wx = .ok (.string (t.extract k (k + m))) wx := by
  rw [run_slice_string _ _ _ _ _ _ _ Tryz.underlying9 (by omega) (by omega) (by omega)]
  rfl
theorem peek_m (w : World) (b : Nat) (t : ByteArray) (k m l : Nat) (bs at' n : Int) (h : Rd w b t k bs 0 at') (hk : k + l = t.size) (ht : t.size ≤ maxLen) (hn : n < 0 ∧ m = 0 ∨ n = m ∧ m ≤ l ∨ (l : Int) < n ∧ m = l) :
    Calls Tryz.prog 165 #[.pointer (some ⟨b, 0, none⟩), .int .i64 n] w fun e' w' => e' = .returned (.string (t.extract k (k + m))) ∧ Below w.heap.size w w' := by
  unfold maxLen at ht
  have H := Lib.hid h
  have HK := Lib.hid hk
  have hlt := h.lt
  have hlb : k + l ≤ t.size := by omega
  have hlb' : l ≤ t.size := by omega
  have hk' : k ≤ t.size := by omega
  clear h hk
  rcases hn with ⟨hn, hm⟩ | ⟨hn, hm⟩ | ⟨hn, hm⟩
  · subst hm
    go_enter Tryz.func165, Tryz.ntmps165
    go_wp2_with (first | (go_at_call 74; refine (stopped_some _ _ 0 at' H.out.lt H.out.c3 H.out.c4).mono ?_; rintro e1 w1 ⟨rfl, hb1⟩; have h1 := H.out.below hb1 hlt) | (go_at_call 40; refine (left_l _ _ _ _ _ _ _ (H.out.below hb1 hlt) HK.out (by unfold maxLen; exact ht)).mono ?_; rintro e1 w2 ⟨rfl, hb2⟩; have c0 := (H.out.below (hb1.trans (hb2.mono hb1.size)) hlt).c0; have c1 := (H.out.below (hb1.trans (hb2.mono hb1.size)) hlt).c1))
    go_quiet (fail)
    go_wp2
    go_ret
    exact ⟨ret_str (by simp), below_drewN (hb1.trans (hb2.mono hb1.size)) _⟩
  · subst hn
    have hml : (m : Int) ≤ (l : Int) := by omega
    go_enter Tryz.func165, Tryz.ntmps165
    go_wp2_with (first | (go_at_call 74; refine (stopped_some _ _ 0 at' H.out.lt H.out.c3 H.out.c4).mono ?_; rintro e1 w1 ⟨rfl, hb1⟩; have h1 := H.out.below hb1 hlt) | (go_at_call 40; refine (left_l _ _ _ _ _ _ _ (H.out.below hb1 hlt) HK.out (by unfold maxLen; exact ht)).mono ?_; rintro e1 w2 ⟨rfl, hb2⟩; have c0 := (H.out.below (hb1.trans (hb2.mono hb1.size)) hlt).c0; have c1 := (H.out.below (hb1.trans (hb2.mono hb1.size)) hlt).c1))
    have b1 : (k : Int) ≤ (k : Int) + (m : Int) := by omega
    have b2 : k + m ≤ t.size := by omega
    have b3 : (0 : Int) ≤ (k : Int) + (m : Int) := by omega
    have e2 : ((k : Int) + (m : Int)).toNat = k + m := by omega
    have e1 : IntKind.i64.wrap ((k : Int) + (m : Int)) = (k : Int) + (m : Int) := IntWalk.i64_in _ (by omega)
    have hsl := slice_km t k m (by omega)
    clear b1 b3 e2
    go_quiet (fail)
    clear e1 hsl
    go_wp2
    go_ret
    exact ⟨ret_str rfl, below_drewN (hb1.trans (hb2.mono hb1.size)) _⟩
  · have hml : ¬ n < 0 := by omega
    subst hm
    go_enter Tryz.func165, Tryz.ntmps165
    go_wp2_with (first | (go_at_call 74; refine (stopped_some _ _ 0 at' H.out.lt H.out.c3 H.out.c4).mono ?_; rintro e1 w1 ⟨rfl, hb1⟩; have h1 := H.out.below hb1 hlt) | (go_at_call 40; refine (left_l _ _ _ _ _ _ _ (H.out.below hb1 hlt) HK.out (by unfold maxLen; exact ht)).mono ?_; rintro e1 w2 ⟨rfl, hb2⟩; have c0 := (H.out.below (hb1.trans (hb2.mono hb1.size)) hlt).c0; have c1 := (H.out.below (hb1.trans (hb2.mono hb1.size)) hlt).c1))
    have b1 : (k : Int) ≤ (k : Int) + (m : Int) := by omega
    have b3 : (0 : Int) ≤ (k : Int) + (m : Int) := by omega
    have e2 : ((k : Int) + (m : Int)).toNat = k + m := by omega
    have e1 : IntKind.i64.wrap ((k : Int) + (m : Int)) = (k : Int) + (m : Int) := IntWalk.i64_in _ (by omega)
    have hsl := slice_km t k m (by omega)
    clear b1 b3 e2
    go_quiet (fail)
    clear e1 hsl
    go_wp2
    go_ret
    exact ⟨ret_str rfl, below_drewN (hb1.trans (hb2.mono hb1.size)) _⟩
theorem take_ok (w : World) (b : Nat) (t : ByteArray) (k n l : Nat) (bs at' : Int) (h : Rd w b t k bs 0 at') (hk : k + l = t.size) (hn : n ≤ l) (ht : t.size ≤ maxLen) :
    Calls Tryz.prog 122 #[.pointer (some ⟨b, 0, none⟩), .int .i64 n] w fun e' w' => e' = .returned (.string (t.extract k (k + n))) ∧ Rd w' b t ((k + n : Nat) : Int) bs 0 at' ∧ Upd b w w' := by
  have ht' := ht
  unfold maxLen at ht
  have H := Lib.hid h
  have HK := Lib.hid hk
  have hlt := h.lt
  have hk' : k ≤ t.size := by omega
  have hnl : (n : Int) ≤ (l : Int) := by omega
  have hkn : k + n ≤ t.size := by omega
  clear h hk
  go_enter Tryz.func122, Tryz.ntmps122
  go_wp2_with (first | (go_at_call 74; refine (stopped_some _ _ 0 at' H.out.lt H.out.c3 H.out.c4).mono ?_; rintro e1 w1 ⟨rfl, hb1⟩; have h1 := Lib.hid (H.out.below hb1 hlt); have l1 := hb1.size) | (go_at_call 40; refine (left_l _ _ _ _ _ _ _ h1.out HK.out ht').mono ?_; rintro e1 w2 ⟨rfl, hb2⟩; have h2 := Lib.hid (h1.out.below hb2 (Nat.lt_of_lt_of_le hlt l1)); have l2 := hb2.size) | (go_at_call 165; refine (peek_m _ _ _ _ n _ _ _ _ h2.out HK.out ht' (Or.inr (Or.inl ⟨rfl, hn⟩))).mono ?_; rintro e1 w3 ⟨rfl, hb3⟩; have h3 := Lib.hid (h2.out.below hb3 (by omega)); have c1 := h3.out.c1; have f1 := h3.out.f1))
  go_ret
  exact ⟨rfl, rd_read h3.out, ((((Upd.of hb1 (Nat.le_refl _)).trans (Upd.of hb2 (Nat.le_refl _))).trans (Upd.of hb3 (Nat.le_refl _)))).setCell _ _⟩
end Go.Proofs.YtbgbgigpcegenaaGreatDoor.oct
namespace Go.Proofs.YtbgbgigpcegenaaGreatDoor.oct
open Go.RowKit
set_option linter.unusedVariables false
theorem take_short (w : World) (b : Nat) (t : ByteArray) (k l : Nat) (n bs at' : Int) (h : Rd w b t k bs 0 at') (hk : k + l = t.size) (hn : n < 0 ∨ (l : Int) < n) (ht : t.size ≤ maxLen) (z0 : 0 ≤ bs) (z1 : bs ≤ 9223372036854775807) :
    Calls Tryz.prog 122 #[.pointer (some ⟨b, 0, none⟩), .int .i64 n] w fun e' w' => e' = .returned (.string ⟨#[]⟩) ∧ Rd w' b t k bs 1 (plc bs t.size) ∧ Upd b w w' := by
  have ht' := ht
  unfold maxLen at ht
  have H := Lib.hid h
  have HK := Lib.hid hk
  have hlt := h.lt
  have hk' : k ≤ t.size := by omega
  clear h hk
  rcases hn with hn | hn
  · go_enter Tryz.func122, Tryz.ntmps122
    go_wp2_with (first | (go_at_call 74; refine (stopped_some _ _ 0 at' H.out.lt H.out.c3 H.out.c4).mono ?_; rintro e1 w1 ⟨rfl, hb1⟩; have h1 := Lib.hid (H.out.below hb1 hlt)) | (go_at_call 164; refine (short_on _ _ _ _ _ _ h1.out ht' z0 z1).mono ?_; rintro e2 w2 ⟨rfl, hR, hU⟩))
    go_ret
    exact ⟨rfl, hR, (Upd.of hb1 (Nat.le_refl _)).trans hU⟩
  · have hn' : ¬ n < 0 := by omega
    go_enter Tryz.func122, Tryz.ntmps122
    go_wp2_with (first | (go_at_call 74; refine (stopped_some _ _ 0 at' H.out.lt H.out.c3 H.out.c4).mono ?_; rintro e1 w1 ⟨rfl, hb1⟩; have h1 := Lib.hid (H.out.below hb1 hlt); have l1 := hb1.size) | (go_at_call 40; refine (left_l _ _ _ _ _ _ _ h1.out HK.out ht').mono ?_; rintro e1 w2 ⟨rfl, hb2⟩; have h2 := Lib.hid (h1.out.below hb2 (Nat.lt_of_lt_of_le hlt l1))) | (go_at_call 164; refine (short_on _ _ _ _ _ _ h2.out ht' z0 z1).mono ?_; rintro e2 w3 ⟨rfl, hR, hU⟩))
    go_ret
    exact ⟨rfl, hR, ((Upd.of hb1 (Nat.le_refl _)).trans (Upd.of hb2 (Nat.le_refl _))).trans hU⟩
theorem rd_new (w : World) (t : ByteArray) (bs : Int) : Rd (w.alloc (.cells #[.string t, .int .i64 0, .int .i64 bs, .int .i64 0, .int .i64 0] 102)) w.heap.size t 0 bs 0 0 := by
  have F : ∀ o, (w.alloc (.cells #[.string t, .int .i64 0, .int .i64 bs, .int .i64 0, .int .i64 0] 102)).frozen? ⟨w.heap.size, o, none⟩ = false := fun o => by
    have := World.frozen?_alloc_mark w #[.string t, .int .i64 0, .int .i64 bs, .int .i64 0, .int .i64 0] 102 0 0 o
    rw [this]; simp
  refine ⟨by simp, ?_, ?_, ?_, ?_, ?_, F _, F _, F _⟩ <;> rw [World.cell?_alloc_mark] <;> rfl
theorem inner_any (t : ByteArray) (bs : Int) (w : World) :
    Calls Tryz.prog 73 #[.string t, .int .i64 bs] w fun e' w' => e' = .returned (.pointer (some ⟨w.heap.size, 0, none⟩)) ∧ Rd w' w.heap.size t 0 (max bs 0) 0 0 ∧ Below w.heap.size w w' := by
  by_cases h0 : bs < 0
  · have hm : Hid (max bs 0 = 0) := Lib.hid (by omega)
    rw [hm.out]
    go_enter Tryz.func73, Tryz.ntmps73
    go_wp2
    go_ret
    exact ⟨rfl, rd_new w t 0, (Below.refl _ _).alloc (Nat.le_refl _) _⟩
  · have hm : Hid (max bs 0 = bs) := Lib.hid (by omega)
    rw [hm.out]
    go_enter Tryz.func73, Tryz.ntmps73
    go_wp2
    go_ret
    exact ⟨rfl, rd_new w t bs, (Below.refl _ _).alloc (Nat.le_refl _) _⟩
theorem read_any (t : ByteArray) (w : World) :
    Calls Tryz.prog 39 #[.string t] w fun e' w' => e' = .returned (.pointer (some ⟨w.heap.size, 0, none⟩)) ∧ Rd w' w.heap.size t 0 0 0 0 ∧ Below w.heap.size w w' := by
  go_enter Tryz.func39, Tryz.ntmps39
  go_wp2_with (go_at_call 73; refine (inner_any t 0 _).mono ?_; rintro e1 w1 ⟨rfl, hR, hb⟩)
  go_ret
  exact ⟨rfl, hR, hb⟩
end Go.Proofs.YtbgbgigpcegenaaGreatDoor.oct
namespace Go.Proofs.YtbgbgigpcegenaaGreatDoor.oct
open Go.RowKit
set_option linter.unusedVariables false
/-- m digits of n by base B as bytes, the highest first. -/
def bigL (B : Nat) : Nat → Nat → List UInt8
  | 0, _ => []
  | m + 1, n => UInt8.ofNat (n / B ^ m % B) :: bigL B m n
theorem bigL_len (B : Nat) : ∀ m n, (bigL B m n).length = m
  | 0, _ => rfl
  | m + 1, n => by simp [bigL, bigL_len B m n]
theorem u8info : (Tryz.prog.info? 5).map (fun i => (i.zero, i.size, i.bytes)) = some (some (.int .u8 0), 1, 1) := by kernel_rfl
def cellsL (l : List UInt8) : List Value := l.map fun c => Value.int .u8 (c.toNat : Int)
/-- The loop that writes: j bytes are still to be written. -/
structure BigRel (B : Nat) (w wr : World) (m j n : Nat) : Prop where
  own : wr.ownsRow w.heap.size 5 1 (.slice (some ⟨w.heap.size, 0, none⟩) m m) m (List.replicate j (.int .u8 0) ++ cellsL (bigL B (m - j) n))
  bel : Below w.heap.size w wr
  jm : j ≤ m
theorem BigRel.cell {B : Nat} {w wr : World} {m j n : Nat} (h : BigRel B w wr m (j + 1) n) (i : Nat) (hi : i < j + 1) : wr.cell? ⟨w.heap.size, i, none⟩ = some (.int .u8 0) := by
  rw [h.own.cellAt i (by have := h.jm; omega), List.getElem?_append_left (by simpa using hi)]
  simp [hi]
theorem BigRel.free {B : Nat} {w wr : World} {m j n : Nat} (h : BigRel B w wr m j n) (i : Nat) : wr.frozen? ⟨w.heap.size, i, none⟩ = false := h.own.frozenAt i
theorem BigRel.done {B : Nat} {w wr : World} {m n : Nat} (h : BigRel B w wr m 0 n) : ∀ wx, wx = wr → (convert 66 9 (.slice (some ⟨w.heap.size, 0, none⟩) m m)).run Tryz.prog wx = .ok (.string ⟨(bigL B m n).toArray⟩) wx := by
  rintro wx rfl
  have := run_convert_bytes_back (P := Tryz.prog) wx 66 9 5 ⟨w.heap.size, 0, none⟩ m (bigL B m n) Tryz.underlying66 Tryz.underlying5 Tryz.underlying9 (fun j hj => by
    rw [bigL_len] at hj
    have e : (⟨w.heap.size, 0, none⟩ : Addr).add j = ⟨w.heap.size, j, none⟩ := by simp [Addr.add]; intro h; exact h.symm
    rw [e, h.own.cellAt j (by omega)]
    simp [cellsL, bigL_len, hj])
  rwa [bigL_len] at this
theorem BigRel.step {B : Nat} {w wr : World} {m j n p : Nat} (h : BigRel B w wr m (j + 1) n) (hp : p = n / B ^ (m - (j + 1))) (hB : 0 < B ∧ B ≤ 256) {v : Int} (hv : v = ((p % B : Nat) : Int)) : BigRel B w (wr.setCell ⟨w.heap.size, j, none⟩ (.int .u8 v)) m j n := by
  have hjm := h.jm
  obtain ⟨h1, h2⟩ := h.own.stored j (.int .u8 v)
  refine ⟨?_, h.bel.setCell (Nat.le_refl _) _, by omega⟩
  have e : m - j = (m - (j + 1)) + 1 := by omega
  have e3 : ((UInt8.ofNat (p % B)).toNat : Int) = ((p % B : Nat) : Int) := by have := Nat.mod_lt p hB.1; simp; omega
  rw [e]
  have e2 : (List.replicate (j + 1) (Value.int .u8 0) ++ cellsL (bigL B (m - (j + 1)) n)).set j (.int .u8 v) = List.replicate j (Value.int .u8 0) ++ cellsL (bigL B (m - (j + 1) + 1) n) := by
    rw [List.replicate_succ', List.append_assoc, List.set_append_right _ _ (by simp)]
    simp only [List.length_replicate, Nat.sub_self, List.singleton_append, List.set_cons_zero]
    simp only [bigL, cellsL, List.map_cons, ← hp, e3, hv]
  rwa [e2] at h1
theorem BigRel.start {B : Nat} {w w1 : World} {m n : Nat} (h : w1.ownsRow w.heap.size 5 1 (.slice (some ⟨w.heap.size, 0, none⟩) m m) m (madeCells (Value.int IntKind.u8 0).cells (m * 1)).toList) (hg : w.grownBy w1 none) : BigRel B w w1 m m n := by
  refine ⟨?_, (Below.refl _ _).grown hg (Nat.le_refl _) (by intro k h; cases h), Nat.le_refl _⟩
  have e : (madeCells (Value.int IntKind.u8 0).cells (m * 1)).toList = List.replicate m (Value.int .u8 0) := by rw [Nat.mul_one]; exact toList_madeCells_one _ _
  rw [e] at h
  simpa [bigL, cellsL] using h
theorem div_step (B n m j p : Nat) (hp : p = n / B ^ (m - (j + 1))) (hj : j < m) : (p : Int) / (B : Int) = ((n / B ^ (m - j) : Nat) : Int) := by
  have e : m - j = (m - (j + 1)) + 1 := by omega
  rw [e, Nat.pow_succ, ← Nat.div_div_eq_div_mul, ← hp]
  simp
set_option maxRecDepth 100000 in
theorem big_any (n : Nat) (z : Int) (m : Nat) (w : World) (h0 : -9223372036854775808 ≤ z) (h1 : z ≤ 9223372036854775807) (hm : min (max z 0) 8 = m) (hn : n ≤ 18446744073709551615) :
    Calls Tryz.prog 92 #[.int .u64 n, .int .i64 z] w fun e' w' => e' = .returned (.string ⟨(bigL 256 m n).toArray⟩) ∧ Below w.heap.size w w' := by
  obtain ⟨i0, hi, hz0, hz1, hz2⟩ := info_parts u8info
  have HM := Lib.hid hm
  have hm8 : m ≤ 8 := by omega
  clear hm
  have hI := Lib.hid hi; have hZ0 := Lib.hid hz0; have hZ1 := Lib.hid hz1; have hZ2 := Lib.hid hz2
  clear hi hz0 hz1 hz2
  go_enter Tryz.func92, Tryz.ntmps92
  go_wp2_with (first | (go_at_call 123; refine (bounded_any _ _ (by omega) (by omega)).mono ?_; rintro e1 w1 ⟨rfl, rfl⟩; rw [HM.out]) | (at_make; refine wpList_make_full _ rfl _ _ 66 rfl w.heap.size 5 i0 (.int .u8 0) 1 Tryz.underlying66 hI.out hZ0.out hZ1.out _ _ _ _ m rfl rfl rfl rfl (by rw [hZ2.out]; omega) (by unfold maxLen; omega) (Nat.le_refl _) ?_; intro w1 hown hgr))
  go_loopw [0, 6] (fun nn i wr => ∃ j : Nat, j ≤ m ∧ i = .int .i64 ((j : Int) - 1) ∧ nn = .int .u64 ((n / 256 ^ (m - j) : Nat) : Int) ∧ BigRel 256 w wr m j n) (fun _ i _ => (intOf i + 1).toNat)
  case atStart => exact ⟨m, Nat.le_refl _, rfl, by simp, BigRel.start hown hgr⟩
  case round =>
    obtain ⟨j, hj, rfl, rfl, hrel⟩ := hrel
    by_cases hlt : 0 < j
    · obtain ⟨j, rfl⟩ : ∃ i, j = i + 1 := ⟨j - 1, by omega⟩
      obtain ⟨p, hp⟩ : ∃ p, p = n / 256 ^ (m - (j + 1)) := ⟨_, rfl⟩
      have HP := Lib.hid hp
      have hpn : p ≤ 18446744073709551615 := by rw [hp]; exact Nat.le_trans (Nat.div_le_self _ _) hn
      rw [← hp, show (((j + 1 : Nat) : Int) - 1) = (j : Int) from by omega]
      clear hp hlt
      have hc := hrel.cell j (by omega)
      have hf := hrel.free j
      have hjm : j < m := by omega
      go_wp2
      go_roundw
      case rel => exact ⟨j, by omega, rfl, int_eq (div_step 256 n m j p HP.out hjm), hrel.step HP.out (by omega) (by simp)⟩
      case measure => simp [intOf]
    · obtain rfl : j = 0 := by omega
      clear hlt
      have hc := hrel.done
      go_wp2
      go_ret
      exact ⟨rfl, hrel.bel⟩
end Go.Proofs.YtbgbgigpcegenaaGreatDoor.oct
