/- Several texts in one. -/
import Derived.Test.YtbgbgigpcegenaaGreatDoorZ4
import Derived.Test.YtbgbgigpcegenaaGreatDoorZ18
import Derived.Test.YtbgbgigpcegenaaGreatDoorBg0
import Derived.Test.YtbgbgigpcegenaaGreatDoorZ3
import Derived.Test.YtbgbgigpcegenaaGreatDoorZ0
import Derived.WalkSmall
import Derived.Lib.Hide
namespace Go.Proofs.YtbgbgigpcegenaaGreatDoor.wa
open Go.RowKit Go.Lib
set_option linter.unusedVariables false
def SpC (b f l : Int) (p S : Int) : Prop := ∀ w2, Calls Tryz.prog 121 #[.int .i64 b, .int .i64 f, .int .i64 l, .int .i32 p] w2 fun e w' => e = .returned (.int .i32 S) ∧ w2 = w'
theorem spn_le (b f l p : Nat) (hb : b < 256) : spn b f l p ≤ p + 256 := by unfold spn; split <;> omega
theorem spC {b : Nat} (f l p : Nat) (hb : b < 256) (hf : f < 256) (hp : p < 65536) : ∃ S : Int, S = ((spn b f l p : Nat) : Int) ∧ 0 ≤ S ∧ S ≤ 70000 ∧ SpC b f l p S :=
  ⟨_, rfl, by omega, by have := spn_le b f l p hb; omega, fun w2 => span_any b f l p w2 hb hf hp⟩
def RowPost (w : World) (l b : Nat) : Ending → World → Prop := fun e w' => e = .returned (.int .i32 ((row l b : Nat) : Int)) ∧ Below w.heap.size w w'
theorem rowPost {w w' : World} {l b : Nat} {v : Int} (h : ((row l b : Nat) : Int) = v) (hb : Below w.heap.size w w') : RowPost w l b (.returned (.int .i32 v)) w' := ⟨by rw [h], hb⟩
set_option maxRecDepth 100000 in
set_option maxHeartbeats 4000000 in
theorem row_161 (b : Nat) (w : World) (h0 : 161 ≤ b) (h1 : b ≤ 254) : Calls Tryz.prog 69 #[.int .i64 161, .int .i64 b] w (RowPost w 161 b) := by
  have hn : b - 161 < 94 := by omega
  have hl : b - 161 < a1L.length := hn
  have HV : Hid (((row 161 b : Nat) : Int) = ((a1L.getD (b - 161) 0 : Nat) : Int)) := Lib.hid (by unfold row; rw [if_pos rfl])
  have HN := Lib.hid (fun s hs hz w2 => sg.nth_any a1L s hs hz (b - 161) hl w2)
  rw [show ((b - 161 : Nat) : Int) = (b : Int) - 161 by omega] at HN
  generalize ((a1L.getD (b - 161) 0 : Nat) : Int) = V at *
  have g0 : (161 : Int) ≤ (b : Int) := by omega
  have g1 : (b : Int) ≤ 254 := by omega
  clear hn hl
  generalize (b : Int) = B at *
  go_enter Tryz.func69, Tryz.ntmps69
  go_wp2_with (go_at_call 61; refine (HN.out _ (by decide +kernel) (by decide +kernel) _).mono ?_; rintro e2 w2 ⟨rfl, hb2⟩)
  go_ret
  exact rowPost HV.out hb2
set_option maxRecDepth 100000 in
set_option maxHeartbeats 4000000 in
theorem row_162 (b : Nat) (w : World) (h0 : 161 ≤ b) (h1 : b ≤ 254) : Calls Tryz.prog 69 #[.int .i64 162, .int .i64 b] w (RowPost w 162 b) := by
  by_cases hn : b - 161 < 71
  · have hl : b - 161 < a2L.length := hn
    have HV : Hid (((row 162 b : Nat) : Int) = ((a2L.getD (b - 161) 0 : Nat) : Int)) := Lib.hid (by unfold row; rw [if_neg (by omega), if_pos rfl, if_pos hn])
    have HN := Lib.hid (fun s hs hz w2 => sg.nth_any a2L s hs hz (b - 161) hl w2)
    rw [show ((b - 161 : Nat) : Int) = (b : Int) - 161 by omega] at HN
    generalize ((a2L.getD (b - 161) 0 : Nat) : Int) = V at *
    have g0 : (161 : Int) ≤ (b : Int) := by omega
    have g1 : (b : Int) ≤ 254 := by omega
    have g2 : (b : Int) - 161 < 71 := by omega
    clear hn hl
    generalize (b : Int) = B at *
    go_enter Tryz.func69, Tryz.ntmps69
    go_wp2_with (go_at_call 61; refine (HN.out _ (by decide +kernel) (by decide +kernel) _).mono ?_; rintro e2 w2 ⟨rfl, hb2⟩)
    go_ret
    exact rowPost HV.out hb2
  · have HV : Hid (((row 162 b : Nat) : Int) = 0) := Lib.hid (by unfold row; rw [if_neg (by omega), if_pos rfl, if_neg hn]; rfl)
    have g2 : ¬ (b : Int) - 161 < 71 := by omega
    have g0 : (161 : Int) ≤ (b : Int) := by omega
    have g1 : (b : Int) ≤ 254 := by omega
    clear hn
    generalize (b : Int) = B at *
    go_enter Tryz.func69, Tryz.ntmps69
    go_wp2_with fail
    go_ret
    exact rowPost HV.out (Below.refl _ _)
set_option maxRecDepth 100000 in
set_option maxHeartbeats 4000000 in
theorem row_166 (b : Nat) (w : World) (h0 : 161 ≤ b) (h1 : b ≤ 254) : Calls Tryz.prog 69 #[.int .i64 166, .int .i64 b] w (RowPost w 166 b) := by
  by_cases hn : b - 161 < 68
  · have hl : b - 161 < a6L.length := hn
    have HV : Hid (((row 166 b : Nat) : Int) = ((a6L.getD (b - 161) 0 : Nat) : Int)) := Lib.hid (by unfold row; rw [if_neg (by omega), if_neg (by omega), if_neg (by omega), if_neg (by omega), if_neg (by omega), if_pos rfl, if_pos hn])
    have HN := Lib.hid (fun s hs hz w2 => sg.nth_any a6L s hs hz (b - 161) hl w2)
    rw [show ((b - 161 : Nat) : Int) = (b : Int) - 161 by omega] at HN
    generalize ((a6L.getD (b - 161) 0 : Nat) : Int) = V at *
    have g0 : (161 : Int) ≤ (b : Int) := by omega
    have g1 : (b : Int) ≤ 254 := by omega
    have g2 : (b : Int) - 161 < 68 := by omega
    clear hn hl
    generalize (b : Int) = B at *
    go_enter Tryz.func69, Tryz.ntmps69
    go_wp2_with (go_at_call 61; refine (HN.out _ (by decide +kernel) (by decide +kernel) _).mono ?_; rintro e2 w2 ⟨rfl, hb2⟩)
    go_ret
    exact rowPost HV.out hb2
  · have HV : Hid (((row 166 b : Nat) : Int) = 0) := Lib.hid (by unfold row; rw [if_neg (by omega), if_neg (by omega), if_neg (by omega), if_neg (by omega), if_neg (by omega), if_pos rfl, if_neg hn]; rfl)
    have g2 : ¬ (b : Int) - 161 < 68 := by omega
    have g0 : (161 : Int) ≤ (b : Int) := by omega
    have g1 : (b : Int) ≤ 254 := by omega
    clear hn
    generalize (b : Int) = B at *
    go_enter Tryz.func69, Tryz.ntmps69
    go_wp2_with fail
    go_ret
    exact rowPost HV.out (Below.refl _ _)
set_option maxRecDepth 100000 in
set_option maxHeartbeats 4000000 in
theorem row_163 (b : Nat) (w : World) (h0 : 161 ≤ b) (h1 : b ≤ 254) : Calls Tryz.prog 69 #[.int .i64 163, .int .i64 b] w (RowPost w 163 b) := by
  by_cases h2 : b = 220
  · subst h2
    go_enter Tryz.func69, Tryz.ntmps69
    go_wp2_with fail
    go_ret
    exact rowPost rfl (Below.refl _ _)
  by_cases h3 : b = 254
  · subst h3
    go_enter Tryz.func69, Tryz.ntmps69
    go_wp2_with fail
    go_ret
    exact rowPost rfl (Below.refl _ _)
  · have HV : Hid (((row 163 b : Nat) : Int) = 65281 + (b : Int) - 161) := Lib.hid (by unfold row; rw [if_neg (by omega), if_neg (by omega), if_pos rfl, if_neg h2, if_neg h3]; omega)
    have e1 : ((b : Int) == 220) = false := beq_eq_false_iff_ne.2 (by omega)
    have e2 : ((b : Int) == 254) = false := beq_eq_false_iff_ne.2 (by omega)
    have g0 : (161 : Int) ≤ (b : Int) := by omega
    have g1 : (b : Int) ≤ 254 := by omega
    clear h2 h3
    generalize (b : Int) = B at *
    have w1 : IntKind.i32.wrap (65281 + B - 161) = 65281 + B - 161 := wrap32 (by omega) (by omega)
    go_enter Tryz.func69, Tryz.ntmps69
    go_wp2_with fail
    go_ret
    exact rowPost HV.out (Below.refl _ _)
set_option maxRecDepth 100000 in
set_option maxHeartbeats 4000000 in
theorem row_164 (b : Nat) (w : World) (h0 : 161 ≤ b) (h1 : b ≤ 254) : Calls Tryz.prog 69 #[.int .i64 164, .int .i64 b] w (RowPost w 164 b) := by
  have HV : Hid (((row 164 b : Nat) : Int) = 12593 + (b : Int) - 161) := Lib.hid (by unfold row; rw [if_neg (by omega), if_neg (by omega), if_neg (by omega), if_pos rfl]; omega)
  have g0 : (161 : Int) ≤ (b : Int) := by omega
  have g1 : (b : Int) ≤ 254 := by omega
  generalize (b : Int) = B at *
  have w1 : IntKind.i32.wrap (12593 + B - 161) = 12593 + B - 161 := wrap32 (by omega) (by omega)
  go_enter Tryz.func69, Tryz.ntmps69
  go_wp2_with fail
  go_ret
  exact rowPost HV.out (Below.refl _ _)
set_option maxRecDepth 100000 in
set_option maxHeartbeats 4000000 in
theorem row_165 (b : Nat) (w : World) (h0 : 161 ≤ b) (h1 : b ≤ 254) : Calls Tryz.prog 69 #[.int .i64 165, .int .i64 b] w (RowPost w 165 b) := by
  have hb : b < 256 := by omega
  obtain ⟨S0, q0, u0, v0, c0⟩ := spC (b := b) 161 170 8560 hb (by omega) (by omega)
  have H0 : Hid (∀ w2, Calls Tryz.prog 121 #[.int .i64 b, .int .i64 161, .int .i64 170, .int .i32 8560] w2 fun e w' => e = .returned (.int .i32 S0) ∧ w2 = w') := Lib.hid c0
  obtain ⟨S1, q1, u1, v1, c1⟩ := spC (b := b) 176 185 8544 hb (by omega) (by omega)
  have H1 : Hid (∀ w2, Calls Tryz.prog 121 #[.int .i64 b, .int .i64 176, .int .i64 185, .int .i32 8544] w2 fun e w' => e = .returned (.int .i32 S1) ∧ w2 = w') := Lib.hid c1
  obtain ⟨S2, q2, u2, v2, c2⟩ := spC (b := b) 193 209 913 hb (by omega) (by omega)
  have H2 : Hid (∀ w2, Calls Tryz.prog 121 #[.int .i64 b, .int .i64 193, .int .i64 209, .int .i32 913] w2 fun e w' => e = .returned (.int .i32 S2) ∧ w2 = w') := Lib.hid c2
  obtain ⟨S3, q3, u3, v3, c3⟩ := spC (b := b) 210 216 931 hb (by omega) (by omega)
  have H3 : Hid (∀ w2, Calls Tryz.prog 121 #[.int .i64 b, .int .i64 210, .int .i64 216, .int .i32 931] w2 fun e w' => e = .returned (.int .i32 S3) ∧ w2 = w') := Lib.hid c3
  obtain ⟨S4, q4, u4, v4, c4⟩ := spC (b := b) 225 241 945 hb (by omega) (by omega)
  have H4 : Hid (∀ w2, Calls Tryz.prog 121 #[.int .i64 b, .int .i64 225, .int .i64 241, .int .i32 945] w2 fun e w' => e = .returned (.int .i32 S4) ∧ w2 = w') := Lib.hid c4
  obtain ⟨S5, q5, u5, v5, c5⟩ := spC (b := b) 242 248 963 hb (by omega) (by omega)
  have H5 : Hid (∀ w2, Calls Tryz.prog 121 #[.int .i64 b, .int .i64 242, .int .i64 248, .int .i32 963] w2 fun e w' => e = .returned (.int .i32 S5) ∧ w2 = w') := Lib.hid c5
  have HV : Hid (((row 165 b : Nat) : Int) = S0 + S1 + S2 + S3 + S4 + S5) := Lib.hid (by unfold row; rw [if_neg (by omega), if_neg (by omega), if_neg (by omega), if_neg (by omega), if_pos rfl]; omega)
  have g0 : (161 : Int) ≤ (b : Int) := by omega
  have g1 : (b : Int) ≤ 254 := by omega
  clear q0 c0 q1 c1 q2 c2 q3 c3 q4 c4 q5 c5
  generalize (b : Int) = B at *
  go_enter Tryz.func69, Tryz.ntmps69
  go_wp2_with (first | (go_at_call 121; (with_reducible refine (H0.out _).mono ?_); rintro e2 w2 ⟨rfl, rfl⟩) | (go_at_call 121; (with_reducible refine (H1.out _).mono ?_); rintro e2 w2 ⟨rfl, rfl⟩) | (go_at_call 121; (with_reducible refine (H2.out _).mono ?_); rintro e2 w2 ⟨rfl, rfl⟩) | (go_at_call 121; (with_reducible refine (H3.out _).mono ?_); rintro e2 w2 ⟨rfl, rfl⟩) | (go_at_call 121; (with_reducible refine (H4.out _).mono ?_); rintro e2 w2 ⟨rfl, rfl⟩) | (go_at_call 121; (with_reducible refine (H5.out _).mono ?_); rintro e2 w2 ⟨rfl, rfl⟩))
  go_ret
  exact rowPost HV.out (Below.refl _ _)
set_option maxRecDepth 100000 in
set_option maxHeartbeats 4000000 in
theorem row_170 (b : Nat) (w : World) (h0 : 161 ≤ b) (h1 : b ≤ 254) : Calls Tryz.prog 69 #[.int .i64 170, .int .i64 b] w (RowPost w 170 b) := by
  have hb : b < 256 := by omega
  obtain ⟨S0, q0, u0, v0, c0⟩ := spC (b := b) 161 243 12353 hb (by omega) (by omega)
  have H0 : Hid (∀ w2, Calls Tryz.prog 121 #[.int .i64 b, .int .i64 161, .int .i64 243, .int .i32 12353] w2 fun e w' => e = .returned (.int .i32 S0) ∧ w2 = w') := Lib.hid c0
  have HV : Hid (((row 170 b : Nat) : Int) = S0) := Lib.hid (by unfold row; rw [if_neg (by omega), if_neg (by omega), if_neg (by omega), if_neg (by omega), if_neg (by omega), if_neg (by omega), if_pos rfl]; omega)
  have g0 : (161 : Int) ≤ (b : Int) := by omega
  have g1 : (b : Int) ≤ 254 := by omega
  clear q0 c0
  generalize (b : Int) = B at *
  go_enter Tryz.func69, Tryz.ntmps69
  go_wp2_with (first | (go_at_call 121; (with_reducible refine (H0.out _).mono ?_); rintro e2 w2 ⟨rfl, rfl⟩))
  go_ret
  exact rowPost HV.out (Below.refl _ _)
set_option maxRecDepth 100000 in
set_option maxHeartbeats 4000000 in
theorem row_171 (b : Nat) (w : World) (h0 : 161 ≤ b) (h1 : b ≤ 254) : Calls Tryz.prog 69 #[.int .i64 171, .int .i64 b] w (RowPost w 171 b) := by
  have hb : b < 256 := by omega
  obtain ⟨S0, q0, u0, v0, c0⟩ := spC (b := b) 161 246 12449 hb (by omega) (by omega)
  have H0 : Hid (∀ w2, Calls Tryz.prog 121 #[.int .i64 b, .int .i64 161, .int .i64 246, .int .i32 12449] w2 fun e w' => e = .returned (.int .i32 S0) ∧ w2 = w') := Lib.hid c0
  have HV : Hid (((row 171 b : Nat) : Int) = S0) := Lib.hid (by unfold row; rw [if_neg (by omega), if_neg (by omega), if_neg (by omega), if_neg (by omega), if_neg (by omega), if_neg (by omega), if_neg (by omega), if_pos rfl]; omega)
  have g0 : (161 : Int) ≤ (b : Int) := by omega
  have g1 : (b : Int) ≤ 254 := by omega
  clear q0 c0
  generalize (b : Int) = B at *
  go_enter Tryz.func69, Tryz.ntmps69
  go_wp2_with (first | (go_at_call 121; (with_reducible refine (H0.out _).mono ?_); rintro e2 w2 ⟨rfl, rfl⟩))
  go_ret
  exact rowPost HV.out (Below.refl _ _)
set_option maxRecDepth 100000 in
set_option maxHeartbeats 4000000 in
theorem row_172 (b : Nat) (w : World) (h0 : 161 ≤ b) (h1 : b ≤ 254) : Calls Tryz.prog 69 #[.int .i64 172, .int .i64 b] w (RowPost w 172 b) := by
  have hb : b < 256 := by omega
  obtain ⟨S0, q0, u0, v0, c0⟩ := spC (b := b) 161 166 1040 hb (by omega) (by omega)
  have H0 : Hid (∀ w2, Calls Tryz.prog 121 #[.int .i64 b, .int .i64 161, .int .i64 166, .int .i32 1040] w2 fun e w' => e = .returned (.int .i32 S0) ∧ w2 = w') := Lib.hid c0
  obtain ⟨S1, q1, u1, v1, c1⟩ := spC (b := b) 167 167 1025 hb (by omega) (by omega)
  have H1 : Hid (∀ w2, Calls Tryz.prog 121 #[.int .i64 b, .int .i64 167, .int .i64 167, .int .i32 1025] w2 fun e w' => e = .returned (.int .i32 S1) ∧ w2 = w') := Lib.hid c1
  obtain ⟨S2, q2, u2, v2, c2⟩ := spC (b := b) 168 193 1046 hb (by omega) (by omega)
  have H2 : Hid (∀ w2, Calls Tryz.prog 121 #[.int .i64 b, .int .i64 168, .int .i64 193, .int .i32 1046] w2 fun e w' => e = .returned (.int .i32 S2) ∧ w2 = w') := Lib.hid c2
  obtain ⟨S3, q3, u3, v3, c3⟩ := spC (b := b) 209 214 1072 hb (by omega) (by omega)
  have H3 : Hid (∀ w2, Calls Tryz.prog 121 #[.int .i64 b, .int .i64 209, .int .i64 214, .int .i32 1072] w2 fun e w' => e = .returned (.int .i32 S3) ∧ w2 = w') := Lib.hid c3
  obtain ⟨S4, q4, u4, v4, c4⟩ := spC (b := b) 215 215 1105 hb (by omega) (by omega)
  have H4 : Hid (∀ w2, Calls Tryz.prog 121 #[.int .i64 b, .int .i64 215, .int .i64 215, .int .i32 1105] w2 fun e w' => e = .returned (.int .i32 S4) ∧ w2 = w') := Lib.hid c4
  obtain ⟨S5, q5, u5, v5, c5⟩ := spC (b := b) 216 241 1078 hb (by omega) (by omega)
  have H5 : Hid (∀ w2, Calls Tryz.prog 121 #[.int .i64 b, .int .i64 216, .int .i64 241, .int .i32 1078] w2 fun e w' => e = .returned (.int .i32 S5) ∧ w2 = w') := Lib.hid c5
  have HV : Hid (((row 172 b : Nat) : Int) = S0 + S1 + S2 + S3 + S4 + S5) := Lib.hid (by unfold row; rw [if_neg (by omega), if_neg (by omega), if_neg (by omega), if_neg (by omega), if_neg (by omega), if_neg (by omega), if_neg (by omega), if_neg (by omega), if_pos rfl]; omega)
  have g0 : (161 : Int) ≤ (b : Int) := by omega
  have g1 : (b : Int) ≤ 254 := by omega
  clear q0 c0 q1 c1 q2 c2 q3 c3 q4 c4 q5 c5
  generalize (b : Int) = B at *
  go_enter Tryz.func69, Tryz.ntmps69
  go_wp2_with (first | (go_at_call 121; (with_reducible refine (H0.out _).mono ?_); rintro e2 w2 ⟨rfl, rfl⟩) | (go_at_call 121; (with_reducible refine (H1.out _).mono ?_); rintro e2 w2 ⟨rfl, rfl⟩) | (go_at_call 121; (with_reducible refine (H2.out _).mono ?_); rintro e2 w2 ⟨rfl, rfl⟩) | (go_at_call 121; (with_reducible refine (H3.out _).mono ?_); rintro e2 w2 ⟨rfl, rfl⟩) | (go_at_call 121; (with_reducible refine (H4.out _).mono ?_); rintro e2 w2 ⟨rfl, rfl⟩) | (go_at_call 121; (with_reducible refine (H5.out _).mono ?_); rintro e2 w2 ⟨rfl, rfl⟩))
  go_ret
  exact rowPost HV.out (Below.refl _ _)
set_option maxRecDepth 100000 in
set_option maxHeartbeats 4000000 in
theorem row_else (l b : Nat) (w : World) (h : l ≠ 161 ∧ l ≠ 162 ∧ l ≠ 163 ∧ l ≠ 164 ∧ l ≠ 165 ∧ l ≠ 166 ∧ l ≠ 170 ∧ l ≠ 171 ∧ l ≠ 172) : Calls Tryz.prog 69 #[.int .i64 l, .int .i64 b] w (RowPost w l b) := by
  obtain ⟨h1, h2, h3, h4, h5, h6, h7, h8, h9⟩ := h
  have HV : Hid (((row l b : Nat) : Int) = 0) := Lib.hid (by unfold row; rw [if_neg h1, if_neg h2, if_neg h3, if_neg h4, if_neg h5, if_neg h6, if_neg h7, if_neg h8, if_neg h9]; rfl)
  have e0 : ((l : Int) == 161) = false := beq_eq_false_iff_ne.2 (by omega)
  have e1 : ((l : Int) == 162) = false := beq_eq_false_iff_ne.2 (by omega)
  have e2 : ((l : Int) == 163) = false := beq_eq_false_iff_ne.2 (by omega)
  have e3 : ((l : Int) == 164) = false := beq_eq_false_iff_ne.2 (by omega)
  have e4 : ((l : Int) == 165) = false := beq_eq_false_iff_ne.2 (by omega)
  have e5 : ((l : Int) == 166) = false := beq_eq_false_iff_ne.2 (by omega)
  have e6 : ((l : Int) == 170) = false := beq_eq_false_iff_ne.2 (by omega)
  have e7 : ((l : Int) == 171) = false := beq_eq_false_iff_ne.2 (by omega)
  have e8 : ((l : Int) == 172) = false := beq_eq_false_iff_ne.2 (by omega)
  clear h1 h2 h3 h4 h5 h6 h7 h8 h9
  generalize (l : Int) = L at *
  go_enter Tryz.func69, Tryz.ntmps69
  go_wp2_with fail
  go_ret
  exact rowPost HV.out (Below.refl _ _)
theorem row_any (l b : Nat) (w : World) (h0 : 161 ≤ b) (h1 : b ≤ 254) : Calls Tryz.prog 69 #[.int .i64 l, .int .i64 b] w fun e w' => e = .returned (.int .i32 ((row l b : Nat) : Int)) ∧ Below w.heap.size w w' := by
  by_cases h : l ≠ 161 ∧ l ≠ 162 ∧ l ≠ 163 ∧ l ≠ 164 ∧ l ≠ 165 ∧ l ≠ 166 ∧ l ≠ 170 ∧ l ≠ 171 ∧ l ≠ 172
  · exact row_else l b w h
  · have hh : l = 161 ∨ l = 162 ∨ l = 163 ∨ l = 164 ∨ l = 165 ∨ l = 166 ∨ l = 170 ∨ l = 171 ∨ l = 172 := by omega
    rcases hh with rfl | rfl | rfl | rfl | rfl | rfl | rfl | rfl | rfl
    · exact row_161 b w h0 h1
    · exact row_162 b w h0 h1
    · exact row_163 b w h0 h1
    · exact row_164 b w h0 h1
    · exact row_165 b w h0 h1
    · exact row_166 b w h0 h1
    · exact row_170 b w h0 h1
    · exact row_171 b w h0 h1
    · exact row_172 b w h0 h1
end Go.Proofs.YtbgbgigpcegenaaGreatDoor.wa
namespace Go.Proofs.YtbgbgigpcegenaaGreatDoor.wa
open Go.RowKit Go.Lib
set_option linter.unusedVariables false
def SgPost (w : World) (l b : Nat) : Ending → World → Prop := fun e w' => e = .returned (.int .i32 ((sgW l b : Nat) : Int)) ∧ Below w.heap.size w w'
theorem sgPost {w w' : World} {l b : Nat} {v : Int} (h : ((sgW l b : Nat) : Int) = v) (hb : Below w.heap.size w w') : SgPost w l b (.returned (.int .i32 v)) w' := ⟨by rw [h], hb⟩
def KtC (k : Int) (b : Bool) (V : Int) : Prop := ∀ w2, Calls Tryz.prog 68 #[.int .i64 k, .bool b] w2 fun e w' => e = .returned (.int .i32 V) ∧ w2 = w'
theorem ktC (k : Int) (q : Nat) (b : Bool) (h : k = (q : Int)) (hk : q ≤ 1000000) : Hid (KtC k b ((kth q b : Nat) : Int)) := Lib.hid (fun w2 => by
  subst h
  have := kth_any q b w2 (by omega)
  rw [kthI_nat] at this
  exact this)
set_option maxRecDepth 100000 in
set_option maxHeartbeats 4000000 in
theorem sgn_any (l b : Nat) (w : World) (hl : l < 256) (hb : b < 256) : Calls Tryz.prog 37 #[.int .i64 l, .int .i64 b] w (SgPost w l b) := by
  have HS := Lib.hid (fun w2 => second_any b w2 hb)
  have l0 : (0 : Int) ≤ (l : Int) := by omega
  have l1 : (l : Int) < 256 := by omega
  have b0 : (0 : Int) ≤ (b : Int) := by omega
  have b1 : (b : Int) < 256 := by omega
  cases hs : sec b with
  | none =>
    have e : secI b = -1 := by unfold secI; rw [hs]
    rw [e] at HS
    have HV : Hid (((sgW l b : Nat) : Int) = 0) := Lib.hid (by unfold sgW; rw [hs]; rfl)
    clear hs e
    go_enter Tryz.func37, Tryz.ntmps37
    go_wp2_with (go_at_call 67; refine (HS.out _).mono ?_; rintro e2 w2 ⟨rfl, rfl⟩)
    go_ret
    exact sgPost HV.out (Below.refl _ _)
  | some t =>
    have e : secI b = (t : Int) := by unfold secI; rw [hs]
    rw [e] at HS
    have ht := (sec_back hs).2.1
    have t0 : (0 : Int) ≤ (t : Int) := by omega
    have t1 : (t : Int) < 178 := by omega
    have hV : sgW l b = if l < 129 ∨ 254 < l then 0 else if l < 161 then kth ((l - 129) * 178 + t) false
      else if b < 161 then kth (5696 + (l - 161) * 84 + t) false
      else if 176 ≤ l ∧ l ≤ 200 then kth ((l - 176) * 94 + (b - 161)) true else row l b := by unfold sgW; rw [hs]
    have hb5 : b ≤ 254 := by
      by_cases q : b ≤ 254
      · exact q
      · exfalso; unfold sec at hs; rw [if_neg (by omega), if_neg (by omega), if_neg (by omega)] at hs; cases hs
    clear hs e
    by_cases h1 : l < 129
    · have HV : Hid (((sgW l b : Nat) : Int) = 0) := Lib.hid (by rw [hV, if_pos (.inl h1)]; rfl)
      have g1 : (l : Int) < 129 := by omega
      clear hV h1
      go_enter Tryz.func37, Tryz.ntmps37
      go_wp2_with (go_at_call 67; refine (HS.out _).mono ?_; rintro e2 w2 ⟨rfl, rfl⟩)
      go_ret
      exact sgPost HV.out (Below.refl _ _)
    by_cases h2 : 254 < l
    · have HV : Hid (((sgW l b : Nat) : Int) = 0) := Lib.hid (by rw [hV, if_pos (.inr h2)]; rfl)
      have g1 : ¬ (l : Int) < 129 := by omega
      have g2 : 254 < (l : Int) := by omega
      clear hV h1 h2
      go_enter Tryz.func37, Tryz.ntmps37
      go_wp2_with (go_at_call 67; refine (HS.out _).mono ?_; rintro e2 w2 ⟨rfl, rfl⟩)
      go_ret
      exact sgPost HV.out (Below.refl _ _)
    rw [if_neg (by omega)] at hV
    have g1 : ¬ (l : Int) < 129 := by omega
    have g2 : ¬ 254 < (l : Int) := by omega
    by_cases h3 : l < 161
    · have HK := ktC (((l : Int) - 129) * 178 + (t : Int)) ((l - 129) * 178 + t) false (by omega) (by omega)
      have HV : Hid (((sgW l b : Nat) : Int) = ((kth ((l - 129) * 178 + t) false : Nat) : Int)) := Lib.hid (by rw [hV, if_pos h3])
      generalize ((kth ((l - 129) * 178 + t) false : Nat) : Int) = V at *
      have g3 : (l : Int) < 161 := by omega
      clear hV h1 h2 h3
      go_enter Tryz.func37, Tryz.ntmps37
      go_wp2_with (first | (go_at_call 67; refine (HS.out _).mono ?_; rintro e2 w2 ⟨rfl, rfl⟩) | (go_at_call 68; refine (HK.out _).mono ?_; rintro e2 w2 ⟨rfl, rfl⟩))
      go_ret
      exact sgPost HV.out (Below.refl _ _)
    rw [if_neg h3] at hV
    have g3 : ¬ (l : Int) < 161 := by omega
    by_cases h4 : b < 161
    · have HK := ktC (5696 + ((l : Int) - 161) * 84 + (t : Int)) (5696 + (l - 161) * 84 + t) false (by omega) (by omega)
      have HV : Hid (((sgW l b : Nat) : Int) = ((kth (5696 + (l - 161) * 84 + t) false : Nat) : Int)) := Lib.hid (by rw [hV, if_pos h4])
      generalize ((kth (5696 + (l - 161) * 84 + t) false : Nat) : Int) = V at *
      have g4 : (b : Int) < 161 := by omega
      clear hV h1 h2 h3 h4
      go_enter Tryz.func37, Tryz.ntmps37
      go_wp2_with (first | (go_at_call 67; refine (HS.out _).mono ?_; rintro e2 w2 ⟨rfl, rfl⟩) | (go_at_call 68; refine (HK.out _).mono ?_; rintro e2 w2 ⟨rfl, rfl⟩))
      go_ret
      exact sgPost HV.out (Below.refl _ _)
    rw [if_neg h4] at hV
    have g4 : ¬ (b : Int) < 161 := by omega
    by_cases h5 : 176 ≤ l ∧ l ≤ 200
    · have HK := ktC (((l : Int) - 176) * 94 + (b : Int) - 161) ((l - 176) * 94 + (b - 161)) true (by omega) (by omega)
      have HV : Hid (((sgW l b : Nat) : Int) = ((kth ((l - 176) * 94 + (b - 161)) true : Nat) : Int)) := Lib.hid (by rw [hV, if_pos h5])
      generalize ((kth ((l - 176) * 94 + (b - 161)) true : Nat) : Int) = V at *
      have g5 : 176 ≤ (l : Int) := by omega
      have g6 : (l : Int) ≤ 200 := by omega
      clear hV h1 h2 h3 h4 h5
      go_enter Tryz.func37, Tryz.ntmps37
      go_wp2_with (first | (go_at_call 67; refine (HS.out _).mono ?_; rintro e2 w2 ⟨rfl, rfl⟩) | (go_at_call 68; refine (HK.out _).mono ?_; rintro e2 w2 ⟨rfl, rfl⟩))
      go_ret
      exact sgPost HV.out (Below.refl _ _)
    · rw [if_neg h5] at hV
      have HV : Hid (((sgW l b : Nat) : Int) = ((row l b : Nat) : Int)) := Lib.hid (by rw [hV])
      have HR := Lib.hid (fun w2 => row_any l b w2 (by omega) hb5)
      generalize ((row l b : Nat) : Int) = V at *
      by_cases h6 : 176 ≤ l
      · have g5 : 176 ≤ (l : Int) := by omega
        have g6 : ¬ (l : Int) ≤ 200 := by omega
        clear hV h1 h2 h3 h4 h5 h6
        go_enter Tryz.func37, Tryz.ntmps37
        go_wp2_with (first | (go_at_call 67; refine (HS.out _).mono ?_; rintro e2 w2 ⟨rfl, rfl⟩) | (go_at_call 69; refine (HR.out _).mono ?_; rintro e2 w2 ⟨rfl, hb2⟩))
        go_ret
        exact sgPost HV.out hb2
      · have g5 : ¬ 176 ≤ (l : Int) := by omega
        clear hV h1 h2 h3 h4 h5 h6
        go_enter Tryz.func37, Tryz.ntmps37
        go_wp2_with (first | (go_at_call 67; refine (HS.out _).mono ?_; rintro e2 w2 ⟨rfl, rfl⟩) | (go_at_call 69; refine (HR.out _).mono ?_; rintro e2 w2 ⟨rfl, hb2⟩))
        go_ret
        exact sgPost HV.out hb2
end Go.Proofs.YtbgbgigpcegenaaGreatDoor.wa
namespace Go.Proofs.YtbgbgigpcegenaaGreatDoor.bg
open Go.RowKit Go.Lib
set_option linter.unusedVariables false
theorem wrap64 {x : Int} (h0 : -9223372036854775808 ≤ x) (h1 : x ≤ 9223372036854775807) : IntKind.i64.wrap x = x := by simp [IntKind.wrap, IntKind.bits, IntKind.signed]; omega
theorem wrap32 {x : Int} (h0 : -2147483648 ≤ x) (h1 : x ≤ 2147483647) : IntKind.i32.wrap x = x := by simp [IntKind.wrap, IntKind.bits, IntKind.signed]; omega
theorem rInt {k : IntKind} {a b : Int} (h : a = b) : Ending.returned (.int k a) = .returned (.int k b) := by rw [h]
/-- The cell of a second byte; -1: it is none. -/
def cellI (b : Nat) : Int := match cell b with
  | some c => (c : Nat)
  | none => -1
theorem cellI_1 {b : Nat} (h : 64 ≤ b ∧ b ≤ 126) : cellI b = (b : Int) - 64 := by unfold cellI cell; rw [if_pos h]; show ((b - 64 : Nat) : Int) = _; omega
theorem cellI_2 {b : Nat} (h : 161 ≤ b ∧ b ≤ 254) : cellI b = (b : Int) - 161 + 63 := by unfold cellI cell; rw [if_neg (by omega), if_pos h]; show ((b - 98 : Nat) : Int) = _; omega
theorem cellI_0 {b : Nat} (h1 : ¬ (64 ≤ b ∧ b ≤ 126)) (h2 : ¬ (161 ≤ b ∧ b ≤ 254)) : cellI b = -1 := by unfold cellI cell; rw [if_neg h1, if_neg h2]
set_option maxRecDepth 100000 in
set_option maxHeartbeats 1000000 in
theorem cell_any (b : Nat) (w : World) (hb : b < 256) : Calls Tryz.prog 117 #[.int .i64 b] w fun e w' => e = .returned (.int .i64 (cellI b)) ∧ w = w' := by
  have hh : b < 64 ∨ (64 ≤ b ∧ b ≤ 126) ∨ (127 ≤ b ∧ b < 161) ∨ (161 ≤ b ∧ b ≤ 254) ∨ b = 255 := by omega
  obtain ⟨V, hV⟩ : ∃ V, V = cellI b := ⟨_, rfl⟩
  rw [← hV]
  generalize hB : (b : Int) = B
  rcases hh with h | h | h | h | h
  · have hv : V = -1 := by rw [hV, cellI_0 (by omega) (by omega)]
    subst hv
    have g0 : ¬ 64 ≤ B := by omega
    have g1 : ¬ 161 ≤ B := by omega
    clear hV hB h
    go_enter Tryz.func117, Tryz.ntmps117
    go_wp2
    go_ret
    exact ⟨rfl, rfl⟩
  · have hv : V = B - 64 := by rw [hV, cellI_1 h]; omega
    subst hv
    have g0 : 64 ≤ B := by omega
    have g1 : B ≤ 126 := by omega
    clear hV hB h
    go_enter Tryz.func117, Tryz.ntmps117
    go_wp2
    go_ret
    exact ⟨rfl, rfl⟩
  · have hv : V = -1 := by rw [hV, cellI_0 (by omega) (by omega)]
    subst hv
    have g0 : 64 ≤ B := by omega
    have g3 : ¬ B ≤ 126 := by omega
    have g1 : ¬ 161 ≤ B := by omega
    clear hV hB h
    go_enter Tryz.func117, Tryz.ntmps117
    go_wp2
    go_ret
    exact ⟨rfl, rfl⟩
  · have hv : V = B - 161 + 63 := by rw [hV, cellI_2 h]; omega
    subst hv
    have g0 : 64 ≤ B := by omega
    have g3 : ¬ B ≤ 126 := by omega
    have g1 : 161 ≤ B := by omega
    have g2 : B ≤ 254 := by omega
    clear hV hB h
    go_enter Tryz.func117, Tryz.ntmps117
    go_wp2
    go_ret
    exact ⟨rfl, rfl⟩
  · have hv : V = -1 := by rw [hV, cellI_0 (by omega) (by omega)]
    subst hv
    obtain rfl : B = 255 := by omega
    clear hV hB h
    go_enter Tryz.func117, Tryz.ntmps117
    go_wp2
    go_ret
    exact ⟨rfl, rfl⟩
def RowPost (w : World) (l : Nat) : Ending → World → Prop := fun e w' => ∃ s, e = .returned (.string s) ∧ pt.scan s = (rowL l, none) ∧ s.size ≤ 2000 ∧ w = w'
set_option maxRecDepth 100000 in
set_option maxHeartbeats 2000000 in
theorem row_any (l : Nat) (w : World) : Calls Tryz.prog 119 #[.int .i64 l] w (RowPost w l) := by
  by_cases hl : l = 136 ∨ l = 161 ∨ l = 163 ∨ l = 164 ∨ l = 165
  · rcases hl with rfl | rfl | rfl | rfl | rfl
    all_goals
      go_enter Tryz.func119, Tryz.ntmps119
      go_wp2_with fail
      go_ret
      exact ⟨_, rfl, by decide +kernel, by decide +kernel, rfl⟩
  · have hr : Hid (rowL l = []) := Lib.hid (by unfold rowL; rw [if_neg (by omega), if_neg (by omega), if_neg (by omega), if_neg (by omega), if_neg (by omega)])
    have e0 : ((l : Int) == 136) = false := beq_eq_false_iff_ne.2 (by omega)
    have e1 : ((l : Int) == 161) = false := beq_eq_false_iff_ne.2 (by omega)
    have e2 : ((l : Int) == 163) = false := beq_eq_false_iff_ne.2 (by omega)
    have e3 : ((l : Int) == 164) = false := beq_eq_false_iff_ne.2 (by omega)
    have e4 : ((l : Int) == 165) = false := beq_eq_false_iff_ne.2 (by omega)
    clear hl
    go_enter Tryz.func119, Tryz.ntmps119
    go_wp2_with fail
    go_ret
    exact ⟨_, rfl, by rw [hr.out]; decide +kernel, by decide +kernel, rfl⟩
set_option maxRecDepth 100000 in
set_option maxHeartbeats 1000000 in
theorem nth_any (L : List Nat) (s : ByteArray) (hs : pt.scan s = (L, none)) (hz : s.size ≤ 2000) (n : Nat) (hn : n ≤ 1000) (w : World) :
    Calls Tryz.prog 118 #[.string s, .int .i64 n] w fun e w' => e = .returned (.int .i32 ((L.getD n 0 : Nat) : Int)) ∧ Below w.heap.size w w' := by
  have hs1 : (pt.sc s s.size 0).1 = L := by have := congrArg Prod.fst hs; exact this
  have hs2 : (pt.sc s s.size 0).2 = none := by have := congrArg Prod.snd hs; exact this
  obtain ⟨V, hV⟩ : ∃ V, V = L.getD n 0 := ⟨_, rfl⟩
  have HV : Hid ((pt.sc s s.size 0).1.getD n 0 = V) := Lib.hid (by rw [hs1, hV])
  rw [← hV]
  have H2 := Lib.hid hs2
  clear hs hs1 hs2 hV
  go_enter Tryz.func118, Tryz.ntmps118
  go_wp2_with fail
  go_loopw [5, 6] (fun a t wr => ∃ (pos f i : Nat), Hid (pos ≤ s.size ∧ s.size ≤ pos + f ∧ i ≤ n) ∧ a = .int .i64 pos ∧ t = .int .i64 i ∧ Hid ((pt.sc s f pos).1.getD (n - i) 0 = V ∧ (pt.sc s f pos).2 = none) ∧ Below w.heap.size w wr) (fun a _ _ => s.size - (RowKit.intOf a).toNat)
  case atStart => exact ⟨0, s.size, 0, Lib.hid ⟨Nat.zero_le _, by omega, Nat.zero_le _⟩, rfl, rfl, Lib.hid ⟨HV.out, H2.out⟩, Below.refl _ _⟩
  case round =>
    obtain ⟨pos, f, i, hp, rfl, rfl, hg, hB⟩ := hrel
    have HB := Lib.hid hB
    clear hB
    by_cases hpt : pos < s.size
    · obtain ⟨f1, rfl⟩ : ∃ f1, f = f1 + 1 := ⟨f - 1, by have := hp.out; omega⟩
      obtain ⟨hg1, hg2⟩ := hg.out
      cases hb : pt.bad s pos with
      | true => rw [pt.sc_bad s (f1 + 1) pos hpt (by have := hp.out; omega) hb] at hg2; cases hg2
      | false =>
        rw [pt.sc_good s f1 pos hpt hb] at hg1 hg2
        have hat := fun w2 => pt.at_any s pos w2 hpt (by omega)
        rw [hb] at hat
        simp only [Bool.false_eq_true, if_false] at hat
        have hw1 := width_pos s pos
        have hw2 := pt.width_fits s pos hpt
        have HG := Lib.hid hg1; have HH2 := Lib.hid hg2
        clear hg1 hg2 hb hg
        generalize Utf8.decode s pos = d at *
        have HAT := Lib.hid hat
        have HW1 := Lib.hid hw1; have HW2 := Lib.hid hw2
        have x1 : (d.2 : Int) ≤ 2000 := by omega
        have x0 : (0 : Int) ≤ (d.2 : Int) := by omega
        have y0 : (0 : Int) ≤ (pos : Int) := by omega
        have y1 : (pos : Int) < (s.size : Int) := by omega
        have y2 : (s.size : Int) ≤ 2000 := by omega
        have z1 : (i : Int) ≤ 1000 := by have := hp.out; omega
        clear hat hw1 hw2
        by_cases hi : i = n
        · have hV2 : Hid (d.1 = V) := Lib.hid (by have := HG.out; rw [hi, Nat.sub_self] at this; simpa using this)
          have e1 : ((i : Int) == (n : Int)) = true := by rw [hi]; exact beq_self_eq_true _
          have FIN : Hid (Ending.returned (.int .i32 ((d.1 : Nat) : Int)) = .returned (.int .i32 ((V : Nat) : Int))) := Lib.hid (by rw [hV2.out])
          clear hi
          go_wp2_with (go_at_call 35; refine (HAT.out _).mono ?_; rintro e1 w1 ⟨rfl, hb1⟩)
          go_ret
          exact ⟨FIN.out, HB.out.trans (hb1.mono HB.out.size)⟩
        · have e1 : ((i : Int) == (n : Int)) = false := beq_eq_false_iff_ne.2 (by omega)
          have hres : Hid ((pt.sc s f1 (pos + d.2)).1.getD (n - (i + 1)) 0 = V) := Lib.hid (by
            have := HG.out
            have h3 := hp.out
            rw [show n - i = (n - (i + 1)) + 1 by omega] at this
            simpa using this)
          have HI := Lib.hid hi
          clear hi
          go_wp2_with (go_at_call 35; refine (HAT.out _).mono ?_; rintro e1 w1 ⟨rfl, hb1⟩)
          go_roundw
          case rel => exact ⟨pos + d.2, f1, i + 1, Lib.hid ⟨HW2.out, by have := hp.out; have := HW1.out; omega, by have := hp.out; have := HI.out; omega⟩, by go_num, by go_num, Lib.hid ⟨hres.out, HH2.out⟩, HB.out.trans (hb1.mono HB.out.size)⟩
          case measure => simp [RowKit.intOf]; have := HW1.out; omega
    · have hV2 : Hid (Ending.returned (.int .i32 0) = .returned (.int .i32 ((V : Nat) : Int))) := Lib.hid (by
        have h1 := hg.out.1
        rw [pt.sc_end s f pos hpt] at h1
        rw [← h1]; simp)
      have y1 : ¬ (pos : Int) < (s.size : Int) := by omega
      go_wp2_with fail
      go_ret
      exact ⟨hV2.out, HB.out⟩
end Go.Proofs.YtbgbgigpcegenaaGreatDoor.bg
namespace Go.Proofs.YtbgbgigpcegenaaGreatDoor.bg
open Go.RowKit Go.Lib
set_option linter.unusedVariables false
def OnePost (w : World) (l b : Nat) : Ending → World → Prop := fun e w' => e = .returned (.int .i32 ((one l b : Nat) : Int)) ∧ Below w.heap.size w w'
theorem onePost {w w' : World} {l b : Nat} {v : Int} (h : ((one l b : Nat) : Int) = v) (hb : Below w.heap.size w w') : OnePost w l b (.returned (.int .i32 v)) w' := ⟨by rw [h], hb⟩
set_option maxRecDepth 100000 in
set_option maxHeartbeats 2000000 in
theorem one_any (l b : Nat) (w : World) (hl : l < 256) (hb : b < 256) : Calls Tryz.prog 66 #[.int .i64 l, .int .i64 b] w (OnePost w l b) := by
  have HC := Lib.hid (fun w2 => cell_any b w2 hb)
  cases hc : cell b with
  | none =>
    have e : cellI b = -1 := by unfold cellI; rw [hc]
    rw [e] at HC
    have HV : Hid (((one l b : Nat) : Int) = 0) := Lib.hid (by unfold one; rw [hc]; rfl)
    clear hc e
    go_enter Tryz.func66, Tryz.ntmps66
    go_wp2_with (go_at_call 117; refine (HC.out _).mono ?_; rintro e2 w2 ⟨rfl, rfl⟩)
    go_ret
    exact onePost HV.out (Below.refl _ _)
  | some c =>
    have e : cellI b = (c : Int) := by unfold cellI; rw [hc]
    rw [e] at HC
    have hc2 := (cell_back hc).2
    have hV : one l b = sgC l c := by unfold one; rw [hc]
    unfold sgC at hV
    have HN : Hid (∀ s, pt.scan s = (rowL l, none) → s.size ≤ 2000 → ∀ w2, Calls Tryz.prog 118 #[.string s, .int .i64 c] w2 fun e w' => e = .returned (.int .i32 (((rowL l).getD c 0 : Nat) : Int)) ∧ Below w2.heap.size w2 w') := Lib.hid (fun s hs hz w2 => nth_any (rowL l) s hs hz c (by omega) w2)
    have HR := Lib.hid (fun w2 => row_any l w2)
    have c0 : ¬ (c : Int) < 0 := by omega
    by_cases h6 : (rowL l).getD c 0 = 63
    · have HV : Hid (((one l b : Nat) : Int) = 0) := Lib.hid (by rw [hV, if_pos h6]; rfl)
      rw [h6] at HN
      replace HN : Hid (∀ s, pt.scan s = (rowL l, none) → s.size ≤ 2000 → ∀ w2, Calls Tryz.prog 118 #[.string s, .int .i64 c] w2 fun e w' => e = .returned (.int .i32 63) ∧ Below w2.heap.size w2 w') := HN
      clear hc e hc2 hV h6
      go_enter Tryz.func66, Tryz.ntmps66
      go_wp2_with (first | (go_at_call 117; refine (HC.out _).mono ?_; rintro e2 w2 ⟨rfl, rfl⟩) | (go_at_call 119; refine (HR.out _).mono ?_; rintro e2 w2 ⟨s, rfl, hs, hz, rfl⟩; have HS := Lib.hid hs; have HZ := Lib.hid hz; clear hs hz) | (go_at_call 118; refine (HN.out _ HS.out HZ.out _).mono ?_; rintro e3 w3 ⟨rfl, hb3⟩))
      go_ret
      exact onePost HV.out hb3
    · have HV : Hid (((one l b : Nat) : Int) = (((rowL l).getD c 0 : Nat) : Int)) := Lib.hid (by rw [hV, if_neg h6])
      have e6 : ((((rowL l).getD c 0 : Nat) : Int) == 63) = false := beq_eq_false_iff_ne.2 (by omega)
      clear hc e hc2 hV h6
      generalize (((rowL l).getD c 0 : Nat) : Int) = V at *
      go_enter Tryz.func66, Tryz.ntmps66
      go_wp2_with (first | (go_at_call 117; refine (HC.out _).mono ?_; rintro e2 w2 ⟨rfl, rfl⟩) | (go_at_call 119; refine (HR.out _).mono ?_; rintro e2 w2 ⟨s, rfl, hs, hz, rfl⟩; have HS := Lib.hid hs; have HZ := Lib.hid hz; clear hs hz) | (go_at_call 118; refine (HN.out _ HS.out HZ.out _).mono ?_; rintro e3 w3 ⟨rfl, hb3⟩))
      go_ret
      exact onePost HV.out hb3
def twV (k : Nat) : Value := .tuple #[.int .i32 ((tw k).1 : Nat), .int .i32 ((tw k).2 : Nat)]
set_option maxRecDepth 100000 in
set_option maxHeartbeats 2000000 in
theorem two_any (l b : Nat) (w : World) (hl : l < 256) (hb : b < 256) : Calls Tryz.prog 65 #[.int .i64 l, .int .i64 b] w fun e w' => e = .returned (twV (l * 256 + b)) ∧ w = w' := by
  have l0 : (0 : Int) ≤ (l : Int) := by omega
  have l1 : (l : Int) < 256 := by omega
  have b0 : (0 : Int) ≤ (b : Int) := by omega
  have b1 : (b : Int) < 256 := by omega
  rcases tw_cases (l * 256 + b) with ⟨e, ht⟩ | ⟨e, ht⟩ | ⟨e, ht⟩ | ⟨e, ht⟩ | ⟨ht, n1, n2, n3, n4⟩
  · have hV : Hid (twV (l * 256 + b) = twV 34914) := Lib.hid (by rw [e])
    have eC : (l : Int) * 256 + (b : Int) = 34914 := by omega
    clear e ht
    rw [hV.out]
    go_enter Tryz.func65, Tryz.ntmps65
    go_wp2_with fail
    go_ret2
    exact ⟨rfl, rfl⟩
  · have hV : Hid (twV (l * 256 + b) = twV 34916) := Lib.hid (by rw [e])
    have eC : (l : Int) * 256 + (b : Int) = 34916 := by omega
    clear e ht
    rw [hV.out]
    go_enter Tryz.func65, Tryz.ntmps65
    go_wp2_with fail
    go_ret2
    exact ⟨rfl, rfl⟩
  · have hV : Hid (twV (l * 256 + b) = twV 34979) := Lib.hid (by rw [e])
    have eC : (l : Int) * 256 + (b : Int) = 34979 := by omega
    clear e ht
    rw [hV.out]
    go_enter Tryz.func65, Tryz.ntmps65
    go_wp2_with fail
    go_ret2
    exact ⟨rfl, rfl⟩
  · have hV : Hid (twV (l * 256 + b) = twV 34981) := Lib.hid (by rw [e])
    have eC : (l : Int) * 256 + (b : Int) = 34981 := by omega
    clear e ht
    rw [hV.out]
    go_enter Tryz.func65, Tryz.ntmps65
    go_wp2_with fail
    go_ret2
    exact ⟨rfl, rfl⟩
  · have hV : Hid (twV (l * 256 + b) = .tuple #[.int .i32 0, .int .i32 0]) := Lib.hid (by unfold twV; rw [ht]; rfl)
    have e1 : ((l : Int) * 256 + (b : Int) == 34914) = false := beq_eq_false_iff_ne.2 (by omega)
    have e2 : ((l : Int) * 256 + (b : Int) == 34916) = false := beq_eq_false_iff_ne.2 (by omega)
    have e3 : ((l : Int) * 256 + (b : Int) == 34979) = false := beq_eq_false_iff_ne.2 (by omega)
    have e4 : ((l : Int) * 256 + (b : Int) == 34981) = false := beq_eq_false_iff_ne.2 (by omega)
    clear n1 n2 n3 n4 ht
    rw [hV.out]
    go_enter Tryz.func65, Tryz.ntmps65
    go_wp2_with fail
    go_ret2
    exact ⟨rfl, rfl⟩
/-- The text of two bytes' signs. -/
def sgT (l b : Nat) : ByteArray := pt.txt ((sgL l b).map Int.ofNat)
theorem sgT_two {l b p q : Nat} (h : tw (l * 256 + b) = (p, q)) (h0 : p ≠ 0) : sgT l b = pt.txt [(p : Int), (q : Int)] := by
  unfold sgT sgL; rw [h, if_pos h0]; rfl
theorem sgT_one {l b : Nat} (h : tw (l * 256 + b) = (0, 0)) (h0 : one l b ≠ 0) : sgT l b = pt.txt [((one l b : Nat) : Int)] := by
  unfold sgT sgL; rw [h, if_neg (by simp), if_pos h0]; rfl
theorem sgT_none {l b : Nat} (h : tw (l * 256 + b) = (0, 0)) (h0 : one l b = 0) : sgT l b = ⟨#[]⟩ := by
  unfold sgT sgL; rw [h, if_neg (by simp), if_neg (by simp [h0])]; rfl
theorem txt_one (p : Int) : pt.txt [p] = strOfNums (encodeRuneZ p) := by unfold pt.txt pt.nums; simp
theorem one_valid {l b : Nat} (h : one l b ≠ 0) : validRune ((one l b : Nat) : Int) = true := by
  obtain ⟨c, hc, hl⟩ := one_has h
  obtain ⟨h1, h2⟩ := one_J hl hc
  have h3 := oneJ_rng h2
  rw [h1] at h ⊢
  unfold validRune
  simp; omega
def SgsPost (w : World) (l b : Nat) : Ending → World → Prop := fun e w' => e = .returned (.string (sgT l b)) ∧ Below w.heap.size w w'
theorem sgsPost {w w' : World} {l b : Nat} {v : ByteArray} (h : sgT l b = v) (hb : Below w.heap.size w w') : SgsPost w l b (.returned (.string v)) w' := ⟨by rw [h], hb⟩
set_option maxRecDepth 100000 in
set_option maxHeartbeats 4000000 in
theorem signs_any (l b : Nat) (w : World) (hl : l < 256) (hb : b < 256) : Calls Tryz.prog 36 #[.int .i64 l, .int .i64 b] w (SgsPost w l b) := by
  have HT := Lib.hid (fun w2 => two_any l b w2 hl hb)
  rcases tw_cases (l * 256 + b) with ⟨_, ht⟩ | ⟨_, ht⟩ | ⟨_, ht⟩ | ⟨_, ht⟩ | ⟨ht, _⟩
  · have HV : Hid (sgT l b = ⟨#[195, 138, 204, 132]⟩) := Lib.hid (by rw [sgT_two ht (by omega)]; decide +kernel)
    have e : twV (l * 256 + b) = .tuple #[.int .i32 202, .int .i32 772] := by unfold twV; rw [ht]; rfl
    rw [e] at HT
    have HP : Hid (∀ w2, Calls Tryz.prog 32 #[.int .i32 202] w2 fun e w' => e = .returned (.string ⟨#[195, 138]⟩) ∧ Below w2.heap.size w2 w') := Lib.hid (fun w2 => by
      have := pt.bytes_any 202 w2 (by decide)
      rw [show strOfNums (encodeRuneZ 202) = ⟨#[195, 138]⟩ by decide +kernel] at this
      exact this)
    have HQ : Hid (∀ w2, Calls Tryz.prog 32 #[.int .i32 772] w2 fun e w' => e = .returned (.string ⟨#[204, 132]⟩) ∧ Below w2.heap.size w2 w') := Lib.hid (fun w2 => by
      have := pt.bytes_any 772 w2 (by decide)
      rw [show strOfNums (encodeRuneZ 772) = ⟨#[204, 132]⟩ by decide +kernel] at this
      exact this)
    clear e ht
    go_enter Tryz.func36, Tryz.ntmps36
    go_wp2_with (first | (go_at_call 65; refine (HT.out _).mono ?_; rintro e2 w2 ⟨rfl, rfl⟩) | (go_at_call 32; (with_reducible refine (HP.out _).mono ?_); rintro e3 w3 ⟨rfl, hb3⟩) | (go_at_call 32; (with_reducible refine (HQ.out _).mono ?_); rintro e4 w4 ⟨rfl, hb4⟩))
    go_ret
    exact sgsPost HV.out (hb3.trans (hb4.mono hb3.size))
  · have HV : Hid (sgT l b = ⟨#[195, 138, 204, 140]⟩) := Lib.hid (by rw [sgT_two ht (by omega)]; decide +kernel)
    have e : twV (l * 256 + b) = .tuple #[.int .i32 202, .int .i32 780] := by unfold twV; rw [ht]; rfl
    rw [e] at HT
    have HP : Hid (∀ w2, Calls Tryz.prog 32 #[.int .i32 202] w2 fun e w' => e = .returned (.string ⟨#[195, 138]⟩) ∧ Below w2.heap.size w2 w') := Lib.hid (fun w2 => by
      have := pt.bytes_any 202 w2 (by decide)
      rw [show strOfNums (encodeRuneZ 202) = ⟨#[195, 138]⟩ by decide +kernel] at this
      exact this)
    have HQ : Hid (∀ w2, Calls Tryz.prog 32 #[.int .i32 780] w2 fun e w' => e = .returned (.string ⟨#[204, 140]⟩) ∧ Below w2.heap.size w2 w') := Lib.hid (fun w2 => by
      have := pt.bytes_any 780 w2 (by decide)
      rw [show strOfNums (encodeRuneZ 780) = ⟨#[204, 140]⟩ by decide +kernel] at this
      exact this)
    clear e ht
    go_enter Tryz.func36, Tryz.ntmps36
    go_wp2_with (first | (go_at_call 65; refine (HT.out _).mono ?_; rintro e2 w2 ⟨rfl, rfl⟩) | (go_at_call 32; (with_reducible refine (HP.out _).mono ?_); rintro e3 w3 ⟨rfl, hb3⟩) | (go_at_call 32; (with_reducible refine (HQ.out _).mono ?_); rintro e4 w4 ⟨rfl, hb4⟩))
    go_ret
    exact sgsPost HV.out (hb3.trans (hb4.mono hb3.size))
  · have HV : Hid (sgT l b = ⟨#[195, 170, 204, 132]⟩) := Lib.hid (by rw [sgT_two ht (by omega)]; decide +kernel)
    have e : twV (l * 256 + b) = .tuple #[.int .i32 234, .int .i32 772] := by unfold twV; rw [ht]; rfl
    rw [e] at HT
    have HP : Hid (∀ w2, Calls Tryz.prog 32 #[.int .i32 234] w2 fun e w' => e = .returned (.string ⟨#[195, 170]⟩) ∧ Below w2.heap.size w2 w') := Lib.hid (fun w2 => by
      have := pt.bytes_any 234 w2 (by decide)
      rw [show strOfNums (encodeRuneZ 234) = ⟨#[195, 170]⟩ by decide +kernel] at this
      exact this)
    have HQ : Hid (∀ w2, Calls Tryz.prog 32 #[.int .i32 772] w2 fun e w' => e = .returned (.string ⟨#[204, 132]⟩) ∧ Below w2.heap.size w2 w') := Lib.hid (fun w2 => by
      have := pt.bytes_any 772 w2 (by decide)
      rw [show strOfNums (encodeRuneZ 772) = ⟨#[204, 132]⟩ by decide +kernel] at this
      exact this)
    clear e ht
    go_enter Tryz.func36, Tryz.ntmps36
    go_wp2_with (first | (go_at_call 65; refine (HT.out _).mono ?_; rintro e2 w2 ⟨rfl, rfl⟩) | (go_at_call 32; (with_reducible refine (HP.out _).mono ?_); rintro e3 w3 ⟨rfl, hb3⟩) | (go_at_call 32; (with_reducible refine (HQ.out _).mono ?_); rintro e4 w4 ⟨rfl, hb4⟩))
    go_ret
    exact sgsPost HV.out (hb3.trans (hb4.mono hb3.size))
  · have HV : Hid (sgT l b = ⟨#[195, 170, 204, 140]⟩) := Lib.hid (by rw [sgT_two ht (by omega)]; decide +kernel)
    have e : twV (l * 256 + b) = .tuple #[.int .i32 234, .int .i32 780] := by unfold twV; rw [ht]; rfl
    rw [e] at HT
    have HP : Hid (∀ w2, Calls Tryz.prog 32 #[.int .i32 234] w2 fun e w' => e = .returned (.string ⟨#[195, 170]⟩) ∧ Below w2.heap.size w2 w') := Lib.hid (fun w2 => by
      have := pt.bytes_any 234 w2 (by decide)
      rw [show strOfNums (encodeRuneZ 234) = ⟨#[195, 170]⟩ by decide +kernel] at this
      exact this)
    have HQ : Hid (∀ w2, Calls Tryz.prog 32 #[.int .i32 780] w2 fun e w' => e = .returned (.string ⟨#[204, 140]⟩) ∧ Below w2.heap.size w2 w') := Lib.hid (fun w2 => by
      have := pt.bytes_any 780 w2 (by decide)
      rw [show strOfNums (encodeRuneZ 780) = ⟨#[204, 140]⟩ by decide +kernel] at this
      exact this)
    clear e ht
    go_enter Tryz.func36, Tryz.ntmps36
    go_wp2_with (first | (go_at_call 65; refine (HT.out _).mono ?_; rintro e2 w2 ⟨rfl, rfl⟩) | (go_at_call 32; (with_reducible refine (HP.out _).mono ?_); rintro e3 w3 ⟨rfl, hb3⟩) | (go_at_call 32; (with_reducible refine (HQ.out _).mono ?_); rintro e4 w4 ⟨rfl, hb4⟩))
    go_ret
    exact sgsPost HV.out (hb3.trans (hb4.mono hb3.size))
  · have e : twV (l * 256 + b) = .tuple #[.int .i32 0, .int .i32 0] := by unfold twV; rw [ht]; rfl
    rw [e] at HT
    have HO : Hid (∀ w2, Calls Tryz.prog 66 #[.int .i64 l, .int .i64 b] w2 fun e w' => e = .returned (.int .i32 ((one l b : Nat) : Int)) ∧ Below w2.heap.size w2 w') := Lib.hid (fun w2 => one_any l b w2 hl hb)
    by_cases ho : one l b = 0
    · have HV : Hid (sgT l b = ⟨#[]⟩) := Lib.hid (sgT_none ht ho)
      rw [ho] at HO
      replace HO : Hid (∀ w2, Calls Tryz.prog 66 #[.int .i64 l, .int .i64 b] w2 fun e w' => e = .returned (.int .i32 0) ∧ Below w2.heap.size w2 w') := HO
      clear e ht ho
      go_enter Tryz.func36, Tryz.ntmps36
      go_wp2_with (first | (go_at_call 65; refine (HT.out _).mono ?_; rintro e2 w2 ⟨rfl, rfl⟩) | (go_at_call 66; refine (HO.out _).mono ?_; rintro e3 w3 ⟨rfl, hb3⟩))
      go_ret
      exact sgsPost HV.out hb3
    · have HV : Hid (sgT l b = strOfNums (encodeRuneZ ((one l b : Nat) : Int))) := Lib.hid (by rw [sgT_one ht ho, txt_one])
      have HP := Lib.hid (fun w2 => pt.bytes_any ((one l b : Nat) : Int) w2 (one_valid ho))
      have hne : ¬ ((one l b : Nat) : Int) = 0 := by omega
      generalize ((one l b : Nat) : Int) = P at *
      generalize strOfNums (encodeRuneZ P) = T at *
      have e1 : (P != 0) = true := by rw [bne, beq_eq_false_iff_ne.2 hne]; rfl
      clear e ht ho hne
      go_enter Tryz.func36, Tryz.ntmps36
      go_wp2_with (first | (go_at_call 65; refine (HT.out _).mono ?_; rintro e2 w2 ⟨rfl, rfl⟩) | (go_at_call 66; refine (HO.out _).mono ?_; rintro e3 w3 ⟨rfl, hb3⟩) | (go_at_call 32; refine (HP.out _).mono ?_; rintro e4 w4 ⟨rfl, hb4⟩))
      go_ret
      exact sgsPost HV.out (hb3.trans (hb4.mono hb3.size))
end Go.Proofs.YtbgbgigpcegenaaGreatDoor.bg
namespace Go.Proofs.YtbgbgigpcegenaaGreatDoor.bg
open Go.RowKit Go.Lib
set_option linter.unusedVariables false
theorem codeW_not {z y : Int} (rest : List Int) (h : twB z y = none) : codeW (z :: y :: rest) = (plc z).map fun j => (cdJ j, 1) := by
  show (match twB z y with | some b => some (34816 + b, 2) | none => _) = _
  rw [h]
end Go.Proofs.YtbgbgigpcegenaaGreatDoor.bg
namespace Go.Proofs.YtbgbgigpcegenaaGreatDoor.pt
open Go.RowKit Go.Lib
set_option linter.unusedVariables false
theorem sc_fuel (s : ByteArray) : ∀ f g pos, s.size ≤ pos + f → s.size ≤ pos + g → sc s f pos = sc s g pos
  | 0, g, pos, h, _ => by rw [sc_end s 0 pos (by omega), sc_end s g pos (by omega)]
  | f + 1, 0, pos, _, h => by rw [sc_end s 0 pos (by omega), sc_end s (f + 1) pos (by omega)]
  | f + 1, g + 1, pos, h1, h2 => by
    by_cases hp : pos < s.size
    · cases hb : bad s pos with
      | true => simp [sc, hp, hb]
      | false =>
        have hw := width_pos s pos
        rw [sc_good s f pos hp hb, sc_good s g pos hp hb, sc_fuel s f g (pos + (Utf8.decode s pos).2) (by omega) (by omega)]
    · rw [sc_end s (f + 1) pos hp, sc_end s (g + 1) pos hp]
theorem sc_shift (t s : ByteArray) (k : Nat) (hk : t.extract k t.size = s) (hkt : k ≤ t.size) : ∀ f pos, (sc t f (k + pos)).2 = ((sc s f pos).2).map (k + ·)
  | 0, pos => rfl
  | f + 1, pos => by
    have hz : s.size = t.size - k := by rw [← hk, ByteArray.size_extract]; omega
    have hd : Utf8.decode s pos = Utf8.decode t (k + pos) := by rw [← hk, tail_decode]
    have hb : bad s pos = bad t (k + pos) := by unfold bad; rw [hd]
    by_cases hp : pos < s.size
    · cases hb2 : bad s pos with
      | true =>
        have hb3 := hb ▸ hb2
        simp [sc, hp, hb2, hb3, show k + pos < t.size by omega]
      | false =>
        have hb3 := hb ▸ hb2
        rw [sc_good s f pos hp hb2, sc_good t f (k + pos) (by omega) hb3, ← hd]
        have ih := sc_shift t s k hk hkt f (pos + (Utf8.decode s pos).2)
        rw [← Nat.add_assoc] at ih
        exact ih
    · rw [sc_end s (f + 1) pos hp, sc_end t (f + 1) (k + pos) (by omega)]; rfl
theorem data_app (t s : ByteArray) : (t ++ s).data.toList = t.data.toList ++ s.data.toList := by simp
theorem ext_app (t s : ByteArray) : (t ++ s).extract t.size (t ++ s).size = s := by
  apply ByteArray.ext
  have h1 : t.data.extract t.size (t.size + s.size) = #[] := by
    apply Array.eq_empty_of_size_eq_zero
    have e : t.data.size = t.size := rfl
    rw [Array.size_extract]; omega
  have h2 : s.data.extract 0 s.size = s.data := Array.extract_size (xs := s.data)
  simp [h1, h2]
theorem scan_app (zs : List Int) (hv : zs.all validRune = true) (s : ByteArray) : (scan (txt zs ++ s)).2 = ((scan s).2).map ((txt zs).size + ·) := by
  have hz : (txt zs ++ s).size = (txt zs).size + s.size := ByteArray.size_append
  have h := (sc_ahead (txt zs ++ s) s.data.toList zs (txt zs ++ s).size 0 (by unfold Ahead; rw [List.drop_zero, data_app, txt_data]) (by omega) (by omega) hv).1
  have h2 : (scan (txt zs ++ s)).2 = (sc (txt zs ++ s) ((txt zs ++ s).size - zs.length) (0 + (nums zs).length)).2 := h
  have hle : zs.length ≤ (nums zs).length := by
    clear h h2 hz hv
    induction zs with
    | nil => simp
    | cons x zs ih => have := (encodeRuneZ_length x).1; have e : (nums (x :: zs)).length = (encodeRuneZ x).length + (nums zs).length := by simp [nums]
                      rw [e, List.length_cons]; omega
  have hsz := txt_size zs
  rw [h2, sc_fuel _ _ s.size _ (by omega) (by omega)]
  have h3 := sc_shift (txt zs ++ s) s (txt zs).size (ext_app _ _) (by omega) s.size 0
  rw [Nat.add_zero] at h3
  rw [Nat.zero_add, ← hsz]
  exact h3
theorem sc_plain (s : ByteArray) (hp : isPlain s = true) : ∀ f pos, s.size ≤ pos + f → (sc s f pos).2 = none ∧ (sc s f pos).1.length = s.size - pos
  | 0, pos, h => by simp [sc]; omega
  | f + 1, pos, h => by
    by_cases hlt : pos < s.size
    · have hk : pos < s.data.toList.length := by rw [Array.length_toList]; exact hlt
      have h1 : (s[pos]'hlt).toNat < 128 := by
        have h1 := List.all_eq_true.1 hp _ (List.getElem_mem hk)
        have h2 : (s.data.toList[pos]).toNat < 128 := by simpa using h1
        exact h2
      have hd := decode_ascii s pos hlt h1
      have hb : bad s pos = false := by
        unfold bad
        rw [hd]
        have : ((s[pos]'hlt).toNat == 65533) = false := by simp; omega
        simp [this]
      rw [sc_good s f pos hlt hb, hd]
      have ih := sc_plain s hp f (pos + 1) (by omega)
      refine ⟨ih.1, ?_⟩
      simp only [List.length_cons]
      rw [ih.2]; omega
    · rw [sc_end s (f + 1) pos hlt]; simp; omega
end Go.Proofs.YtbgbgigpcegenaaGreatDoor.pt
namespace Go.Proofs.YtbgbgigpcegenaaGreatDoor.ch
open Go.RowKit Go.Lib
set_option linter.unusedVariables false
/-- A byte of a text; beyond its end: 0. -/
def bt (s : ByteArray) (i : Nat) : Nat := (s.data.toList.getD i 0).toNat
theorem bt_lt (s : ByteArray) (i : Nat) : bt s i < 256 := UInt8.toNat_lt _
theorem size_list (s : ByteArray) : s.data.toList.length = s.size := by rw [Array.length_toList]; rfl
theorem bt_get (s : ByteArray) (i : Nat) (h : i < s.size) : (s[i]).toNat = bt s i := by
  unfold bt
  have hk : i < s.data.toList.length := by rw [size_list]; exact h
  rw [List.getD_eq_getElem?_getD, List.getElem?_eq_getElem hk]
  rfl
theorem bt_left (a b : ByteArray) (i : Nat) (h : i < a.size) : bt (a ++ b) i = bt a i := by
  unfold bt
  rw [pt.data_app, List.getD_eq_getElem?_getD, List.getD_eq_getElem?_getD, List.getElem?_append_left (by rw [size_list]; exact h)]
theorem bt_right (a b : ByteArray) (i : Nat) : bt (a ++ b) (a.size + i) = bt b i := by
  unfold bt
  rw [pt.data_app, List.getD_eq_getElem?_getD, List.getD_eq_getElem?_getD, List.getElem?_append_right (by rw [size_list]; omega), size_list, Nat.add_sub_cancel_left]
/-- The signs of two bytes. -/
def sg2 (c : Int) (l b : Nat) : List Nat := if c = 4 then (if wa.sgW l b = 0 then [] else [wa.sgW l b]) else if c = 5 then (if jo.sg (l * 256 + b) = 0 then [] else [jo.sg (l * 256 + b)]) else bg.sgL l b
/-- The signs from a place on, in a charset of two bytes a sign, and where none stands. -/
def tb (c : Int) (s : ByteArray) : Nat → Nat → List Int × Option Nat
  | 0, _ => ([], none)
  | f + 1, pos => if pos < s.size then
      (if bt s pos < 128 then (((bt s pos : Nat) : Int) :: (tb c s f (pos + 1)).1, (tb c s f (pos + 1)).2)
      else if pos + 1 < s.size ∧ sg2 c (bt s pos) (bt s (pos + 1)) ≠ [] then ((sg2 c (bt s pos) (bt s (pos + 1))).map Int.ofNat ++ (tb c s f (pos + 2)).1, (tb c s f (pos + 2)).2)
      else ([], some pos))
    else ([], none)
theorem tb_end (c : Int) (s : ByteArray) (f pos : Nat) (h : ¬ pos < s.size) : tb c s f pos = ([], none) := by cases f <;> simp [tb, h]
theorem tb_low (c : Int) (s : ByteArray) (f pos : Nat) (h : pos < s.size) (hl : bt s pos < 128) : tb c s (f + 1) pos = (((bt s pos : Nat) : Int) :: (tb c s f (pos + 1)).1, (tb c s f (pos + 1)).2) := by simp [tb, h, hl]
theorem tb_two (c : Int) (s : ByteArray) (f pos : Nat) (h : pos < s.size) (hl : ¬ bt s pos < 128) (h2 : pos + 1 < s.size ∧ sg2 c (bt s pos) (bt s (pos + 1)) ≠ []) : tb c s (f + 1) pos = ((sg2 c (bt s pos) (bt s (pos + 1))).map Int.ofNat ++ (tb c s f (pos + 2)).1, (tb c s f (pos + 2)).2) := by
  show (if pos < s.size then (if bt s pos < 128 then _ else if pos + 1 < s.size ∧ sg2 c (bt s pos) (bt s (pos + 1)) ≠ [] then _ else _) else _) = _
  rw [if_pos h, if_neg hl, if_pos h2]
theorem tb_bad (c : Int) (s : ByteArray) (f pos : Nat) (h : pos < s.size) (hl : ¬ bt s pos < 128) (h2 : ¬ (pos + 1 < s.size ∧ sg2 c (bt s pos) (bt s (pos + 1)) ≠ [])) : tb c s (f + 1) pos = ([], some pos) := by
  show (if pos < s.size then (if bt s pos < 128 then _ else if pos + 1 < s.size ∧ sg2 c (bt s pos) (bt s (pos + 1)) ≠ [] then _ else _) else _) = _
  rw [if_pos h, if_neg hl, if_neg h2]
theorem tb_fuel (c : Int) (s : ByteArray) : ∀ f g pos, s.size ≤ pos + f → s.size ≤ pos + g → tb c s f pos = tb c s g pos
  | 0, g, pos, h, _ => by rw [tb_end c s 0 pos (by omega), tb_end c s g pos (by omega)]
  | f + 1, 0, pos, _, h => by rw [tb_end c s 0 pos (by omega), tb_end c s (f + 1) pos (by omega)]
  | f + 1, g + 1, pos, h1, h2 => by
    by_cases hp : pos < s.size
    · by_cases hl : bt s pos < 128
      · rw [tb_low c s f pos hp hl, tb_low c s g pos hp hl, tb_fuel c s f g (pos + 1) (by omega) (by omega)]
      · by_cases h3 : pos + 1 < s.size ∧ sg2 c (bt s pos) (bt s (pos + 1)) ≠ []
        · rw [tb_two c s f pos hp hl h3, tb_two c s g pos hp hl h3, tb_fuel c s f g (pos + 2) (by omega) (by omega)]
        · rw [tb_bad c s f pos hp hl h3, tb_bad c s g pos hp hl h3]
    · rw [tb_end c s (f + 1) pos hp, tb_end c s (g + 1) pos hp]
theorem tb_shift (c : Int) (a b : ByteArray) : ∀ f pos, tb c (a ++ b) f (a.size + pos) = ((tb c b f pos).1, ((tb c b f pos).2).map (a.size + ·))
  | 0, pos => rfl
  | f + 1, pos => by
    have hz : (a ++ b).size = a.size + b.size := ByteArray.size_append
    by_cases hp : pos < b.size
    · by_cases hl : bt b pos < 128
      · rw [tb_low c b f pos hp hl, tb_low c (a ++ b) f (a.size + pos) (by omega) (by rw [bt_right]; exact hl), bt_right, Nat.add_assoc, tb_shift c a b f (pos + 1)]
      · have hl2 : ¬ bt (a ++ b) (a.size + pos) < 128 := by rw [bt_right]; exact hl
        by_cases h3 : pos + 1 < b.size ∧ sg2 c (bt b pos) (bt b (pos + 1)) ≠ []
        · rw [tb_two c b f pos hp hl h3, tb_two c (a ++ b) f (a.size + pos) (by omega) hl2 (by rw [Nat.add_assoc, bt_right, bt_right]; exact ⟨by omega, h3.2⟩), Nat.add_assoc, bt_right, bt_right, Nat.add_assoc, tb_shift c a b f (pos + 2)]
        · rw [tb_bad c b f pos hp hl h3, tb_bad c (a ++ b) f (a.size + pos) (by omega) hl2 (by rw [Nat.add_assoc, bt_right, bt_right]; intro h; exact h3 ⟨by omega, h.2⟩)]
          rfl
    · rw [tb_end c b (f + 1) pos hp, tb_end c (a ++ b) (f + 1) (a.size + pos) (by omega)]; rfl
theorem tb_app (c : Int) (a b : ByteArray) : ∀ f pos, pos ≤ a.size → a.size ≤ pos + f → (tb c a f pos).2 = none → tb c (a ++ b) (f + b.size) pos = ((tb c a f pos).1 ++ (tb c b b.size 0).1, ((tb c b b.size 0).2).map (a.size + ·))
  | 0, pos, h1, h2, _ => by
    obtain rfl : pos = a.size := by omega
    have := tb_shift c a b b.size 0
    rw [Nat.zero_add]
    exact this
  | f + 1, pos, h1, h2, h3 => by
    have hz : (a ++ b).size = a.size + b.size := ByteArray.size_append
    have e : f + 1 + b.size = (f + b.size) + 1 := by omega
    by_cases hp : pos < a.size
    · by_cases hl : bt a pos < 128
      · have hl2 : bt (a ++ b) pos < 128 := by rw [bt_left a b pos hp]; exact hl
        rw [tb_low c a f pos hp hl] at h3 ⊢
        rw [e, tb_low c (a ++ b) (f + b.size) pos (by omega) hl2, bt_left a b pos hp, tb_app c a b f (pos + 1) (by omega) (by omega) h3]
        rfl
      · have hl2 : ¬ bt (a ++ b) pos < 128 := by rw [bt_left a b pos hp]; exact hl
        by_cases h4 : pos + 1 < a.size ∧ sg2 c (bt a pos) (bt a (pos + 1)) ≠ []
        · rw [tb_two c a f pos hp hl h4] at h3 ⊢
          rw [e, tb_two c (a ++ b) (f + b.size) pos (by omega) hl2 (by rw [bt_left a b pos hp, bt_left a b (pos + 1) h4.1]; exact ⟨by omega, h4.2⟩), bt_left a b pos hp, bt_left a b (pos + 1) h4.1, tb_app c a b f (pos + 2) (by omega) (by omega) h3, List.append_assoc]
        · rw [tb_bad c a f pos hp hl h4] at h3; cases h3
    · obtain rfl : pos = a.size := by omega
      have h5 : tb c (a ++ b) (f + 1 + b.size) a.size = ((tb c b (f + 1 + b.size) 0).1, ((tb c b (f + 1 + b.size) 0).2).map (a.size + ·)) := tb_shift c a b (f + 1 + b.size) 0
      rw [h5, tb_end c a (f + 1) a.size (by omega), tb_fuel c b (f + 1 + b.size) b.size 0 (by omega) (by omega)]
      rfl
/-- The signs of bytes in a charset, and where none stands. -/
def dz (c : Int) (s : ByteArray) : List Int × Option Nat := if c ≤ 3 then (sg.sdec c s.data.toList, none) else if c = 7 then (pt.zsOf s, (pt.scan s).2) else if 8 ≤ c then wd.wscan s (c == 9) else tb c s s.size 0
def inC (c : Int) : Prop := 0 ≤ c ∧ c ≤ 9
instance (c : Int) : Decidable (inC c) := by unfold inC; exact inferInstance
/-- What Decode answers: the text, the error, the place. -/
def dcT (c : Int) (s : ByteArray) : ByteArray := if inC c ∧ (dz c s).2 = none then pt.txt (dz c s).1 else ⟨#[]⟩
def dcE (c : Int) (s : ByteArray) : Int := if inC c then (if (dz c s).2 = none then 0 else 2) else 5
def dcA (c : Int) (s : ByteArray) : Int := if inC c then (match (dz c s).2 with | none => 0 | some a => (a : Int)) else 0
theorem dz_app {c : Int} {a b : ByteArray} (h0 : 0 ≤ c) (h7 : c ≤ 7) (h : (dz c a).2 = none) : (dz c (a ++ b)).2 = ((dz c b).2).map (a.size + ·) ∧ ((dz c b).2 = none → pt.txt (dz c (a ++ b)).1 = pt.txt (dz c a).1 ++ pt.txt (dz c b).1) := by
  unfold dz at *
  by_cases h3 : c ≤ 3
  · simp only [if_pos h3] at *
    refine ⟨rfl, fun _ => ?_⟩
    rw [pt.data_app]
    unfold sg.sdec
    rw [List.map_append]
    exact txt_app _ _
  · simp only [if_neg h3] at *
    by_cases h77 : c = 7
    · simp only [if_pos h77] at *
      have ha : pt.txt (pt.zsOf a) = a := pt.txt_back a h
      have h1 := pt.scan_app (pt.zsOf a) (pt.zsOf_valid a) b
      rw [ha] at h1
      refine ⟨h1, fun hb => ?_⟩
      rw [hb] at h1
      rw [pt.txt_back (a ++ b) h1, ha, pt.txt_back b hb]
    · simp only [if_neg h77, if_neg (show ¬ 8 ≤ c by omega)] at *
      have hz : (a ++ b).size = a.size + b.size := ByteArray.size_append
      have h1 := tb_app c a b a.size 0 (Nat.zero_le _) (by omega) h
      rw [hz, h1]
      exact ⟨rfl, fun _ => txt_app _ _⟩
where
  txt_app (a b : List Int) : pt.txt (a ++ b) = pt.txt a ++ pt.txt b := by
    apply ByteArray.ext
    apply Array.ext'
    show (pt.txt (a ++ b)).data.toList = (pt.txt a ++ pt.txt b).data.toList
    rw [pt.data_app, pt.txt_data, pt.txt_data, pt.txt_data]
    simp [pt.nums]
/-- Bytes repeat (first | (with_reducible exact Below.refl _ _) | (with_reducible refine Below.setCell ?_ (by simp) _) | (with_reducible refine Below.alloc ?_ (by simp) _)) 128. -/
theorem plain_at {s : ByteArray} (h : pt.isPlain s = true) (i : Nat) : bt s i < 128 := by
  unfold bt
  rw [List.getD_eq_getElem?_getD]
  by_cases hi : i < s.data.toList.length
  · rw [List.getElem?_eq_getElem hi]
    have := List.all_eq_true.1 h _ (List.getElem_mem hi)
    simpa using this
  · rw [List.getElem?_eq_none (by omega)]; simp
def pz (s : ByteArray) : List Int := s.data.toList.map fun x => (x.toNat : Int)
theorem tb_plain (c : Int) (s : ByteArray) (h : pt.isPlain s = true) : ∀ f pos, s.size ≤ pos + f → tb c s f pos = ((pz s).drop pos, none)
  | 0, pos, hf => by
    rw [tb_end c s 0 pos (by omega), List.drop_eq_nil_of_le (by unfold pz; rw [List.length_map, size_list]; omega)]
  | f + 1, pos, hf => by
    by_cases hp : pos < s.size
    · have hk : pos < (pz s).length := by unfold pz; rw [List.length_map, size_list]; exact hp
      rw [tb_low c s f pos hp (plain_at h pos), tb_plain c s h f (pos + 1) (by omega), List.drop_eq_getElem_cons hk]
      congr 1
      congr 1
      have hk2 : pos < s.data.toList.length := by rw [size_list]; exact hp
      have e1 : bt s pos = (s.data.toList[pos]).toNat := by unfold bt; rw [List.getD_eq_getElem?_getD, List.getElem?_eq_getElem hk2]; rfl
      have e2 : (pz s)[pos]? = some (((s.data.toList[pos]).toNat : Nat) : Int) := by unfold pz; rw [List.getElem?_map, List.getElem?_eq_getElem hk2]; rfl
      rw [List.getElem?_eq_getElem hk] at e2
      injection e2 with e2
      rw [e1, e2]
    · rw [tb_end c s (f + 1) pos hp, List.drop_eq_nil_of_le (by unfold pz; rw [List.length_map, size_list]; omega)]
theorem nums_plain : ∀ (l : List UInt8), (∀ x ∈ l, x.toNat < 128) → pt.nums (l.map fun x => (x.toNat : Int)) = l.map fun x => (x.toNat : Int)
  | [], _ => rfl
  | x :: l, h => by
    have h1 := h x List.mem_cons_self
    have h2 := nums_plain l (fun y hy => h y (List.mem_cons_of_mem _ hy))
    have e : pt.nums ((x :: l).map fun x => (x.toNat : Int)) = encodeRuneZ (x.toNat : Int) ++ pt.nums (l.map fun x => (x.toNat : Int)) := by simp [pt.nums]
    rw [e, h2]
    have e2 : encodeRuneZ (x.toNat : Int) = [(x.toNat : Int)] := by
      unfold encodeRuneZ
      rw [if_pos (by omega)]
    rw [e2]
    rfl
theorem txt_plain {s : ByteArray} (h : pt.isPlain s = true) : pt.txt (pz s) = s := by
  unfold pt.txt pz
  rw [nums_plain _ (fun x hx => by simpa using List.all_eq_true.1 h x hx)]
  exact pt.str_back s
theorem dz_plain {c : Int} {s : ByteArray} (h0 : 0 ≤ c) (h7 : c ≤ 7) (h : pt.isPlain s = true) : (dz c s).2 = none ∧ pt.txt (dz c s).1 = s := by
  unfold dz
  by_cases h3 : c ≤ 3
  · simp only [if_pos h3]
    refine ⟨trivial, ?_⟩
    have e : sg.sdec c s.data.toList = pz s := by
      unfold sg.sdec pz
      apply List.map_congr_left
      intro x hx
      have := List.all_eq_true.1 h x hx
      unfold sg.sgn
      rw [if_pos (.inr (by simpa using this))]
    rw [e]; exact txt_plain h
  · simp only [if_neg h3]
    by_cases h77 : c = 7
    · simp only [if_pos h77]
      have h1 : (pt.scan s).2 = none := (pt.sc_plain s h s.size 0 (by omega)).1
      exact ⟨h1, pt.txt_back s h1⟩
    · simp only [if_neg h77, if_neg (show ¬ 8 ≤ c by omega)]
      rw [tb_plain c s h s.size 0 (by omega), List.drop_zero]
      exact ⟨rfl, txt_plain h⟩
theorem sg2_len (c : Int) (l b : Nat) : (sg2 c l b).length ≤ 2 := by
  unfold sg2
  by_cases h4 : c = 4
  · rw [if_pos h4]; split <;> simp
  · rw [if_neg h4]
    by_cases h5 : c = 5
    · rw [if_pos h5]; split <;> simp
    · rw [if_neg h5]
      unfold bg.sgL
      split
      · simp
      · split <;> simp
theorem txt_most (l : List Int) : (pt.txt l).size ≤ 4 * l.length := by rw [pt.txt_size]; exact pt.nums_len l
end Go.Proofs.YtbgbgigpcegenaaGreatDoor.ch
namespace Go.Proofs.YtbgbgigpcegenaaGreatDoor.sg
open Go.RowKit Go.Lib
set_option linter.unusedVariables false
theorem data_app (t s : ByteArray) : (t ++ s).data.toList = t.data.toList ++ s.data.toList := by simp
theorem txt_snoc (zs : List Int) (p : Int) : pt.txt zs ++ strOfNums (encodeRuneZ p) = pt.txt (zs ++ [p]) := by
  apply ByteArray.ext
  apply Array.ext'
  show (pt.txt zs ++ strOfNums (encodeRuneZ p)).data.toList = (pt.txt (zs ++ [p])).data.toList
  rw [data_app, pt.txt_data, pt.txt_data, strOfNums_data]
  simp [pt.nums]
theorem ret_si {s : ByteArray} {a b : Int} (h : a = b) : Ending.returned (.tuple #[.string s, .int .i64 a]) = .returned (.tuple #[.string s, .int .i64 b]) := by rw [h]
theorem sdec_len (c : Int) (l : List UInt8) : (sdec c l).length = l.length := by simp [sdec]
theorem sdec_app (c : Int) (a b : List UInt8) : sdec c (a ++ b) = sdec c a ++ sdec c b := by simp [sdec]
theorem txt_app (a b : List Int) : pt.txt (a ++ b) = pt.txt a ++ pt.txt b := by
  apply ByteArray.ext
  apply Array.ext'
  show (pt.txt (a ++ b)).data.toList = (pt.txt a ++ pt.txt b).data.toList
  rw [data_app, pt.txt_data, pt.txt_data, pt.txt_data]
  simp [pt.nums]
theorem txt_most (l : List Int) : (pt.txt l).size ≤ 4 * l.length := by
  show (strOfNums (pt.nums l)).size ≤ _
  rw [strOfNums_size]; exact pt.nums_len l
set_option maxRecDepth 100000 in
set_option maxHeartbeats 2000000 in
theorem refDecode_any (c : Int) (s : ByteArray) (w : World) (h0 : 0 ≤ c) (h1 : c ≤ 3) (hs : s.size ≤ 8000) :
    Calls Tryz.prog 13 #[.int .i64 c, .string s] w fun e w' => e = .returned (.string (pt.txt (sdec c s.data.toList))) ∧ Below w.heap.size w w' := by
  have hl : s.data.toList.length = s.size := by rw [Array.length_toList]; rfl
  obtain ⟨T, hT⟩ : ∃ T, T = pt.txt (sdec c s.data.toList) := ⟨_, rfl⟩
  rw [← hT]
  have HT := Lib.hid hT; have HL := Lib.hid hl
  clear hT hl
  go_enter Tryz.func13, Tryz.ntmps13
  go_wp2_with fail
  go_loopw [5, 6] (fun t i wr => ∃ j : Nat, j ≤ s.size ∧ i = .int .i64 j ∧ t = .string (pt.txt (sdec c (s.data.toList.take j))) ∧ Below w.heap.size w wr) (fun _ i _ => s.size - (RowKit.intOf i).toNat)
  case atStart => exact ⟨0, Nat.zero_le _, rfl, by simp [sdec]; rfl, Below.refl _ _⟩
  case round =>
    obtain ⟨j, hj, rfl, rfl, hB⟩ := hrel
    have HB := Lib.hid hB
    clear hB
    by_cases hlt : j < s.size
    · have htk : s.data.toList.take (j + 1) = s.data.toList.take j ++ [s[j]] := by
        rw [List.take_add_one, List.getElem?_eq_getElem (by have := HL.out; omega)]; simp; rfl
      have hb := (s[j]).toNat_lt
      have hsn : pt.txt (sdec c (s.data.toList.take j)) ++ strOfNums (encodeRuneZ (sgn c (s[j]).toNat)) = pt.txt (sdec c (s.data.toList.take (j + 1))) := by
        rw [htk, sdec_app, txt_snoc]; rfl
      have hBY := fun w2 => pt.bytes_any (sgn c (s[j]).toNat) w2 (sgn_valid h0 h1 hb)
      have hSG := fun w2 => sign_any c (s[j]).toNat w2 h0 h1 hb
      have hBs : (strOfNums (encodeRuneZ (sgn c (s[j]).toNat))).size ≤ 4 := by rw [strOfNums_size]; exact (encodeRuneZ_length _).2
      have hTs := txt_most (sdec c (s.data.toList.take j))
      rw [sdec_len] at hTs
      have hTl : (s.data.toList.take j).length ≤ j := List.length_take_le _ _
      generalize sgn c (s[j]).toNat = S at *
      generalize strOfNums (encodeRuneZ S) = B at *
      generalize pt.txt (sdec c (s.data.toList.take j)) = T0 at *
      have hcat : ¬ 9223372036854775807 < T0.size + B.size := by omega
      have HSN := Lib.hid hsn; have HBY := Lib.hid hBY; have HSG := Lib.hid hSG
      clear htk hsn hBY hSG hBs hTs hTl
      go_wp2_with (first | (go_at_call 33; refine (HSG.out _).mono ?_; rintro e2 w2 ⟨rfl, hb2⟩) | (go_at_call 32; refine (HBY.out _).mono ?_; rintro e3 w3 ⟨rfl, hb3⟩))
      go_roundw
      case rel => exact ⟨j + 1, by omega, by go_num, by rw [HSN.out], (HB.out.trans (hb2.mono HB.out.size)).trans (hb3.mono (Nat.le_trans HB.out.size hb2.size))⟩
      case measure => simp [RowKit.intOf]; omega
    · have hR : Hid (pt.txt (sdec c (s.data.toList.take j)) = T) := Lib.hid (by rw [List.take_of_length_le (by have := HL.out; omega)]; exact HT.out.symm)
      go_wp2_with fail
      go_ret
      exact ⟨congrArg (fun t => Ending.returned (.string t)) hR.out, HB.out⟩
/-- Where the signs of a row begin whose text has begun before. -/
def far : Option Nat → Int
  | none => -1
  | some a => (a : Int)
theorem senc_cons_bad {c p : Int} {l : List Int} {a : Nat} (h : byte c p < 0) : senc c a (p :: l) = ([], some a) := by
  show (if byte c p < 0 then _ else _) = _
  rw [if_pos h]
theorem senc_cons_good {c p : Int} {l : List Int} {a k : Nat} (h : byte c p = (k : Int)) : senc c a (p :: l) = (UInt8.ofNat k :: (senc c (a + (encodeRuneZ p).length) l).1, (senc c (a + (encodeRuneZ p).length) l).2) := by
  show (if byte c p < 0 then _ else _) = _
  rw [if_neg (by omega), h]
  rfl
end Go.Proofs.YtbgbgigpcegenaaGreatDoor.sg
namespace Go.Proofs.YtbgbgigpcegenaaGreatDoor.ch
open Go.RowKit Go.Lib
set_option linter.unusedVariables false
/-- What all walks ask: the examples of the layers repeat (first | (with_reducible exact Below.refl _ _) | (with_reducible refine Below.setCell ?_ (by simp) _) | (with_reducible refine Below.alloc ?_ (by simp) _)), Decode, a name. -/
structure Ch (K : World → Prop) : Prop where
  stay : ∀ w w', K w → Below w.heap.size w w' → K w'
  a2 : ∀ w, K w → Calls Tryz.prog 27 #[] w fun e w' => e = .returned (.bool true) ∧ Below w.heap.size w w'
  a5 : ∀ w, K w → Calls Tryz.prog 28 #[] w fun e w' => e = .returned (.bool true) ∧ Below w.heap.size w w'
  a6 : ∀ w, K w → Calls Tryz.prog 29 #[] w fun e w' => e = .returned (.bool true) ∧ Below w.heap.size w w'
  a7 : ∀ w, K w → Calls Tryz.prog 30 #[] w fun e w' => e = .returned (.bool true) ∧ Below w.heap.size w w'
  a8 : ∀ w, K w → Calls Tryz.prog 31 #[] w fun e w' => e = .returned (.bool true) ∧ Below w.heap.size w w'
  dec : ∀ (c : Int) (s : ByteArray) w, K w → -9223372036854775808 ≤ c → c ≤ 9223372036854775807 → s.size ≤ 4000 → Calls Tryz.prog 9 #[.int .i64 c, .string s] w fun e w' => e = .returned (.tuple #[.string (dcT c s), .agg #[.int .i64 (dcE c s), .int .i64 (dcA c s)]]) ∧ Below w.heap.size w w'
  utf : ∀ w, K w → Calls Tryz.prog 26 #[.string ⟨#[85, 84, 70, 56]⟩] w fun e w' => e = .returned (.tuple #[.int .i64 7, .bool true]) ∧ Below w.heap.size w w'
/-- The world so far. -/
structure Kb (K : World → Prop) (w W : World) : Prop where
  k : K W
  b : Below w.heap.size w W
theorem Kb.below {K : World → Prop} (L : ∀ w w', K w → Below w.heap.size w w' → K w') {w W W' : World} (h : Kb K w W) (hb : Below W.heap.size W W') : Kb K w W' := ⟨L _ _ h.k hb, h.b.trans (hb.mono h.b.size)⟩
theorem ex_one : dcT 4 ⟨#[97, 176, 161]⟩ = ⟨#[97, 234, 176, 128]⟩ ∧ dcE 4 ⟨#[97, 176, 161]⟩ = 0 ∧ dcA 4 ⟨#[97, 176, 161]⟩ = 0 := by
  have h : dz 4 ⟨#[97, 176, 161]⟩ = ([97, 44032], none) := by decide +kernel
  have hi : inC 4 := by decide
  unfold dcT dcE dcA
  rw [h]
  simp only [hi, if_true, and_self]
  exact ⟨by decide +kernel, trivial⟩
theorem ex_two : dcT 4 ⟨#[97, 176]⟩ = ⟨#[]⟩ ∧ dcE 4 ⟨#[97, 176]⟩ = 2 ∧ dcA 4 ⟨#[97, 176]⟩ = 1 := by
  have h : dz 4 ⟨#[97, 176]⟩ = ([97], some 1) := by decide +kernel
  have hi : inC 4 := by decide
  unfold dcT dcE dcA
  rw [h]
  simp [hi]
set_option maxRecDepth 100000 in
set_option maxHeartbeats 4000000 in
theorem Awake_any {K : World → Prop} (L : Ch K) (w : World) (hK : K w) : Calls Tryz.prog 12 #[] w fun e w' => e = .returned (.bool true) ∧ Below w.heap.size w w' := by
  have HD1 : Hid (∀ W, K W → Calls Tryz.prog 9 #[.int .i64 4, .string ⟨#[97, 176, 161]⟩] W fun e w' => e = .returned (.tuple #[.string ⟨#[97, 234, 176, 128]⟩, .agg #[.int .i64 0, .int .i64 0]]) ∧ Below W.heap.size W w') := Lib.hid (fun W h => by
    have := L.dec 4 ⟨#[97, 176, 161]⟩ W h (by omega) (by omega) (by decide)
    rw [ex_one.1, ex_one.2.1, ex_one.2.2] at this
    exact this)
  have HD2 : Hid (∀ W, K W → Calls Tryz.prog 9 #[.int .i64 4, .string ⟨#[97, 176]⟩] W fun e w' => e = .returned (.tuple #[.string ⟨#[]⟩, .agg #[.int .i64 2, .int .i64 1]]) ∧ Below W.heap.size W w') := Lib.hid (fun W h => by
    have := L.dec 4 ⟨#[97, 176]⟩ W h (by omega) (by omega) (by decide)
    rw [ex_two.1, ex_two.2.1, ex_two.2.2] at this
    exact this)
  have HBD : Hid (∀ W, Calls Tryz.prog 11 #[.agg #[.int .i64 0, .int .i64 0]] W fun e w' => e = .returned (.bool false) ∧ Below W.heap.size W w') := Lib.hid (fun W => pt.bad_any W 0 0)
  have HL := Lib.hid L.stay; have H2 := Lib.hid L.a2; have H5 := Lib.hid L.a5; have H6 := Lib.hid L.a6; have H7 := Lib.hid L.a7; have H8 := Lib.hid L.a8; have HU := Lib.hid L.utf
  have K0 : Hid (Kb K w w) := Lib.hid ⟨hK, Below.refl _ _⟩
  clear L hK
  go_enter Tryz.func12, Tryz.ntmps12
  go_wp2_with (first
    | (go_at_call 27; refine (H2.out _ K3.out.k).mono ?_; rintro e4 w4 ⟨rfl, hb4⟩; have K4 := Lib.hid (K3.out.below HL.out hb4); have F2 := Lib.hid (F2.out.below hb4 F2.out.lt); have G2 := Lib.hid (G2.out.below hb4 G2.out.lt); obtain ⟨_, f0, f1, _, _⟩ := F2.out; obtain ⟨_, g0, g1, _, _⟩ := G2.out; clear hb4)
    | (go_at_call 28; refine (H5.out _ K4.out.k).mono ?_; rintro e4 w4 ⟨rfl, hb4⟩; have K4 := Lib.hid (K4.out.below HL.out hb4); have F2 := Lib.hid (F2.out.below hb4 F2.out.lt); have G2 := Lib.hid (G2.out.below hb4 G2.out.lt); obtain ⟨_, f0, f1, _, _⟩ := F2.out; obtain ⟨_, g0, g1, _, _⟩ := G2.out; clear hb4)
    | (go_at_call 29; refine (H6.out _ K4.out.k).mono ?_; rintro e4 w4 ⟨rfl, hb4⟩; have K4 := Lib.hid (K4.out.below HL.out hb4); have F2 := Lib.hid (F2.out.below hb4 F2.out.lt); have G2 := Lib.hid (G2.out.below hb4 G2.out.lt); obtain ⟨_, f0, f1, _, _⟩ := F2.out; obtain ⟨_, g0, g1, _, _⟩ := G2.out; clear hb4)
    | (go_at_call 30; refine (H7.out _ K4.out.k).mono ?_; rintro e4 w4 ⟨rfl, hb4⟩; have K4 := Lib.hid (K4.out.below HL.out hb4); have F2 := Lib.hid (F2.out.below hb4 F2.out.lt); have G2 := Lib.hid (G2.out.below hb4 G2.out.lt); obtain ⟨_, f0, f1, _, _⟩ := F2.out; obtain ⟨_, g0, g1, _, _⟩ := G2.out; clear hb4)
    | (go_at_call 31; refine (H8.out _ K4.out.k).mono ?_; rintro e4 w4 ⟨rfl, hb4⟩; have K4 := Lib.hid (K4.out.below HL.out hb4); have F2 := Lib.hid (F2.out.below hb4 F2.out.lt); have G2 := Lib.hid (G2.out.below hb4 G2.out.lt); obtain ⟨_, f0, f1, _, _⟩ := F2.out; obtain ⟨_, g0, g1, _, _⟩ := G2.out; clear hb4)
    | (go_at_call 11; refine (HBD.out _).mono ?_; rintro e4 w4 ⟨rfl, hb4⟩; have K4 := Lib.hid (K4.out.below HL.out hb4); have F2 := Lib.hid (F2.out.below hb4 F2.out.lt); have G2 := Lib.hid (G2.out.below hb4 G2.out.lt); obtain ⟨_, f0, f1, _, _⟩ := F2.out; obtain ⟨_, g0, g1, _, _⟩ := G2.out; clear hb4)
    | (go_at_call 26; refine (HU.out _ K2.out.k).mono ?_; rintro e3 w3 ⟨rfl, hb3⟩; have K3 := Lib.hid (K2.out.below HL.out hb3); have F2 := Lib.hid (F2.out.below hb3 F2.out.lt); have G2 := Lib.hid (G2.out.below hb3 G2.out.lt); obtain ⟨_, f0, f1, _, _⟩ := F2.out; obtain ⟨_, g0, g1, _, _⟩ := G2.out; clear hb3)
    | (go_at_call 9; (with_reducible refine (HD2.out _ K1.out.k).mono ?_); rintro e2 w2 ⟨rfl, hb2⟩; have hA : Below w2.heap.size w2 (w2.alloc (.cells #[.int .i64 2, .int .i64 1] 32)) := (Below.refl _ _).alloc (Nat.le_refl _) _; have K2 := Lib.hid ((K1.out.below HL.out hb2).below HL.out hA); have F2 := Lib.hid ((F2.out.below hb2 F2.out.lt).below hA (Nat.lt_of_lt_of_le F2.out.lt hb2.size)); have G2 := Lib.hid (pt.f2_new w2 2 1 32); obtain ⟨_, f0, f1, _, _⟩ := F2.out; obtain ⟨_, g0, g1, g2, g3⟩ := G2.out; clear hb2 hA)
    | (go_at_call 9; (with_reducible refine (HD1.out _ K0.out.k).mono ?_); rintro e1 w1 ⟨rfl, hb1⟩; have hA : Below w1.heap.size w1 (w1.alloc (.cells #[.int .i64 0, .int .i64 0] 32)) := (Below.refl _ _).alloc (Nat.le_refl _) _; have K1 := Lib.hid ((K0.out.below HL.out hb1).below HL.out hA); have F2 := Lib.hid (pt.f2_new w1 0 0 32); obtain ⟨_, f0, f1, f2, f3⟩ := F2.out; clear hb1 hA))
  go_ret
  exact ⟨rfl, K4.out.b⟩
theorem awake_any {K : World → Prop} (L : Ch K) (w : World) (hK : K w) : Calls Tryz.prog 6 #[] w fun e w' => e = .returned (.bool true) ∧ Below w.heap.size w w' := by
  have HA := Lib.hid (Awake_any L w hK)
  clear L hK
  go_enter Tryz.func6, Tryz.ntmps6
  go_wp2_with (go_at_call 12; refine (HA.out).mono ?_; rintro e2 w2 ⟨rfl, hb2⟩)
  go_ret
  exact ⟨rfl, hb2⟩
end Go.Proofs.YtbgbgigpcegenaaGreatDoor.ch
namespace Go.Proofs.YtbgbgigpcegenaaGreatDoor.ch
open Go.RowKit Go.Lib
set_option linter.unusedVariables false
theorem in07 {c : Int} (h0 : 0 ≤ c) (h7 : c ≤ 7) : inC c := ⟨h0, by omega⟩
theorem dc_ok {c : Int} {s : ByteArray} (hc : inC c) (h : (dz c s).2 = none) : dcT c s = pt.txt (dz c s).1 ∧ dcE c s = 0 ∧ dcA c s = 0 := by
  unfold dcT dcE dcA
  rw [if_pos ⟨hc, h⟩, if_pos hc, if_pos hc, if_pos h, h]
  exact ⟨rfl, rfl, rfl⟩
theorem bad_zero (W : World) (a : Int) : Calls Tryz.prog 11 #[.agg #[.int .i64 0, .int .i64 a]] W fun e w' => e = .returned (.bool false) ∧ Below W.heap.size W w' := pt.bad_any W 0 a
/-- What CharsetPlain asks beside. -/
structure ChP (K : World → Prop) : Prop extends Ch K where
  encP : ∀ (c : Int) (s : ByteArray) w, K w → 0 ≤ c → c ≤ 7 → s.size ≤ 300 → pt.isPlain s = true → Calls Tryz.prog 10 #[.int .i64 c, .string s] w fun e w' => e = .returned (.tuple #[.string s, .agg #[.int .i64 0, .int .i64 0]]) ∧ Below w.heap.size w w'
theorem plain_of {s : ByteArray} (h : ∀ k, k < s.size → bt s k < 128) : pt.isPlain s = true := by
  unfold pt.isPlain
  rw [List.all_eq_true]
  intro x hx
  obtain ⟨i, hi, rfl⟩ := List.getElem_of_mem hx
  have h1 := h i (by rw [← size_list]; exact hi)
  unfold bt at h1
  rw [List.getD_eq_getElem?_getD, List.getElem?_eq_getElem hi] at h1
  simpa using h1
theorem index_bt (s : ByteArray) (i : Nat) (hi : i < s.size) (w : World) : (Instr.index 9 (.string s) (.int .i64 (i : Int))).run Tryz.prog w = .ok (.int .u8 ((bt s i : Nat) : Int)) w := by
  rw [run_index_string w 9 s .i64 i Tryz.underlying9, ← bt_get s i hi]
  simp [hi]
set_option maxRecDepth 100000 in
set_option maxHeartbeats 4000000 in
theorem plain_out {K : World → Prop} (L : Ch K) (c : Int) (s : ByteArray) (w : World) (hK : K w) (hs : s.size ≤ maxLen) (h : 300 < s.size ∨ c < 0 ∨ 7 < c) : Calls Tryz.prog 4 #[.int .i64 c, .string s] w fun e w' => e = .returned (.bool true) ∧ Below w.heap.size w w' := by
  have HAW := Lib.hid (awake_any L w hK)
  unfold maxLen at hs
  clear L hK
  have hh : ((300 : Int) < s.size) ∨ (¬ ((300 : Int) < s.size) ∧ c < 0) ∨ (¬ ((300 : Int) < s.size) ∧ ¬ c < 0 ∧ 7 < c) := by omega
  clear h
  rcases hh with h | ⟨h1, h2⟩ | ⟨h1, h2, h3⟩
  all_goals
    go_enter Tryz.func4, Tryz.ntmps4
    go_wp2_with (go_at_call 6; refine (HAW.out).mono ?_; rintro e2 w2 ⟨rfl, hb2⟩)
    go_ret
    exact ⟨rfl, hb2⟩
set_option maxRecDepth 100000 in
set_option maxHeartbeats 4000000 in
theorem plain_walk {K : World → Prop} (L : ChP K) (c : Int) (s : ByteArray) (w : World) (hK : K w) (hs : s.size ≤ maxLen) : Calls Tryz.prog 4 #[.int .i64 c, .string s] w fun e w' => e = .returned (.bool true) ∧ Below w.heap.size w w' := by
  by_cases h : 300 < s.size ∨ c < 0 ∨ 7 < c
  · exact plain_out L.toCh c s w hK hs h
  have h0 : 0 ≤ c := by omega
  have h7 : c ≤ 7 := by omega
  have hz : s.size ≤ 300 := by omega
  have HAW := Lib.hid (fun w2 h2 => awake_any L.toCh w2 h2)
  have HL := Lib.hid L.stay
  have K0 : Hid (Kb K w w) := Lib.hid ⟨hK, Below.refl _ _⟩
  have HD : Hid (pt.isPlain s = true → ∀ W, K W → Calls Tryz.prog 9 #[.int .i64 c, .string s] W fun e w' => e = .returned (.tuple #[.string s, .agg #[.int .i64 0, .int .i64 0]]) ∧ Below W.heap.size W w') := Lib.hid (fun hp W h => by
    have := L.dec c s W h (by omega) (by omega) (by omega)
    have h2 := dz_plain h0 h7 hp
    obtain ⟨e1, e2, e3⟩ := dc_ok (in07 h0 h7) h2.1
    rw [e1, e2, e3, h2.2] at this
    exact this)
  have HE : Hid (pt.isPlain s = true → ∀ W, K W → Calls Tryz.prog 10 #[.int .i64 c, .string s] W fun e w' => e = .returned (.tuple #[.string s, .agg #[.int .i64 0, .int .i64 0]]) ∧ Below W.heap.size W w') := Lib.hid (fun hp W h => L.encP c s W h h0 h7 hz hp)
  have HB1 := Lib.hid (fun W => bad_zero W 0)
  have n0 : ¬ c < 0 := by omega
  have n1 : ¬ 7 < c := by omega
  have n2 : ¬ (300 : Int) < (s.size : Int) := by omega
  clear L hK h
  go_enter Tryz.func4, Tryz.ntmps4
  go_wp2_with fail
  go_loopw [24] (fun i wr => ∃ j : Nat, j ≤ s.size ∧ i = .int .i64 j ∧ w = wr ∧ Hid (∀ k, k < j → bt s k < 128)) (fun i _ => s.size - (RowKit.intOf i).toNat)
  case atStart => exact ⟨0, Nat.zero_le _, rfl, rfl, Lib.hid (fun k hk => absurd hk (Nat.not_lt_zero _))⟩
  case round =>
    obtain ⟨j, hj, rfl, rfl, HP⟩ := hrel
    by_cases hlt : j < s.size
    · have hix := fun wx => index_bt s j hlt wx
      by_cases hb : bt s j < 128
      · have k0 : ((bt s j : Nat) : Int) < 128 := by omega
        have HP2 : Hid (∀ k, k < j + 1 → bt s k < 128) := Lib.hid (fun k hk => by
          by_cases e : k = j
          · rw [e]; exact hb
          · exact HP.out k (by omega))
        generalize ((bt s j : Nat) : Int) = B at *
        clear hb
        go_wp2_with fail
        go_roundw
        case rel => exact ⟨j + 1, by omega, by go_num, trivial, HP2⟩
        case measure => simp [RowKit.intOf]; omega
      · have k0 : (128 : Int) ≤ ((bt s j : Nat) : Int) := by omega
        have k1 : ((bt s j : Nat) : Int) < 256 := by have := bt_lt s j; omega
        generalize ((bt s j : Nat) : Int) = B at *
        clear hb
        go_wp2_with (go_at_call 6; refine (HAW.out _ K0.out.k).mono ?_; rintro e2 w2 ⟨rfl, hb2⟩; have B2 := Lib.hid hb2; clear hb2)
        go_ret
        exact ⟨rfl, B2.out⟩
    · obtain rfl : j = s.size := by omega
      have hp := plain_of HP.out
      have HD1 := Lib.hid (HD.out hp)
      have HE1 := Lib.hid (HE.out hp)
      clear hp HD HE HP hlt
      go_wp2_with (first
        | (go_at_call 11; (with_reducible refine (HB1.out _).mono ?_); rintro e9 w9 ⟨rfl, hb9⟩; have K3 := Lib.hid (K3.out.below HL.out hb9); have F1 := Lib.hid (F1.out.below hb9 F1.out.lt); have F2 := Lib.hid (F2.out.below hb9 F2.out.lt); obtain ⟨_, p1, q1, _, _⟩ := F1.out; obtain ⟨_, p2, q2, _, _⟩ := F2.out; clear hb9)
        | (go_at_call 6; (with_reducible refine (HAW.out _ K2.out.k).mono ?_); rintro e9 w9 ⟨rfl, hb9⟩; have K3 := Lib.hid (K2.out.below HL.out hb9); have F1 := Lib.hid (F1.out.below hb9 F1.out.lt); have F2 := Lib.hid (F2.out.below hb9 F2.out.lt); obtain ⟨_, p1, q1, _, _⟩ := F1.out; obtain ⟨_, p2, q2, _, _⟩ := F2.out; clear hb9)
        | (go_at_call 10; (with_reducible refine (HE1.out _ K1.out.k).mono ?_); rintro e2 w2 ⟨rfl, hb2⟩; have hA : Below w2.heap.size w2 (w2.alloc (.cells #[.int .i64 0, .int .i64 0] 32)) := (Below.refl _ _).alloc (Nat.le_refl _) _; have K2 := Lib.hid ((K1.out.below HL.out hb2).below HL.out hA); have F1 := Lib.hid ((F1.out.below hb2 F1.out.lt).below hA (Nat.lt_of_lt_of_le F1.out.lt hb2.size)); obtain ⟨_, p1, q1, _, _⟩ := F1.out; have F2 := Lib.hid (pt.f2_new w2 0 0 32); obtain ⟨_, p2, q2, r2, s2⟩ := F2.out; clear hb2 hA)
        | (go_at_call 9; (with_reducible refine (HD1.out _ K0.out.k).mono ?_); rintro e1 w1 ⟨rfl, hb1⟩; have hA : Below w1.heap.size w1 (w1.alloc (.cells #[.int .i64 0, .int .i64 0] 32)) := (Below.refl _ _).alloc (Nat.le_refl _) _; have K1 := Lib.hid ((K0.out.below HL.out hb1).below HL.out hA); have F1 := Lib.hid (pt.f2_new w1 0 0 32); obtain ⟨_, p1, q1, r1, s1⟩ := F1.out; clear hb1 hA))
      go_ret
      exact ⟨rfl, K3.out.b⟩
end Go.Proofs.YtbgbgigpcegenaaGreatDoor.ch
