/- Several texts in one. -/
import Derived.Test.YtiigknimfibdpaaGreatDoorZ4
import Derived.Test.YtiigknimfibdpaaGreatDoorZ18
import Derived.Test.YtiigknimfibdpaaGreatDoorBg0
import Derived.Test.YtiigknimfibdpaaGreatDoorZ3
import Derived.Test.YtiigknimfibdpaaGreatDoorZ0
import Derived.WalkSmall
import Derived.Lib.Hide
namespace Go.Proofs.YtiigknimfibdpaaGreatDoor.wa
open Go.RowKit Go.Lib
set_option linter.unusedVariables false
def SpC (b f l : Int) (p S : Int) : Prop := ∀ w2, Calls Tryz.prog 125 #[.int .i64 b, .int .i64 f, .int .i64 l, .int .i32 p] w2 fun e w' => e = .returned (.int .i32 S) ∧ w2 = w'
theorem spn_le (b f l p : Nat) (hb : b < 256) : spn b f l p ≤ p + 256 := by unfold spn; split <;> omega
theorem spC {b : Nat} (f l p : Nat) (hb : b < 256) (hf : f < 256) (hp : p < 65536) : ∃ S : Int, S = ((spn b f l p : Nat) : Int) ∧ 0 ≤ S ∧ S ≤ 70000 ∧ SpC b f l p S :=
  ⟨_, rfl, by omega, by have := spn_le b f l p hb; omega, fun w2 => span_any b f l p w2 hb hf hp⟩
def RowPost (w : World) (l b : Nat) : Ending → World → Prop := fun e w' => e = .returned (.int .i32 ((row l b : Nat) : Int)) ∧ Below w.heap.size w w'
theorem rowPost {w w' : World} {l b : Nat} {v : Int} (h : ((row l b : Nat) : Int) = v) (hb : Below w.heap.size w w') : RowPost w l b (.returned (.int .i32 v)) w' := ⟨by rw [h], hb⟩
set_option maxRecDepth 100000 in
set_option maxHeartbeats 4000000 in
theorem row_161 (b : Nat) (w : World) (h0 : 161 ≤ b) (h1 : b ≤ 254) : Calls Tryz.prog 89 #[.int .i64 161, .int .i64 b] w (RowPost w 161 b) := by
  have hn : b - 161 < 94 := by omega
  have hl : b - 161 < a1L.length := hn
  have HV : Hid (((row 161 b : Nat) : Int) = ((a1L.getD (b - 161) 0 : Nat) : Int)) := Lib.hid (by unfold row; rw [if_pos rfl])
  have HN := Lib.hid (fun s hs hz w2 => sg.nth_any a1L s hs hz (b - 161) hl w2)
  rw [show ((b - 161 : Nat) : Int) = (b : Int) - 161 by omega] at HN
  generalize ((a1L.getD (b - 161) 0 : Nat) : Int) = V at *
  have g0 : (161 : Int) ≤ (b : Int) := by omega
  have g1 : (b : Int) ≤ 254 := by omega
  clear hn hl
  generalize (b : Int) = B at *
  go_enter Tryz.func89, Tryz.ntmps89
  go_wp2_with (go_at_call 83; refine (HN.out _ (by decide +kernel) (by decide +kernel) _).mono ?_; rintro e2 w2 ⟨rfl, hb2⟩)
  go_ret
  exact rowPost HV.out hb2
set_option maxRecDepth 100000 in
set_option maxHeartbeats 4000000 in
theorem row_162 (b : Nat) (w : World) (h0 : 161 ≤ b) (h1 : b ≤ 254) : Calls Tryz.prog 89 #[.int .i64 162, .int .i64 b] w (RowPost w 162 b) := by
  by_cases hn : b - 161 < 71
  · have hl : b - 161 < a2L.length := hn
    have HV : Hid (((row 162 b : Nat) : Int) = ((a2L.getD (b - 161) 0 : Nat) : Int)) := Lib.hid (by unfold row; rw [if_neg (by omega), if_pos rfl, if_pos hn])
    have HN := Lib.hid (fun s hs hz w2 => sg.nth_any a2L s hs hz (b - 161) hl w2)
    rw [show ((b - 161 : Nat) : Int) = (b : Int) - 161 by omega] at HN
    generalize ((a2L.getD (b - 161) 0 : Nat) : Int) = V at *
    have g0 : (161 : Int) ≤ (b : Int) := by omega
    have g1 : (b : Int) ≤ 254 := by omega
    have g2 : (b : Int) - 161 < 71 := by omega
    clear hn hl
    generalize (b : Int) = B at *
    go_enter Tryz.func89, Tryz.ntmps89
    go_wp2_with (go_at_call 83; refine (HN.out _ (by decide +kernel) (by decide +kernel) _).mono ?_; rintro e2 w2 ⟨rfl, hb2⟩)
    go_ret
    exact rowPost HV.out hb2
  · have HV : Hid (((row 162 b : Nat) : Int) = 0) := Lib.hid (by unfold row; rw [if_neg (by omega), if_pos rfl, if_neg hn]; rfl)
    have g2 : ¬ (b : Int) - 161 < 71 := by omega
    have g0 : (161 : Int) ≤ (b : Int) := by omega
    have g1 : (b : Int) ≤ 254 := by omega
    clear hn
    generalize (b : Int) = B at *
    go_enter Tryz.func89, Tryz.ntmps89
    go_wp2_with fail
    go_ret
    exact rowPost HV.out (Below.refl _ _)
set_option maxRecDepth 100000 in
set_option maxHeartbeats 4000000 in
theorem row_166 (b : Nat) (w : World) (h0 : 161 ≤ b) (h1 : b ≤ 254) : Calls Tryz.prog 89 #[.int .i64 166, .int .i64 b] w (RowPost w 166 b) := by
  by_cases hn : b - 161 < 68
  · have hl : b - 161 < a6L.length := hn
    have HV : Hid (((row 166 b : Nat) : Int) = ((a6L.getD (b - 161) 0 : Nat) : Int)) := Lib.hid (by unfold row; rw [if_neg (by omega), if_neg (by omega), if_neg (by omega), if_neg (by omega), if_neg (by omega), if_pos rfl, if_pos hn])
    have HN := Lib.hid (fun s hs hz w2 => sg.nth_any a6L s hs hz (b - 161) hl w2)
    rw [show ((b - 161 : Nat) : Int) = (b : Int) - 161 by omega] at HN
    generalize ((a6L.getD (b - 161) 0 : Nat) : Int) = V at *
    have g0 : (161 : Int) ≤ (b : Int) := by omega
    have g1 : (b : Int) ≤ 254 := by omega
    have g2 : (b : Int) - 161 < 68 := by omega
    clear hn hl
    generalize (b : Int) = B at *
    go_enter Tryz.func89, Tryz.ntmps89
    go_wp2_with (go_at_call 83; refine (HN.out _ (by decide +kernel) (by decide +kernel) _).mono ?_; rintro e2 w2 ⟨rfl, hb2⟩)
    go_ret
    exact rowPost HV.out hb2
  · have HV : Hid (((row 166 b : Nat) : Int) = 0) := Lib.hid (by unfold row; rw [if_neg (by omega), if_neg (by omega), if_neg (by omega), if_neg (by omega), if_neg (by omega), if_pos rfl, if_neg hn]; rfl)
    have g2 : ¬ (b : Int) - 161 < 68 := by omega
    have g0 : (161 : Int) ≤ (b : Int) := by omega
    have g1 : (b : Int) ≤ 254 := by omega
    clear hn
    generalize (b : Int) = B at *
    go_enter Tryz.func89, Tryz.ntmps89
    go_wp2_with fail
    go_ret
    exact rowPost HV.out (Below.refl _ _)
set_option maxRecDepth 100000 in
set_option maxHeartbeats 4000000 in
theorem row_163 (b : Nat) (w : World) (h0 : 161 ≤ b) (h1 : b ≤ 254) : Calls Tryz.prog 89 #[.int .i64 163, .int .i64 b] w (RowPost w 163 b) := by
  by_cases h2 : b = 220
  · subst h2
    go_enter Tryz.func89, Tryz.ntmps89
    go_wp2_with fail
    go_ret
    exact rowPost rfl (Below.refl _ _)
  by_cases h3 : b = 254
  · subst h3
    go_enter Tryz.func89, Tryz.ntmps89
    go_wp2_with fail
    go_ret
    exact rowPost rfl (Below.refl _ _)
  · have HV : Hid (((row 163 b : Nat) : Int) = 65281 + (b : Int) - 161) := Lib.hid (by unfold row; rw [if_neg (by omega), if_neg (by omega), if_pos rfl, if_neg h2, if_neg h3]; omega)
    have e1 : ((b : Int) == 220) = false := beq_eq_false_iff_ne.2 (by omega)
    have e2 : ((b : Int) == 254) = false := beq_eq_false_iff_ne.2 (by omega)
    have g0 : (161 : Int) ≤ (b : Int) := by omega
    have g1 : (b : Int) ≤ 254 := by omega
    clear h2 h3
    generalize (b : Int) = B at *
    have w1 : IntKind.i32.wrap (65281 + B - 161) = 65281 + B - 161 := wrap32 (by omega) (by omega)
    go_enter Tryz.func89, Tryz.ntmps89
    go_wp2_with fail
    go_ret
    exact rowPost HV.out (Below.refl _ _)
set_option maxRecDepth 100000 in
set_option maxHeartbeats 4000000 in
theorem row_164 (b : Nat) (w : World) (h0 : 161 ≤ b) (h1 : b ≤ 254) : Calls Tryz.prog 89 #[.int .i64 164, .int .i64 b] w (RowPost w 164 b) := by
  have HV : Hid (((row 164 b : Nat) : Int) = 12593 + (b : Int) - 161) := Lib.hid (by unfold row; rw [if_neg (by omega), if_neg (by omega), if_neg (by omega), if_pos rfl]; omega)
  have g0 : (161 : Int) ≤ (b : Int) := by omega
  have g1 : (b : Int) ≤ 254 := by omega
  generalize (b : Int) = B at *
  have w1 : IntKind.i32.wrap (12593 + B - 161) = 12593 + B - 161 := wrap32 (by omega) (by omega)
  go_enter Tryz.func89, Tryz.ntmps89
  go_wp2_with fail
  go_ret
  exact rowPost HV.out (Below.refl _ _)
set_option maxRecDepth 100000 in
set_option maxHeartbeats 4000000 in
theorem row_165 (b : Nat) (w : World) (h0 : 161 ≤ b) (h1 : b ≤ 254) : Calls Tryz.prog 89 #[.int .i64 165, .int .i64 b] w (RowPost w 165 b) := by
  have hb : b < 256 := by omega
  obtain ⟨S0, q0, u0, v0, c0⟩ := spC (b := b) 161 170 8560 hb (by omega) (by omega)
  have H0 : Hid (∀ w2, Calls Tryz.prog 125 #[.int .i64 b, .int .i64 161, .int .i64 170, .int .i32 8560] w2 fun e w' => e = .returned (.int .i32 S0) ∧ w2 = w') := Lib.hid c0
  obtain ⟨S1, q1, u1, v1, c1⟩ := spC (b := b) 176 185 8544 hb (by omega) (by omega)
  have H1 : Hid (∀ w2, Calls Tryz.prog 125 #[.int .i64 b, .int .i64 176, .int .i64 185, .int .i32 8544] w2 fun e w' => e = .returned (.int .i32 S1) ∧ w2 = w') := Lib.hid c1
  obtain ⟨S2, q2, u2, v2, c2⟩ := spC (b := b) 193 209 913 hb (by omega) (by omega)
  have H2 : Hid (∀ w2, Calls Tryz.prog 125 #[.int .i64 b, .int .i64 193, .int .i64 209, .int .i32 913] w2 fun e w' => e = .returned (.int .i32 S2) ∧ w2 = w') := Lib.hid c2
  obtain ⟨S3, q3, u3, v3, c3⟩ := spC (b := b) 210 216 931 hb (by omega) (by omega)
  have H3 : Hid (∀ w2, Calls Tryz.prog 125 #[.int .i64 b, .int .i64 210, .int .i64 216, .int .i32 931] w2 fun e w' => e = .returned (.int .i32 S3) ∧ w2 = w') := Lib.hid c3
  obtain ⟨S4, q4, u4, v4, c4⟩ := spC (b := b) 225 241 945 hb (by omega) (by omega)
  have H4 : Hid (∀ w2, Calls Tryz.prog 125 #[.int .i64 b, .int .i64 225, .int .i64 241, .int .i32 945] w2 fun e w' => e = .returned (.int .i32 S4) ∧ w2 = w') := Lib.hid c4
  obtain ⟨S5, q5, u5, v5, c5⟩ := spC (b := b) 242 248 963 hb (by omega) (by omega)
  have H5 : Hid (∀ w2, Calls Tryz.prog 125 #[.int .i64 b, .int .i64 242, .int .i64 248, .int .i32 963] w2 fun e w' => e = .returned (.int .i32 S5) ∧ w2 = w') := Lib.hid c5
  have HV : Hid (((row 165 b : Nat) : Int) = S0 + S1 + S2 + S3 + S4 + S5) := Lib.hid (by unfold row; rw [if_neg (by omega), if_neg (by omega), if_neg (by omega), if_neg (by omega), if_pos rfl]; omega)
  have g0 : (161 : Int) ≤ (b : Int) := by omega
  have g1 : (b : Int) ≤ 254 := by omega
  clear q0 c0 q1 c1 q2 c2 q3 c3 q4 c4 q5 c5
  generalize (b : Int) = B at *
  go_enter Tryz.func89, Tryz.ntmps89
  go_wp2_with (first | (go_at_call 125; (with_reducible refine (H0.out _).mono ?_); rintro e2 w2 ⟨rfl, rfl⟩) | (go_at_call 125; (with_reducible refine (H1.out _).mono ?_); rintro e2 w2 ⟨rfl, rfl⟩) | (go_at_call 125; (with_reducible refine (H2.out _).mono ?_); rintro e2 w2 ⟨rfl, rfl⟩) | (go_at_call 125; (with_reducible refine (H3.out _).mono ?_); rintro e2 w2 ⟨rfl, rfl⟩) | (go_at_call 125; (with_reducible refine (H4.out _).mono ?_); rintro e2 w2 ⟨rfl, rfl⟩) | (go_at_call 125; (with_reducible refine (H5.out _).mono ?_); rintro e2 w2 ⟨rfl, rfl⟩))
  go_ret
  exact rowPost HV.out (Below.refl _ _)
set_option maxRecDepth 100000 in
set_option maxHeartbeats 4000000 in
theorem row_170 (b : Nat) (w : World) (h0 : 161 ≤ b) (h1 : b ≤ 254) : Calls Tryz.prog 89 #[.int .i64 170, .int .i64 b] w (RowPost w 170 b) := by
  have hb : b < 256 := by omega
  obtain ⟨S0, q0, u0, v0, c0⟩ := spC (b := b) 161 243 12353 hb (by omega) (by omega)
  have H0 : Hid (∀ w2, Calls Tryz.prog 125 #[.int .i64 b, .int .i64 161, .int .i64 243, .int .i32 12353] w2 fun e w' => e = .returned (.int .i32 S0) ∧ w2 = w') := Lib.hid c0
  have HV : Hid (((row 170 b : Nat) : Int) = S0) := Lib.hid (by unfold row; rw [if_neg (by omega), if_neg (by omega), if_neg (by omega), if_neg (by omega), if_neg (by omega), if_neg (by omega), if_pos rfl]; omega)
  have g0 : (161 : Int) ≤ (b : Int) := by omega
  have g1 : (b : Int) ≤ 254 := by omega
  clear q0 c0
  generalize (b : Int) = B at *
  go_enter Tryz.func89, Tryz.ntmps89
  go_wp2_with (first | (go_at_call 125; (with_reducible refine (H0.out _).mono ?_); rintro e2 w2 ⟨rfl, rfl⟩))
  go_ret
  exact rowPost HV.out (Below.refl _ _)
set_option maxRecDepth 100000 in
set_option maxHeartbeats 4000000 in
theorem row_171 (b : Nat) (w : World) (h0 : 161 ≤ b) (h1 : b ≤ 254) : Calls Tryz.prog 89 #[.int .i64 171, .int .i64 b] w (RowPost w 171 b) := by
  have hb : b < 256 := by omega
  obtain ⟨S0, q0, u0, v0, c0⟩ := spC (b := b) 161 246 12449 hb (by omega) (by omega)
  have H0 : Hid (∀ w2, Calls Tryz.prog 125 #[.int .i64 b, .int .i64 161, .int .i64 246, .int .i32 12449] w2 fun e w' => e = .returned (.int .i32 S0) ∧ w2 = w') := Lib.hid c0
  have HV : Hid (((row 171 b : Nat) : Int) = S0) := Lib.hid (by unfold row; rw [if_neg (by omega), if_neg (by omega), if_neg (by omega), if_neg (by omega), if_neg (by omega), if_neg (by omega), if_neg (by omega), if_pos rfl]; omega)
  have g0 : (161 : Int) ≤ (b : Int) := by omega
  have g1 : (b : Int) ≤ 254 := by omega
  clear q0 c0
  generalize (b : Int) = B at *
  go_enter Tryz.func89, Tryz.ntmps89
  go_wp2_with (first | (go_at_call 125; (with_reducible refine (H0.out _).mono ?_); rintro e2 w2 ⟨rfl, rfl⟩))
  go_ret
  exact rowPost HV.out (Below.refl _ _)
set_option maxRecDepth 100000 in
set_option maxHeartbeats 4000000 in
theorem row_172 (b : Nat) (w : World) (h0 : 161 ≤ b) (h1 : b ≤ 254) : Calls Tryz.prog 89 #[.int .i64 172, .int .i64 b] w (RowPost w 172 b) := by
  have hb : b < 256 := by omega
  obtain ⟨S0, q0, u0, v0, c0⟩ := spC (b := b) 161 166 1040 hb (by omega) (by omega)
  have H0 : Hid (∀ w2, Calls Tryz.prog 125 #[.int .i64 b, .int .i64 161, .int .i64 166, .int .i32 1040] w2 fun e w' => e = .returned (.int .i32 S0) ∧ w2 = w') := Lib.hid c0
  obtain ⟨S1, q1, u1, v1, c1⟩ := spC (b := b) 167 167 1025 hb (by omega) (by omega)
  have H1 : Hid (∀ w2, Calls Tryz.prog 125 #[.int .i64 b, .int .i64 167, .int .i64 167, .int .i32 1025] w2 fun e w' => e = .returned (.int .i32 S1) ∧ w2 = w') := Lib.hid c1
  obtain ⟨S2, q2, u2, v2, c2⟩ := spC (b := b) 168 193 1046 hb (by omega) (by omega)
  have H2 : Hid (∀ w2, Calls Tryz.prog 125 #[.int .i64 b, .int .i64 168, .int .i64 193, .int .i32 1046] w2 fun e w' => e = .returned (.int .i32 S2) ∧ w2 = w') := Lib.hid c2
  obtain ⟨S3, q3, u3, v3, c3⟩ := spC (b := b) 209 214 1072 hb (by omega) (by omega)
  have H3 : Hid (∀ w2, Calls Tryz.prog 125 #[.int .i64 b, .int .i64 209, .int .i64 214, .int .i32 1072] w2 fun e w' => e = .returned (.int .i32 S3) ∧ w2 = w') := Lib.hid c3
  obtain ⟨S4, q4, u4, v4, c4⟩ := spC (b := b) 215 215 1105 hb (by omega) (by omega)
  have H4 : Hid (∀ w2, Calls Tryz.prog 125 #[.int .i64 b, .int .i64 215, .int .i64 215, .int .i32 1105] w2 fun e w' => e = .returned (.int .i32 S4) ∧ w2 = w') := Lib.hid c4
  obtain ⟨S5, q5, u5, v5, c5⟩ := spC (b := b) 216 241 1078 hb (by omega) (by omega)
  have H5 : Hid (∀ w2, Calls Tryz.prog 125 #[.int .i64 b, .int .i64 216, .int .i64 241, .int .i32 1078] w2 fun e w' => e = .returned (.int .i32 S5) ∧ w2 = w') := Lib.hid c5
  have HV : Hid (((row 172 b : Nat) : Int) = S0 + S1 + S2 + S3 + S4 + S5) := Lib.hid (by unfold row; rw [if_neg (by omega), if_neg (by omega), if_neg (by omega), if_neg (by omega), if_neg (by omega), if_neg (by omega), if_neg (by omega), if_neg (by omega), if_pos rfl]; omega)
  have g0 : (161 : Int) ≤ (b : Int) := by omega
  have g1 : (b : Int) ≤ 254 := by omega
  clear q0 c0 q1 c1 q2 c2 q3 c3 q4 c4 q5 c5
  generalize (b : Int) = B at *
  go_enter Tryz.func89, Tryz.ntmps89
  go_wp2_with (first | (go_at_call 125; (with_reducible refine (H0.out _).mono ?_); rintro e2 w2 ⟨rfl, rfl⟩) | (go_at_call 125; (with_reducible refine (H1.out _).mono ?_); rintro e2 w2 ⟨rfl, rfl⟩) | (go_at_call 125; (with_reducible refine (H2.out _).mono ?_); rintro e2 w2 ⟨rfl, rfl⟩) | (go_at_call 125; (with_reducible refine (H3.out _).mono ?_); rintro e2 w2 ⟨rfl, rfl⟩) | (go_at_call 125; (with_reducible refine (H4.out _).mono ?_); rintro e2 w2 ⟨rfl, rfl⟩) | (go_at_call 125; (with_reducible refine (H5.out _).mono ?_); rintro e2 w2 ⟨rfl, rfl⟩))
  go_ret
  exact rowPost HV.out (Below.refl _ _)
set_option maxRecDepth 100000 in
set_option maxHeartbeats 4000000 in
theorem row_else (l b : Nat) (w : World) (h : l ≠ 161 ∧ l ≠ 162 ∧ l ≠ 163 ∧ l ≠ 164 ∧ l ≠ 165 ∧ l ≠ 166 ∧ l ≠ 170 ∧ l ≠ 171 ∧ l ≠ 172) : Calls Tryz.prog 89 #[.int .i64 l, .int .i64 b] w (RowPost w l b) := by
  obtain ⟨h1, h2, h3, h4, h5, h6, h7, h8, h9⟩ := h
  have HV : Hid (((row l b : Nat) : Int) = 0) := Lib.hid (by unfold row; rw [if_neg h1, if_neg h2, if_neg h3, if_neg h4, if_neg h5, if_neg h6, if_neg h7, if_neg h8, if_neg h9]; rfl)
  have e0 : ((l : Int) == 161) = false := beq_eq_false_iff_ne.2 (by omega)
  have e1 : ((l : Int) == 162) = false := beq_eq_false_iff_ne.2 (by omega)
  have e2 : ((l : Int) == 163) = false := beq_eq_false_iff_ne.2 (by omega)
  have e3 : ((l : Int) == 164) = false := beq_eq_false_iff_ne.2 (by omega)
  have e4 : ((l : Int) == 165) = false := beq_eq_false_iff_ne.2 (by omega)
  have e5 : ((l : Int) == 166) = false := beq_eq_false_iff_ne.2 (by omega)
  have e6 : ((l : Int) == 170) = false := beq_eq_false_iff_ne.2 (by omega)
  have e7 : ((l : Int) == 171) = false := beq_eq_false_iff_ne.2 (by omega)
  have e8 : ((l : Int) == 172) = false := beq_eq_false_iff_ne.2 (by omega)
  clear h1 h2 h3 h4 h5 h6 h7 h8 h9
  generalize (l : Int) = L at *
  go_enter Tryz.func89, Tryz.ntmps89
  go_wp2_with fail
  go_ret
  exact rowPost HV.out (Below.refl _ _)
theorem row_any (l b : Nat) (w : World) (h0 : 161 ≤ b) (h1 : b ≤ 254) : Calls Tryz.prog 89 #[.int .i64 l, .int .i64 b] w fun e w' => e = .returned (.int .i32 ((row l b : Nat) : Int)) ∧ Below w.heap.size w w' := by
  by_cases h : l ≠ 161 ∧ l ≠ 162 ∧ l ≠ 163 ∧ l ≠ 164 ∧ l ≠ 165 ∧ l ≠ 166 ∧ l ≠ 170 ∧ l ≠ 171 ∧ l ≠ 172
  · exact row_else l b w h
  · have hh : l = 161 ∨ l = 162 ∨ l = 163 ∨ l = 164 ∨ l = 165 ∨ l = 166 ∨ l = 170 ∨ l = 171 ∨ l = 172 := by omega
    rcases hh with rfl | rfl | rfl | rfl | rfl | rfl | rfl | rfl | rfl
    · exact row_161 b w h0 h1
    · exact row_162 b w h0 h1
    · exact row_163 b w h0 h1
    · exact row_164 b w h0 h1
    · exact row_165 b w h0 h1
    · exact row_166 b w h0 h1
    · exact row_170 b w h0 h1
    · exact row_171 b w h0 h1
    · exact row_172 b w h0 h1
end Go.Proofs.YtiigknimfibdpaaGreatDoor.wa
namespace Go.Proofs.YtiigknimfibdpaaGreatDoor.wa
open Go.RowKit Go.Lib
set_option linter.unusedVariables false
def SgPost (w : World) (l b : Nat) : Ending → World → Prop := fun e w' => e = .returned (.int .i32 ((sgW l b : Nat) : Int)) ∧ Below w.heap.size w w'
theorem sgPost {w w' : World} {l b : Nat} {v : Int} (h : ((sgW l b : Nat) : Int) = v) (hb : Below w.heap.size w w') : SgPost w l b (.returned (.int .i32 v)) w' := ⟨by rw [h], hb⟩
def KtC (k : Int) (b : Bool) (V : Int) : Prop := ∀ w2, Calls Tryz.prog 88 #[.int .i64 k, .bool b] w2 fun e w' => e = .returned (.int .i32 V) ∧ w2 = w'
theorem ktC (k : Int) (q : Nat) (b : Bool) (h : k = (q : Int)) (hk : q ≤ 1000000) : Hid (KtC k b ((kth q b : Nat) : Int)) := Lib.hid (fun w2 => by
  subst h
  have := kth_any q b w2 (by omega)
  rw [kthI_nat] at this
  exact this)
set_option maxRecDepth 100000 in
set_option maxHeartbeats 4000000 in
theorem sgn_any (l b : Nat) (w : World) (hl : l < 256) (hb : b < 256) : Calls Tryz.prog 58 #[.int .i64 l, .int .i64 b] w (SgPost w l b) := by
  have HS := Lib.hid (fun w2 => second_any b w2 hb)
  have l0 : (0 : Int) ≤ (l : Int) := by omega
  have l1 : (l : Int) < 256 := by omega
  have b0 : (0 : Int) ≤ (b : Int) := by omega
  have b1 : (b : Int) < 256 := by omega
  cases hs : sec b with
  | none =>
    have e : secI b = -1 := by unfold secI; rw [hs]
    rw [e] at HS
    have HV : Hid (((sgW l b : Nat) : Int) = 0) := Lib.hid (by unfold sgW; rw [hs]; rfl)
    clear hs e
    go_enter Tryz.func58, Tryz.ntmps58
    go_wp2_with (go_at_call 87; refine (HS.out _).mono ?_; rintro e2 w2 ⟨rfl, rfl⟩)
    go_ret
    exact sgPost HV.out (Below.refl _ _)
  | some t =>
    have e : secI b = (t : Int) := by unfold secI; rw [hs]
    rw [e] at HS
    have ht := (sec_back hs).2.1
    have t0 : (0 : Int) ≤ (t : Int) := by omega
    have t1 : (t : Int) < 178 := by omega
    have hV : sgW l b = if l < 129 ∨ 254 < l then 0 else if l < 161 then kth ((l - 129) * 178 + t) false
      else if b < 161 then kth (5696 + (l - 161) * 84 + t) false
      else if 176 ≤ l ∧ l ≤ 200 then kth ((l - 176) * 94 + (b - 161)) true else row l b := by unfold sgW; rw [hs]
    have hb5 : b ≤ 254 := by
      by_cases q : b ≤ 254
      · exact q
      · exfalso; unfold sec at hs; rw [if_neg (by omega), if_neg (by omega), if_neg (by omega)] at hs; cases hs
    clear hs e
    by_cases h1 : l < 129
    · have HV : Hid (((sgW l b : Nat) : Int) = 0) := Lib.hid (by rw [hV, if_pos (.inl h1)]; rfl)
      have g1 : (l : Int) < 129 := by omega
      clear hV h1
      go_enter Tryz.func58, Tryz.ntmps58
      go_wp2_with (go_at_call 87; refine (HS.out _).mono ?_; rintro e2 w2 ⟨rfl, rfl⟩)
      go_ret
      exact sgPost HV.out (Below.refl _ _)
    by_cases h2 : 254 < l
    · have HV : Hid (((sgW l b : Nat) : Int) = 0) := Lib.hid (by rw [hV, if_pos (.inr h2)]; rfl)
      have g1 : ¬ (l : Int) < 129 := by omega
      have g2 : 254 < (l : Int) := by omega
      clear hV h1 h2
      go_enter Tryz.func58, Tryz.ntmps58
      go_wp2_with (go_at_call 87; refine (HS.out _).mono ?_; rintro e2 w2 ⟨rfl, rfl⟩)
      go_ret
      exact sgPost HV.out (Below.refl _ _)
    rw [if_neg (by omega)] at hV
    have g1 : ¬ (l : Int) < 129 := by omega
    have g2 : ¬ 254 < (l : Int) := by omega
    by_cases h3 : l < 161
    · have HK := ktC (((l : Int) - 129) * 178 + (t : Int)) ((l - 129) * 178 + t) false (by omega) (by omega)
      have HV : Hid (((sgW l b : Nat) : Int) = ((kth ((l - 129) * 178 + t) false : Nat) : Int)) := Lib.hid (by rw [hV, if_pos h3])
      generalize ((kth ((l - 129) * 178 + t) false : Nat) : Int) = V at *
      have g3 : (l : Int) < 161 := by omega
      clear hV h1 h2 h3
      go_enter Tryz.func58, Tryz.ntmps58
      go_wp2_with (first | (go_at_call 87; refine (HS.out _).mono ?_; rintro e2 w2 ⟨rfl, rfl⟩) | (go_at_call 88; refine (HK.out _).mono ?_; rintro e2 w2 ⟨rfl, rfl⟩))
      go_ret
      exact sgPost HV.out (Below.refl _ _)
    rw [if_neg h3] at hV
    have g3 : ¬ (l : Int) < 161 := by omega
    by_cases h4 : b < 161
    · have HK := ktC (5696 + ((l : Int) - 161) * 84 + (t : Int)) (5696 + (l - 161) * 84 + t) false (by omega) (by omega)
      have HV : Hid (((sgW l b : Nat) : Int) = ((kth (5696 + (l - 161) * 84 + t) false : Nat) : Int)) := Lib.hid (by rw [hV, if_pos h4])
      generalize ((kth (5696 + (l - 161) * 84 + t) false : Nat) : Int) = V at *
      have g4 : (b : Int) < 161 := by omega
      clear hV h1 h2 h3 h4
      go_enter Tryz.func58, Tryz.ntmps58
      go_wp2_with (first | (go_at_call 87; refine (HS.out _).mono ?_; rintro e2 w2 ⟨rfl, rfl⟩) | (go_at_call 88; refine (HK.out _).mono ?_; rintro e2 w2 ⟨rfl, rfl⟩))
      go_ret
      exact sgPost HV.out (Below.refl _ _)
    rw [if_neg h4] at hV
    have g4 : ¬ (b : Int) < 161 := by omega
    by_cases h5 : 176 ≤ l ∧ l ≤ 200
    · have HK := ktC (((l : Int) - 176) * 94 + (b : Int) - 161) ((l - 176) * 94 + (b - 161)) true (by omega) (by omega)
      have HV : Hid (((sgW l b : Nat) : Int) = ((kth ((l - 176) * 94 + (b - 161)) true : Nat) : Int)) := Lib.hid (by rw [hV, if_pos h5])
      generalize ((kth ((l - 176) * 94 + (b - 161)) true : Nat) : Int) = V at *
      have g5 : 176 ≤ (l : Int) := by omega
      have g6 : (l : Int) ≤ 200 := by omega
      clear hV h1 h2 h3 h4 h5
      go_enter Tryz.func58, Tryz.ntmps58
      go_wp2_with (first | (go_at_call 87; refine (HS.out _).mono ?_; rintro e2 w2 ⟨rfl, rfl⟩) | (go_at_call 88; refine (HK.out _).mono ?_; rintro e2 w2 ⟨rfl, rfl⟩))
      go_ret
      exact sgPost HV.out (Below.refl _ _)
    · rw [if_neg h5] at hV
      have HV : Hid (((sgW l b : Nat) : Int) = ((row l b : Nat) : Int)) := Lib.hid (by rw [hV])
      have HR := Lib.hid (fun w2 => row_any l b w2 (by omega) hb5)
      generalize ((row l b : Nat) : Int) = V at *
      by_cases h6 : 176 ≤ l
      · have g5 : 176 ≤ (l : Int) := by omega
        have g6 : ¬ (l : Int) ≤ 200 := by omega
        clear hV h1 h2 h3 h4 h5 h6
        go_enter Tryz.func58, Tryz.ntmps58
        go_wp2_with (first | (go_at_call 87; refine (HS.out _).mono ?_; rintro e2 w2 ⟨rfl, rfl⟩) | (go_at_call 89; refine (HR.out _).mono ?_; rintro e2 w2 ⟨rfl, hb2⟩))
        go_ret
        exact sgPost HV.out hb2
      · have g5 : ¬ 176 ≤ (l : Int) := by omega
        clear hV h1 h2 h3 h4 h5 h6
        go_enter Tryz.func58, Tryz.ntmps58
        go_wp2_with (first | (go_at_call 87; refine (HS.out _).mono ?_; rintro e2 w2 ⟨rfl, rfl⟩) | (go_at_call 89; refine (HR.out _).mono ?_; rintro e2 w2 ⟨rfl, hb2⟩))
        go_ret
        exact sgPost HV.out hb2
end Go.Proofs.YtiigknimfibdpaaGreatDoor.wa
namespace Go.Proofs.YtiigknimfibdpaaGreatDoor.bg
open Go.RowKit Go.Lib
set_option linter.unusedVariables false
theorem wrap64 {x : Int} (h0 : -9223372036854775808 ≤ x) (h1 : x ≤ 9223372036854775807) : IntKind.i64.wrap x = x := by simp [IntKind.wrap, IntKind.bits, IntKind.signed]; omega
theorem wrap32 {x : Int} (h0 : -2147483648 ≤ x) (h1 : x ≤ 2147483647) : IntKind.i32.wrap x = x := by simp [IntKind.wrap, IntKind.bits, IntKind.signed]; omega
theorem rInt {k : IntKind} {a b : Int} (h : a = b) : Ending.returned (.int k a) = .returned (.int k b) := by rw [h]
/-- The cell of a second byte; -1: it is none. -/
def cellI (b : Nat) : Int := match cell b with
  | some c => (c : Nat)
  | none => -1
theorem cellI_1 {b : Nat} (h : 64 ≤ b ∧ b ≤ 126) : cellI b = (b : Int) - 64 := by unfold cellI cell; rw [if_pos h]; show ((b - 64 : Nat) : Int) = _; omega
theorem cellI_2 {b : Nat} (h : 161 ≤ b ∧ b ≤ 254) : cellI b = (b : Int) - 161 + 63 := by unfold cellI cell; rw [if_neg (by omega), if_pos h]; show ((b - 98 : Nat) : Int) = _; omega
theorem cellI_0 {b : Nat} (h1 : ¬ (64 ≤ b ∧ b ≤ 126)) (h2 : ¬ (161 ≤ b ∧ b ≤ 254)) : cellI b = -1 := by unfold cellI cell; rw [if_neg h1, if_neg h2]
set_option maxRecDepth 100000 in
set_option maxHeartbeats 1000000 in
theorem cell_any (b : Nat) (w : World) (hb : b < 256) : Calls Tryz.prog 122 #[.int .i64 b] w fun e w' => e = .returned (.int .i64 (cellI b)) ∧ w = w' := by
  have hh : b < 64 ∨ (64 ≤ b ∧ b ≤ 126) ∨ (127 ≤ b ∧ b < 161) ∨ (161 ≤ b ∧ b ≤ 254) ∨ b = 255 := by omega
  obtain ⟨V, hV⟩ : ∃ V, V = cellI b := ⟨_, rfl⟩
  rw [← hV]
  generalize hB : (b : Int) = B
  rcases hh with h | h | h | h | h
  · have hv : V = -1 := by rw [hV, cellI_0 (by omega) (by omega)]
    subst hv
    have g0 : ¬ 64 ≤ B := by omega
    have g1 : ¬ 161 ≤ B := by omega
    clear hV hB h
    go_enter Tryz.func122, Tryz.ntmps122
    go_wp2
    go_ret
    exact ⟨rfl, rfl⟩
  · have hv : V = B - 64 := by rw [hV, cellI_1 h]; omega
    subst hv
    have g0 : 64 ≤ B := by omega
    have g1 : B ≤ 126 := by omega
    clear hV hB h
    go_enter Tryz.func122, Tryz.ntmps122
    go_wp2
    go_ret
    exact ⟨rfl, rfl⟩
  · have hv : V = -1 := by rw [hV, cellI_0 (by omega) (by omega)]
    subst hv
    have g0 : 64 ≤ B := by omega
    have g3 : ¬ B ≤ 126 := by omega
    have g1 : ¬ 161 ≤ B := by omega
    clear hV hB h
    go_enter Tryz.func122, Tryz.ntmps122
    go_wp2
    go_ret
    exact ⟨rfl, rfl⟩
  · have hv : V = B - 161 + 63 := by rw [hV, cellI_2 h]; omega
    subst hv
    have g0 : 64 ≤ B := by omega
    have g3 : ¬ B ≤ 126 := by omega
    have g1 : 161 ≤ B := by omega
    have g2 : B ≤ 254 := by omega
    clear hV hB h
    go_enter Tryz.func122, Tryz.ntmps122
    go_wp2
    go_ret
    exact ⟨rfl, rfl⟩
  · have hv : V = -1 := by rw [hV, cellI_0 (by omega) (by omega)]
    subst hv
    obtain rfl : B = 255 := by omega
    clear hV hB h
    go_enter Tryz.func122, Tryz.ntmps122
    go_wp2
    go_ret
    exact ⟨rfl, rfl⟩
def RowPost (w : World) (l : Nat) : Ending → World → Prop := fun e w' => ∃ s, e = .returned (.string s) ∧ pt.scan s = (rowL l, none) ∧ s.size ≤ 2000 ∧ w = w'
set_option maxRecDepth 100000 in
set_option maxHeartbeats 2000000 in
theorem row_any (l : Nat) (w : World) : Calls Tryz.prog 124 #[.int .i64 l] w (RowPost w l) := by
  by_cases hl : l = 136 ∨ l = 161 ∨ l = 163 ∨ l = 164 ∨ l = 165
  · rcases hl with rfl | rfl | rfl | rfl | rfl
    all_goals
      go_enter Tryz.func124, Tryz.ntmps124
      go_wp2_with fail
      go_ret
      exact ⟨_, rfl, by decide +kernel, by decide +kernel, rfl⟩
  · have hr : Hid (rowL l = []) := Lib.hid (by unfold rowL; rw [if_neg (by omega), if_neg (by omega), if_neg (by omega), if_neg (by omega), if_neg (by omega)])
    have e0 : ((l : Int) == 136) = false := beq_eq_false_iff_ne.2 (by omega)
    have e1 : ((l : Int) == 161) = false := beq_eq_false_iff_ne.2 (by omega)
    have e2 : ((l : Int) == 163) = false := beq_eq_false_iff_ne.2 (by omega)
    have e3 : ((l : Int) == 164) = false := beq_eq_false_iff_ne.2 (by omega)
    have e4 : ((l : Int) == 165) = false := beq_eq_false_iff_ne.2 (by omega)
    clear hl
    go_enter Tryz.func124, Tryz.ntmps124
    go_wp2_with fail
    go_ret
    exact ⟨_, rfl, by rw [hr.out]; decide +kernel, by decide +kernel, rfl⟩
set_option maxRecDepth 100000 in
set_option maxHeartbeats 1000000 in
theorem nth_any (L : List Nat) (s : ByteArray) (hs : pt.scan s = (L, none)) (hz : s.size ≤ 2000) (n : Nat) (hn : n ≤ 1000) (w : World) :
    Calls Tryz.prog 123 #[.string s, .int .i64 n] w fun e w' => e = .returned (.int .i32 ((L.getD n 0 : Nat) : Int)) ∧ Below w.heap.size w w' := by
  have hs1 : (pt.sc s s.size 0).1 = L := by have := congrArg Prod.fst hs; exact this
  have hs2 : (pt.sc s s.size 0).2 = none := by have := congrArg Prod.snd hs; exact this
  obtain ⟨V, hV⟩ : ∃ V, V = L.getD n 0 := ⟨_, rfl⟩
  have HV : Hid ((pt.sc s s.size 0).1.getD n 0 = V) := Lib.hid (by rw [hs1, hV])
  rw [← hV]
  have H2 := Lib.hid hs2
  clear hs hs1 hs2 hV
  go_enter Tryz.func123, Tryz.ntmps123
  go_wp2_with fail
  go_loopw [5, 6] (fun a t wr => ∃ (pos f i : Nat), Hid (pos ≤ s.size ∧ s.size ≤ pos + f ∧ i ≤ n) ∧ a = .int .i64 pos ∧ t = .int .i64 i ∧ Hid ((pt.sc s f pos).1.getD (n - i) 0 = V ∧ (pt.sc s f pos).2 = none) ∧ Below w.heap.size w wr) (fun a _ _ => s.size - (RowKit.intOf a).toNat)
  case atStart => exact ⟨0, s.size, 0, Lib.hid ⟨Nat.zero_le _, by omega, Nat.zero_le _⟩, rfl, rfl, Lib.hid ⟨HV.out, H2.out⟩, Below.refl _ _⟩
  case round =>
    obtain ⟨pos, f, i, hp, rfl, rfl, hg, hB⟩ := hrel
    have HB := Lib.hid hB
    clear hB
    by_cases hpt : pos < s.size
    · obtain ⟨f1, rfl⟩ : ∃ f1, f = f1 + 1 := ⟨f - 1, by have := hp.out; omega⟩
      obtain ⟨hg1, hg2⟩ := hg.out
      cases hb : pt.bad s pos with
      | true => rw [pt.sc_bad s (f1 + 1) pos hpt (by have := hp.out; omega) hb] at hg2; cases hg2
      | false =>
        rw [pt.sc_good s f1 pos hpt hb] at hg1 hg2
        have hat := fun w2 => pt.at_any s pos w2 hpt (by omega)
        rw [hb] at hat
        simp only [Bool.false_eq_true, if_false] at hat
        have hw1 := width_pos s pos
        have hw2 := pt.width_fits s pos hpt
        have HG := Lib.hid hg1; have HH2 := Lib.hid hg2
        clear hg1 hg2 hb hg
        generalize Utf8.decode s pos = d at *
        have HAT := Lib.hid hat
        have HW1 := Lib.hid hw1; have HW2 := Lib.hid hw2
        have x1 : (d.2 : Int) ≤ 2000 := by omega
        have x0 : (0 : Int) ≤ (d.2 : Int) := by omega
        have y0 : (0 : Int) ≤ (pos : Int) := by omega
        have y1 : (pos : Int) < (s.size : Int) := by omega
        have y2 : (s.size : Int) ≤ 2000 := by omega
        have z1 : (i : Int) ≤ 1000 := by have := hp.out; omega
        clear hat hw1 hw2
        by_cases hi : i = n
        · have hV2 : Hid (d.1 = V) := Lib.hid (by have := HG.out; rw [hi, Nat.sub_self] at this; simpa using this)
          have e1 : ((i : Int) == (n : Int)) = true := by rw [hi]; exact beq_self_eq_true _
          have FIN : Hid (Ending.returned (.int .i32 ((d.1 : Nat) : Int)) = .returned (.int .i32 ((V : Nat) : Int))) := Lib.hid (by rw [hV2.out])
          clear hi
          go_wp2_with (go_at_call 47; refine (HAT.out _).mono ?_; rintro e1 w1 ⟨rfl, hb1⟩)
          go_ret
          exact ⟨FIN.out, HB.out.trans (hb1.mono HB.out.size)⟩
        · have e1 : ((i : Int) == (n : Int)) = false := beq_eq_false_iff_ne.2 (by omega)
          have hres : Hid ((pt.sc s f1 (pos + d.2)).1.getD (n - (i + 1)) 0 = V) := Lib.hid (by
            have := HG.out
            have h3 := hp.out
            rw [show n - i = (n - (i + 1)) + 1 by omega] at this
            simpa using this)
          have HI := Lib.hid hi
          clear hi
          go_wp2_with (go_at_call 47; refine (HAT.out _).mono ?_; rintro e1 w1 ⟨rfl, hb1⟩)
          go_roundw
          case rel => exact ⟨pos + d.2, f1, i + 1, Lib.hid ⟨HW2.out, by have := hp.out; have := HW1.out; omega, by have := hp.out; have := HI.out; omega⟩, by go_num, by go_num, Lib.hid ⟨hres.out, HH2.out⟩, HB.out.trans (hb1.mono HB.out.size)⟩
          case measure => simp [RowKit.intOf]; have := HW1.out; omega
    · have hV2 : Hid (Ending.returned (.int .i32 0) = .returned (.int .i32 ((V : Nat) : Int))) := Lib.hid (by
        have h1 := hg.out.1
        rw [pt.sc_end s f pos hpt] at h1
        rw [← h1]; simp)
      have y1 : ¬ (pos : Int) < (s.size : Int) := by omega
      go_wp2_with fail
      go_ret
      exact ⟨hV2.out, HB.out⟩
end Go.Proofs.YtiigknimfibdpaaGreatDoor.bg
namespace Go.Proofs.YtiigknimfibdpaaGreatDoor.bg
open Go.RowKit Go.Lib
set_option linter.unusedVariables false
def OnePost (w : World) (l b : Nat) : Ending → World → Prop := fun e w' => e = .returned (.int .i32 ((one l b : Nat) : Int)) ∧ Below w.heap.size w w'
theorem onePost {w w' : World} {l b : Nat} {v : Int} (h : ((one l b : Nat) : Int) = v) (hb : Below w.heap.size w w') : OnePost w l b (.returned (.int .i32 v)) w' := ⟨by rw [h], hb⟩
set_option maxRecDepth 100000 in
set_option maxHeartbeats 2000000 in
theorem one_any (l b : Nat) (w : World) (hl : l < 256) (hb : b < 256) : Calls Tryz.prog 86 #[.int .i64 l, .int .i64 b] w (OnePost w l b) := by
  have HC := Lib.hid (fun w2 => cell_any b w2 hb)
  cases hc : cell b with
  | none =>
    have e : cellI b = -1 := by unfold cellI; rw [hc]
    rw [e] at HC
    have HV : Hid (((one l b : Nat) : Int) = 0) := Lib.hid (by unfold one; rw [hc]; rfl)
    clear hc e
    go_enter Tryz.func86, Tryz.ntmps86
    go_wp2_with (go_at_call 122; refine (HC.out _).mono ?_; rintro e2 w2 ⟨rfl, rfl⟩)
    go_ret
    exact onePost HV.out (Below.refl _ _)
  | some c =>
    have e : cellI b = (c : Int) := by unfold cellI; rw [hc]
    rw [e] at HC
    have hc2 := (cell_back hc).2
    have hV : one l b = sgC l c := by unfold one; rw [hc]
    unfold sgC at hV
    have HN : Hid (∀ s, pt.scan s = (rowL l, none) → s.size ≤ 2000 → ∀ w2, Calls Tryz.prog 123 #[.string s, .int .i64 c] w2 fun e w' => e = .returned (.int .i32 (((rowL l).getD c 0 : Nat) : Int)) ∧ Below w2.heap.size w2 w') := Lib.hid (fun s hs hz w2 => nth_any (rowL l) s hs hz c (by omega) w2)
    have HR := Lib.hid (fun w2 => row_any l w2)
    have c0 : ¬ (c : Int) < 0 := by omega
    by_cases h6 : (rowL l).getD c 0 = 63
    · have HV : Hid (((one l b : Nat) : Int) = 0) := Lib.hid (by rw [hV, if_pos h6]; rfl)
      rw [h6] at HN
      replace HN : Hid (∀ s, pt.scan s = (rowL l, none) → s.size ≤ 2000 → ∀ w2, Calls Tryz.prog 123 #[.string s, .int .i64 c] w2 fun e w' => e = .returned (.int .i32 63) ∧ Below w2.heap.size w2 w') := HN
      clear hc e hc2 hV h6
      go_enter Tryz.func86, Tryz.ntmps86
      go_wp2_with (first | (go_at_call 122; refine (HC.out _).mono ?_; rintro e2 w2 ⟨rfl, rfl⟩) | (go_at_call 124; refine (HR.out _).mono ?_; rintro e2 w2 ⟨s, rfl, hs, hz, rfl⟩; have HS := Lib.hid hs; have HZ := Lib.hid hz; clear hs hz) | (go_at_call 123; refine (HN.out _ HS.out HZ.out _).mono ?_; rintro e3 w3 ⟨rfl, hb3⟩))
      go_ret
      exact onePost HV.out hb3
    · have HV : Hid (((one l b : Nat) : Int) = (((rowL l).getD c 0 : Nat) : Int)) := Lib.hid (by rw [hV, if_neg h6])
      have e6 : ((((rowL l).getD c 0 : Nat) : Int) == 63) = false := beq_eq_false_iff_ne.2 (by omega)
      clear hc e hc2 hV h6
      generalize (((rowL l).getD c 0 : Nat) : Int) = V at *
      go_enter Tryz.func86, Tryz.ntmps86
      go_wp2_with (first | (go_at_call 122; refine (HC.out _).mono ?_; rintro e2 w2 ⟨rfl, rfl⟩) | (go_at_call 124; refine (HR.out _).mono ?_; rintro e2 w2 ⟨s, rfl, hs, hz, rfl⟩; have HS := Lib.hid hs; have HZ := Lib.hid hz; clear hs hz) | (go_at_call 123; refine (HN.out _ HS.out HZ.out _).mono ?_; rintro e3 w3 ⟨rfl, hb3⟩))
      go_ret
      exact onePost HV.out hb3
def twV (k : Nat) : Value := .tuple #[.int .i32 ((tw k).1 : Nat), .int .i32 ((tw k).2 : Nat)]
set_option maxRecDepth 100000 in
set_option maxHeartbeats 2000000 in
theorem two_any (l b : Nat) (w : World) (hl : l < 256) (hb : b < 256) : Calls Tryz.prog 85 #[.int .i64 l, .int .i64 b] w fun e w' => e = .returned (twV (l * 256 + b)) ∧ w = w' := by
  have l0 : (0 : Int) ≤ (l : Int) := by omega
  have l1 : (l : Int) < 256 := by omega
  have b0 : (0 : Int) ≤ (b : Int) := by omega
  have b1 : (b : Int) < 256 := by omega
  rcases tw_cases (l * 256 + b) with ⟨e, ht⟩ | ⟨e, ht⟩ | ⟨e, ht⟩ | ⟨e, ht⟩ | ⟨ht, n1, n2, n3, n4⟩
  · have hV : Hid (twV (l * 256 + b) = twV 34914) := Lib.hid (by rw [e])
    have eC : (l : Int) * 256 + (b : Int) = 34914 := by omega
    clear e ht
    rw [hV.out]
    go_enter Tryz.func85, Tryz.ntmps85
    go_wp2_with fail
    go_ret2
    exact ⟨rfl, rfl⟩
  · have hV : Hid (twV (l * 256 + b) = twV 34916) := Lib.hid (by rw [e])
    have eC : (l : Int) * 256 + (b : Int) = 34916 := by omega
    clear e ht
    rw [hV.out]
    go_enter Tryz.func85, Tryz.ntmps85
    go_wp2_with fail
    go_ret2
    exact ⟨rfl, rfl⟩
  · have hV : Hid (twV (l * 256 + b) = twV 34979) := Lib.hid (by rw [e])
    have eC : (l : Int) * 256 + (b : Int) = 34979 := by omega
    clear e ht
    rw [hV.out]
    go_enter Tryz.func85, Tryz.ntmps85
    go_wp2_with fail
    go_ret2
    exact ⟨rfl, rfl⟩
  · have hV : Hid (twV (l * 256 + b) = twV 34981) := Lib.hid (by rw [e])
    have eC : (l : Int) * 256 + (b : Int) = 34981 := by omega
    clear e ht
    rw [hV.out]
    go_enter Tryz.func85, Tryz.ntmps85
    go_wp2_with fail
    go_ret2
    exact ⟨rfl, rfl⟩
  · have hV : Hid (twV (l * 256 + b) = .tuple #[.int .i32 0, .int .i32 0]) := Lib.hid (by unfold twV; rw [ht]; rfl)
    have e1 : ((l : Int) * 256 + (b : Int) == 34914) = false := beq_eq_false_iff_ne.2 (by omega)
    have e2 : ((l : Int) * 256 + (b : Int) == 34916) = false := beq_eq_false_iff_ne.2 (by omega)
    have e3 : ((l : Int) * 256 + (b : Int) == 34979) = false := beq_eq_false_iff_ne.2 (by omega)
    have e4 : ((l : Int) * 256 + (b : Int) == 34981) = false := beq_eq_false_iff_ne.2 (by omega)
    clear n1 n2 n3 n4 ht
    rw [hV.out]
    go_enter Tryz.func85, Tryz.ntmps85
    go_wp2_with fail
    go_ret2
    exact ⟨rfl, rfl⟩
/-- The text of two bytes' signs. -/
def sgT (l b : Nat) : ByteArray := pt.txt ((sgL l b).map Int.ofNat)
theorem sgT_two {l b p q : Nat} (h : tw (l * 256 + b) = (p, q)) (h0 : p ≠ 0) : sgT l b = pt.txt [(p : Int), (q : Int)] := by
  unfold sgT sgL; rw [h, if_pos h0]; rfl
theorem sgT_one {l b : Nat} (h : tw (l * 256 + b) = (0, 0)) (h0 : one l b ≠ 0) : sgT l b = pt.txt [((one l b : Nat) : Int)] := by
  unfold sgT sgL; rw [h, if_neg (by simp), if_pos h0]; rfl
theorem sgT_none {l b : Nat} (h : tw (l * 256 + b) = (0, 0)) (h0 : one l b = 0) : sgT l b = ⟨#[]⟩ := by
  unfold sgT sgL; rw [h, if_neg (by simp), if_neg (by simp [h0])]; rfl
theorem txt_one (p : Int) : pt.txt [p] = strOfNums (encodeRuneZ p) := by unfold pt.txt pt.nums; simp
theorem one_valid {l b : Nat} (h : one l b ≠ 0) : validRune ((one l b : Nat) : Int) = true := by
  obtain ⟨c, hc, hl⟩ := one_has h
  obtain ⟨h1, h2⟩ := one_J hl hc
  have h3 := oneJ_rng h2
  rw [h1] at h ⊢
  unfold validRune
  simp; omega
def SgsPost (w : World) (l b : Nat) : Ending → World → Prop := fun e w' => e = .returned (.string (sgT l b)) ∧ Below w.heap.size w w'
theorem sgsPost {w w' : World} {l b : Nat} {v : ByteArray} (h : sgT l b = v) (hb : Below w.heap.size w w') : SgsPost w l b (.returned (.string v)) w' := ⟨by rw [h], hb⟩
set_option maxRecDepth 100000 in
set_option maxHeartbeats 4000000 in
theorem signs_any (l b : Nat) (w : World) (hl : l < 256) (hb : b < 256) : Calls Tryz.prog 57 #[.int .i64 l, .int .i64 b] w (SgsPost w l b) := by
  have HT := Lib.hid (fun w2 => two_any l b w2 hl hb)
  rcases tw_cases (l * 256 + b) with ⟨_, ht⟩ | ⟨_, ht⟩ | ⟨_, ht⟩ | ⟨_, ht⟩ | ⟨ht, _⟩
  · have HV : Hid (sgT l b = ⟨#[195, 138, 204, 132]⟩) := Lib.hid (by rw [sgT_two ht (by omega)]; decide +kernel)
    have e : twV (l * 256 + b) = .tuple #[.int .i32 202, .int .i32 772] := by unfold twV; rw [ht]; rfl
    rw [e] at HT
    have HP : Hid (∀ w2, Calls Tryz.prog 54 #[.int .i32 202] w2 fun e w' => e = .returned (.string ⟨#[195, 138]⟩) ∧ Below w2.heap.size w2 w') := Lib.hid (fun w2 => by
      have := pt.bytes_any 202 w2 (by decide)
      rw [show strOfNums (encodeRuneZ 202) = ⟨#[195, 138]⟩ by decide +kernel] at this
      exact this)
    have HQ : Hid (∀ w2, Calls Tryz.prog 54 #[.int .i32 772] w2 fun e w' => e = .returned (.string ⟨#[204, 132]⟩) ∧ Below w2.heap.size w2 w') := Lib.hid (fun w2 => by
      have := pt.bytes_any 772 w2 (by decide)
      rw [show strOfNums (encodeRuneZ 772) = ⟨#[204, 132]⟩ by decide +kernel] at this
      exact this)
    clear e ht
    go_enter Tryz.func57, Tryz.ntmps57
    go_wp2_with (first | (go_at_call 85; refine (HT.out _).mono ?_; rintro e2 w2 ⟨rfl, rfl⟩) | (go_at_call 54; (with_reducible refine (HP.out _).mono ?_); rintro e3 w3 ⟨rfl, hb3⟩) | (go_at_call 54; (with_reducible refine (HQ.out _).mono ?_); rintro e4 w4 ⟨rfl, hb4⟩))
    go_ret
    exact sgsPost HV.out (hb3.trans (hb4.mono hb3.size))
  · have HV : Hid (sgT l b = ⟨#[195, 138, 204, 140]⟩) := Lib.hid (by rw [sgT_two ht (by omega)]; decide +kernel)
    have e : twV (l * 256 + b) = .tuple #[.int .i32 202, .int .i32 780] := by unfold twV; rw [ht]; rfl
    rw [e] at HT
    have HP : Hid (∀ w2, Calls Tryz.prog 54 #[.int .i32 202] w2 fun e w' => e = .returned (.string ⟨#[195, 138]⟩) ∧ Below w2.heap.size w2 w') := Lib.hid (fun w2 => by
      have := pt.bytes_any 202 w2 (by decide)
      rw [show strOfNums (encodeRuneZ 202) = ⟨#[195, 138]⟩ by decide +kernel] at this
      exact this)
    have HQ : Hid (∀ w2, Calls Tryz.prog 54 #[.int .i32 780] w2 fun e w' => e = .returned (.string ⟨#[204, 140]⟩) ∧ Below w2.heap.size w2 w') := Lib.hid (fun w2 => by
      have := pt.bytes_any 780 w2 (by decide)
      rw [show strOfNums (encodeRuneZ 780) = ⟨#[204, 140]⟩ by decide +kernel] at this
      exact this)
    clear e ht
    go_enter Tryz.func57, Tryz.ntmps57
    go_wp2_with (first | (go_at_call 85; refine (HT.out _).mono ?_; rintro e2 w2 ⟨rfl, rfl⟩) | (go_at_call 54; (with_reducible refine (HP.out _).mono ?_); rintro e3 w3 ⟨rfl, hb3⟩) | (go_at_call 54; (with_reducible refine (HQ.out _).mono ?_); rintro e4 w4 ⟨rfl, hb4⟩))
    go_ret
    exact sgsPost HV.out (hb3.trans (hb4.mono hb3.size))
  · have HV : Hid (sgT l b = ⟨#[195, 170, 204, 132]⟩) := Lib.hid (by rw [sgT_two ht (by omega)]; decide +kernel)
    have e : twV (l * 256 + b) = .tuple #[.int .i32 234, .int .i32 772] := by unfold twV; rw [ht]; rfl
    rw [e] at HT
    have HP : Hid (∀ w2, Calls Tryz.prog 54 #[.int .i32 234] w2 fun e w' => e = .returned (.string ⟨#[195, 170]⟩) ∧ Below w2.heap.size w2 w') := Lib.hid (fun w2 => by
      have := pt.bytes_any 234 w2 (by decide)
      rw [show strOfNums (encodeRuneZ 234) = ⟨#[195, 170]⟩ by decide +kernel] at this
      exact this)
    have HQ : Hid (∀ w2, Calls Tryz.prog 54 #[.int .i32 772] w2 fun e w' => e = .returned (.string ⟨#[204, 132]⟩) ∧ Below w2.heap.size w2 w') := Lib.hid (fun w2 => by
      have := pt.bytes_any 772 w2 (by decide)
      rw [show strOfNums (encodeRuneZ 772) = ⟨#[204, 132]⟩ by decide +kernel] at this
      exact this)
    clear e ht
    go_enter Tryz.func57, Tryz.ntmps57
    go_wp2_with (first | (go_at_call 85; refine (HT.out _).mono ?_; rintro e2 w2 ⟨rfl, rfl⟩) | (go_at_call 54; (with_reducible refine (HP.out _).mono ?_); rintro e3 w3 ⟨rfl, hb3⟩) | (go_at_call 54; (with_reducible refine (HQ.out _).mono ?_); rintro e4 w4 ⟨rfl, hb4⟩))
    go_ret
    exact sgsPost HV.out (hb3.trans (hb4.mono hb3.size))
  · have HV : Hid (sgT l b = ⟨#[195, 170, 204, 140]⟩) := Lib.hid (by rw [sgT_two ht (by omega)]; decide +kernel)
    have e : twV (l * 256 + b) = .tuple #[.int .i32 234, .int .i32 780] := by unfold twV; rw [ht]; rfl
    rw [e] at HT
    have HP : Hid (∀ w2, Calls Tryz.prog 54 #[.int .i32 234] w2 fun e w' => e = .returned (.string ⟨#[195, 170]⟩) ∧ Below w2.heap.size w2 w') := Lib.hid (fun w2 => by
      have := pt.bytes_any 234 w2 (by decide)
      rw [show strOfNums (encodeRuneZ 234) = ⟨#[195, 170]⟩ by decide +kernel] at this
      exact this)
    have HQ : Hid (∀ w2, Calls Tryz.prog 54 #[.int .i32 780] w2 fun e w' => e = .returned (.string ⟨#[204, 140]⟩) ∧ Below w2.heap.size w2 w') := Lib.hid (fun w2 => by
      have := pt.bytes_any 780 w2 (by decide)
      rw [show strOfNums (encodeRuneZ 780) = ⟨#[204, 140]⟩ by decide +kernel] at this
      exact this)
    clear e ht
    go_enter Tryz.func57, Tryz.ntmps57
    go_wp2_with (first | (go_at_call 85; refine (HT.out _).mono ?_; rintro e2 w2 ⟨rfl, rfl⟩) | (go_at_call 54; (with_reducible refine (HP.out _).mono ?_); rintro e3 w3 ⟨rfl, hb3⟩) | (go_at_call 54; (with_reducible refine (HQ.out _).mono ?_); rintro e4 w4 ⟨rfl, hb4⟩))
    go_ret
    exact sgsPost HV.out (hb3.trans (hb4.mono hb3.size))
  · have e : twV (l * 256 + b) = .tuple #[.int .i32 0, .int .i32 0] := by unfold twV; rw [ht]; rfl
    rw [e] at HT
    have HO : Hid (∀ w2, Calls Tryz.prog 86 #[.int .i64 l, .int .i64 b] w2 fun e w' => e = .returned (.int .i32 ((one l b : Nat) : Int)) ∧ Below w2.heap.size w2 w') := Lib.hid (fun w2 => one_any l b w2 hl hb)
    by_cases ho : one l b = 0
    · have HV : Hid (sgT l b = ⟨#[]⟩) := Lib.hid (sgT_none ht ho)
      rw [ho] at HO
      replace HO : Hid (∀ w2, Calls Tryz.prog 86 #[.int .i64 l, .int .i64 b] w2 fun e w' => e = .returned (.int .i32 0) ∧ Below w2.heap.size w2 w') := HO
      clear e ht ho
      go_enter Tryz.func57, Tryz.ntmps57
      go_wp2_with (first | (go_at_call 85; refine (HT.out _).mono ?_; rintro e2 w2 ⟨rfl, rfl⟩) | (go_at_call 86; refine (HO.out _).mono ?_; rintro e3 w3 ⟨rfl, hb3⟩))
      go_ret
      exact sgsPost HV.out hb3
    · have HV : Hid (sgT l b = strOfNums (encodeRuneZ ((one l b : Nat) : Int))) := Lib.hid (by rw [sgT_one ht ho, txt_one])
      have HP := Lib.hid (fun w2 => pt.bytes_any ((one l b : Nat) : Int) w2 (one_valid ho))
      have hne : ¬ ((one l b : Nat) : Int) = 0 := by omega
      generalize ((one l b : Nat) : Int) = P at *
      generalize strOfNums (encodeRuneZ P) = T at *
      have e1 : (P != 0) = true := by rw [bne, beq_eq_false_iff_ne.2 hne]; rfl
      clear e ht ho hne
      go_enter Tryz.func57, Tryz.ntmps57
      go_wp2_with (first | (go_at_call 85; refine (HT.out _).mono ?_; rintro e2 w2 ⟨rfl, rfl⟩) | (go_at_call 86; refine (HO.out _).mono ?_; rintro e3 w3 ⟨rfl, hb3⟩) | (go_at_call 54; refine (HP.out _).mono ?_; rintro e4 w4 ⟨rfl, hb4⟩))
      go_ret
      exact sgsPost HV.out (hb3.trans (hb4.mono hb3.size))
end Go.Proofs.YtiigknimfibdpaaGreatDoor.bg
namespace Go.Proofs.YtiigknimfibdpaaGreatDoor.bg
open Go.RowKit Go.Lib
set_option linter.unusedVariables false
theorem codeW_not {z y : Int} (rest : List Int) (h : twB z y = none) : codeW (z :: y :: rest) = (plc z).map fun j => (cdJ j, 1) := by
  show (match twB z y with | some b => some (34816 + b, 2) | none => _) = _
  rw [h]
end Go.Proofs.YtiigknimfibdpaaGreatDoor.bg
namespace Go.Proofs.YtiigknimfibdpaaGreatDoor.pt
open Go.RowKit Go.Lib
set_option linter.unusedVariables false
theorem data_app (t s : ByteArray) : (t ++ s).data.toList = t.data.toList ++ s.data.toList := by simp
end Go.Proofs.YtiigknimfibdpaaGreatDoor.pt
namespace Go.Proofs.YtiigknimfibdpaaGreatDoor.ch
open Go.RowKit Go.Lib
set_option linter.unusedVariables false
/-- A byte of a text; beyond its end: 0. -/
def bt (s : ByteArray) (i : Nat) : Nat := (s.data.toList.getD i 0).toNat
theorem bt_lt (s : ByteArray) (i : Nat) : bt s i < 256 := UInt8.toNat_lt _
theorem size_list (s : ByteArray) : s.data.toList.length = s.size := by rw [Array.length_toList]; rfl
theorem bt_get (s : ByteArray) (i : Nat) (h : i < s.size) : (s[i]).toNat = bt s i := by
  unfold bt
  have hk : i < s.data.toList.length := by rw [size_list]; exact h
  rw [List.getD_eq_getElem?_getD, List.getElem?_eq_getElem hk]
  rfl
theorem bt_right (a b : ByteArray) (i : Nat) : bt (a ++ b) (a.size + i) = bt b i := by
  unfold bt
  rw [pt.data_app, List.getD_eq_getElem?_getD, List.getD_eq_getElem?_getD, List.getElem?_append_right (by rw [size_list]; omega), size_list, Nat.add_sub_cancel_left]
/-- The signs of two bytes. -/
def sg2 (c : Int) (l b : Nat) : List Nat := if c = 4 then (if wa.sgW l b = 0 then [] else [wa.sgW l b]) else if c = 5 then (if jo.sg (l * 256 + b) = 0 then [] else [jo.sg (l * 256 + b)]) else bg.sgL l b
/-- The signs from a place on, in a charset of two bytes a sign, and where none stands. -/
def tb (c : Int) (s : ByteArray) : Nat → Nat → List Int × Option Nat
  | 0, _ => ([], none)
  | f + 1, pos => if pos < s.size then
      (if bt s pos < 128 then (((bt s pos : Nat) : Int) :: (tb c s f (pos + 1)).1, (tb c s f (pos + 1)).2)
      else if pos + 1 < s.size ∧ sg2 c (bt s pos) (bt s (pos + 1)) ≠ [] then ((sg2 c (bt s pos) (bt s (pos + 1))).map Int.ofNat ++ (tb c s f (pos + 2)).1, (tb c s f (pos + 2)).2)
      else ([], some pos))
    else ([], none)
theorem tb_end (c : Int) (s : ByteArray) (f pos : Nat) (h : ¬ pos < s.size) : tb c s f pos = ([], none) := by cases f <;> simp [tb, h]
theorem tb_low (c : Int) (s : ByteArray) (f pos : Nat) (h : pos < s.size) (hl : bt s pos < 128) : tb c s (f + 1) pos = (((bt s pos : Nat) : Int) :: (tb c s f (pos + 1)).1, (tb c s f (pos + 1)).2) := by simp [tb, h, hl]
theorem tb_two (c : Int) (s : ByteArray) (f pos : Nat) (h : pos < s.size) (hl : ¬ bt s pos < 128) (h2 : pos + 1 < s.size ∧ sg2 c (bt s pos) (bt s (pos + 1)) ≠ []) : tb c s (f + 1) pos = ((sg2 c (bt s pos) (bt s (pos + 1))).map Int.ofNat ++ (tb c s f (pos + 2)).1, (tb c s f (pos + 2)).2) := by
  show (if pos < s.size then (if bt s pos < 128 then _ else if pos + 1 < s.size ∧ sg2 c (bt s pos) (bt s (pos + 1)) ≠ [] then _ else _) else _) = _
  rw [if_pos h, if_neg hl, if_pos h2]
theorem tb_bad (c : Int) (s : ByteArray) (f pos : Nat) (h : pos < s.size) (hl : ¬ bt s pos < 128) (h2 : ¬ (pos + 1 < s.size ∧ sg2 c (bt s pos) (bt s (pos + 1)) ≠ [])) : tb c s (f + 1) pos = ([], some pos) := by
  show (if pos < s.size then (if bt s pos < 128 then _ else if pos + 1 < s.size ∧ sg2 c (bt s pos) (bt s (pos + 1)) ≠ [] then _ else _) else _) = _
  rw [if_pos h, if_neg hl, if_neg h2]
theorem tb_shift (c : Int) (a b : ByteArray) : ∀ f pos, tb c (a ++ b) f (a.size + pos) = ((tb c b f pos).1, ((tb c b f pos).2).map (a.size + ·))
  | 0, pos => rfl
  | f + 1, pos => by
    have hz : (a ++ b).size = a.size + b.size := ByteArray.size_append
    by_cases hp : pos < b.size
    · by_cases hl : bt b pos < 128
      · rw [tb_low c b f pos hp hl, tb_low c (a ++ b) f (a.size + pos) (by omega) (by rw [bt_right]; exact hl), bt_right, Nat.add_assoc, tb_shift c a b f (pos + 1)]
      · have hl2 : ¬ bt (a ++ b) (a.size + pos) < 128 := by rw [bt_right]; exact hl
        by_cases h3 : pos + 1 < b.size ∧ sg2 c (bt b pos) (bt b (pos + 1)) ≠ []
        · rw [tb_two c b f pos hp hl h3, tb_two c (a ++ b) f (a.size + pos) (by omega) hl2 (by rw [Nat.add_assoc, bt_right, bt_right]; exact ⟨by omega, h3.2⟩), Nat.add_assoc, bt_right, bt_right, Nat.add_assoc, tb_shift c a b f (pos + 2)]
        · rw [tb_bad c b f pos hp hl h3, tb_bad c (a ++ b) f (a.size + pos) (by omega) hl2 (by rw [Nat.add_assoc, bt_right, bt_right]; intro h; exact h3 ⟨by omega, h.2⟩)]
          rfl
    · rw [tb_end c b (f + 1) pos hp, tb_end c (a ++ b) (f + 1) (a.size + pos) (by omega)]; rfl
/-- The signs of bytes in a charset, and where none stands. -/
def dz (c : Int) (s : ByteArray) : List Int × Option Nat := if c ≤ 3 then (sg.sdec c s.data.toList, none) else if c = 7 then (pt.zsOf s, (pt.scan s).2) else if 8 ≤ c then wd.wscan s (c == 9) else tb c s s.size 0
def inC (c : Int) : Prop := 0 ≤ c ∧ c ≤ 9
instance (c : Int) : Decidable (inC c) := by unfold inC; exact inferInstance
/-- What Decode answers: the text, the error, the place. -/
def dcT (c : Int) (s : ByteArray) : ByteArray := if inC c ∧ (dz c s).2 = none then pt.txt (dz c s).1 else ⟨#[]⟩
def dcE (c : Int) (s : ByteArray) : Int := if inC c then (if (dz c s).2 = none then 0 else 2) else 5
def dcA (c : Int) (s : ByteArray) : Int := if inC c then (match (dz c s).2 with | none => 0 | some a => (a : Int)) else 0
where
  txt_app (a b : List Int) : pt.txt (a ++ b) = pt.txt a ++ pt.txt b := by
    apply ByteArray.ext
    apply Array.ext'
    show (pt.txt (a ++ b)).data.toList = (pt.txt a ++ pt.txt b).data.toList
    rw [pt.data_app, pt.txt_data, pt.txt_data, pt.txt_data]
    simp [pt.nums]
theorem sg2_len (c : Int) (l b : Nat) : (sg2 c l b).length ≤ 2 := by
  unfold sg2
  by_cases h4 : c = 4
  · rw [if_pos h4]; split <;> simp
  · rw [if_neg h4]
    by_cases h5 : c = 5
    · rw [if_pos h5]; split <;> simp
    · rw [if_neg h5]
      unfold bg.sgL
      split
      · simp
      · split <;> simp
theorem tb_len (c : Int) (s : ByteArray) : ∀ f pos, (tb c s f pos).1.length ≤ s.size - pos
  | 0, pos => by simp [tb]
  | f + 1, pos => by
    by_cases hp : pos < s.size
    · by_cases hl : bt s pos < 128
      · rw [tb_low c s f pos hp hl]
        have := tb_len c s f (pos + 1)
        simp; omega
      · by_cases h3 : pos + 1 < s.size ∧ sg2 c (bt s pos) (bt s (pos + 1)) ≠ []
        · rw [tb_two c s f pos hp hl h3]
          have h1 := tb_len c s f (pos + 2)
          have h2 := sg2_len c (bt s pos) (bt s (pos + 1))
          simp; omega
        · rw [tb_bad c s f pos hp hl h3]; simp
    · rw [tb_end c s (f + 1) pos hp]; simp
theorem tb_at (c : Int) (s : ByteArray) : ∀ f pos p, (tb c s f pos).2 = some p → p < s.size
  | 0, pos, p, h => by cases h
  | f + 1, pos, p, h => by
    by_cases hp : pos < s.size
    · by_cases hl : bt s pos < 128
      · rw [tb_low c s f pos hp hl] at h; exact tb_at c s f (pos + 1) p h
      · by_cases h3 : pos + 1 < s.size ∧ sg2 c (bt s pos) (bt s (pos + 1)) ≠ []
        · rw [tb_two c s f pos hp hl h3] at h; exact tb_at c s f (pos + 2) p h
        · rw [tb_bad c s f pos hp hl h3] at h; injection h with h; omega
    · rw [tb_end c s (f + 1) pos hp] at h; cases h
theorem sc_lt (s : ByteArray) : ∀ f pos p, (pt.sc s f pos).2 = some p → p < s.size
  | 0, pos, p, h => by simp [pt.sc] at h
  | f + 1, pos, p, h => by
    by_cases hp : pos < s.size
    · cases hb : pt.bad s pos with
      | true => simp [pt.sc, hp, hb] at h; omega
      | false => rw [pt.sc_good s f pos hp hb] at h; exact sc_lt s f _ p h
    · rw [pt.sc_end s (f + 1) pos hp] at h; cases h
theorem txt_most (l : List Int) : (pt.txt l).size ≤ 4 * l.length := by rw [pt.txt_size]; exact pt.nums_len l
theorem dz_at {c : Int} {s : ByteArray} {p : Nat} (h7 : c ≤ 7) (h : (dz c s).2 = some p) : p < s.size := by
  unfold dz at h
  by_cases h3 : c ≤ 3
  · rw [if_pos h3] at h; cases h
  · rw [if_neg h3] at h
    by_cases h77 : c = 7
    · rw [if_pos h77] at h; exact sc_lt s s.size 0 p h
    · rw [if_neg h77, if_neg (by omega)] at h; exact tb_at c s s.size 0 p h
theorem dz_most {c : Int} {s : ByteArray} (h7 : c ≤ 7) (h : (dz c s).2 = none) : (pt.txt (dz c s).1).size ≤ 4 * s.size := by
  unfold dz at *
  by_cases h3 : c ≤ 3
  · simp only [if_pos h3] at *
    have := txt_most (sg.sdec c s.data.toList)
    unfold sg.sdec at *
    rw [List.length_map, size_list] at this
    exact this
  · simp only [if_neg h3] at *
    by_cases h77 : c = 7
    · simp only [if_pos h77] at *
      rw [pt.txt_back s h]; omega
    · simp only [if_neg h77, if_neg (show ¬ 8 ≤ c by omega)] at *
      have h1 := txt_most (tb c s s.size 0).1
      have h2 := tb_len c s s.size 0
      omega
end Go.Proofs.YtiigknimfibdpaaGreatDoor.ch
namespace Go.Proofs.YtiigknimfibdpaaGreatDoor.sg
open Go.RowKit Go.Lib
set_option linter.unusedVariables false
theorem data_app (t s : ByteArray) : (t ++ s).data.toList = t.data.toList ++ s.data.toList := by simp
theorem txt_snoc (zs : List Int) (p : Int) : pt.txt zs ++ strOfNums (encodeRuneZ p) = pt.txt (zs ++ [p]) := by
  apply ByteArray.ext
  apply Array.ext'
  show (pt.txt zs ++ strOfNums (encodeRuneZ p)).data.toList = (pt.txt (zs ++ [p])).data.toList
  rw [data_app, pt.txt_data, pt.txt_data, strOfNums_data]
  simp [pt.nums]
theorem ret_si {s : ByteArray} {a b : Int} (h : a = b) : Ending.returned (.tuple #[.string s, .int .i64 a]) = .returned (.tuple #[.string s, .int .i64 b]) := by rw [h]
theorem sdec_len (c : Int) (l : List UInt8) : (sdec c l).length = l.length := by simp [sdec]
theorem sdec_app (c : Int) (a b : List UInt8) : sdec c (a ++ b) = sdec c a ++ sdec c b := by simp [sdec]
theorem txt_app (a b : List Int) : pt.txt (a ++ b) = pt.txt a ++ pt.txt b := by
  apply ByteArray.ext
  apply Array.ext'
  show (pt.txt (a ++ b)).data.toList = (pt.txt a ++ pt.txt b).data.toList
  rw [data_app, pt.txt_data, pt.txt_data, pt.txt_data]
  simp [pt.nums]
theorem txt_most (l : List Int) : (pt.txt l).size ≤ 4 * l.length := by
  show (strOfNums (pt.nums l)).size ≤ _
  rw [strOfNums_size]; exact pt.nums_len l
set_option maxRecDepth 100000 in
set_option maxHeartbeats 2000000 in
theorem refDecode_any (c : Int) (s : ByteArray) (w : World) (h0 : 0 ≤ c) (h1 : c ≤ 3) (hs : s.size ≤ 8000) :
    Calls Tryz.prog 34 #[.int .i64 c, .string s] w fun e w' => e = .returned (.string (pt.txt (sdec c s.data.toList))) ∧ Below w.heap.size w w' := by
  have hl : s.data.toList.length = s.size := by rw [Array.length_toList]; rfl
  obtain ⟨T, hT⟩ : ∃ T, T = pt.txt (sdec c s.data.toList) := ⟨_, rfl⟩
  rw [← hT]
  have HT := Lib.hid hT; have HL := Lib.hid hl
  clear hT hl
  go_enter Tryz.func34, Tryz.ntmps34
  go_wp2_with fail
  go_loopw [5, 6] (fun t i wr => ∃ j : Nat, j ≤ s.size ∧ i = .int .i64 j ∧ t = .string (pt.txt (sdec c (s.data.toList.take j))) ∧ Below w.heap.size w wr) (fun _ i _ => s.size - (RowKit.intOf i).toNat)
  case atStart => exact ⟨0, Nat.zero_le _, rfl, by simp [sdec]; rfl, Below.refl _ _⟩
  case round =>
    obtain ⟨j, hj, rfl, rfl, hB⟩ := hrel
    have HB := Lib.hid hB
    clear hB
    by_cases hlt : j < s.size
    · have htk : s.data.toList.take (j + 1) = s.data.toList.take j ++ [s[j]] := by
        rw [List.take_add_one, List.getElem?_eq_getElem (by have := HL.out; omega)]; simp; rfl
      have hb := (s[j]).toNat_lt
      have hsn : pt.txt (sdec c (s.data.toList.take j)) ++ strOfNums (encodeRuneZ (sgn c (s[j]).toNat)) = pt.txt (sdec c (s.data.toList.take (j + 1))) := by
        rw [htk, sdec_app, txt_snoc]; rfl
      have hBY := fun w2 => pt.bytes_any (sgn c (s[j]).toNat) w2 (sgn_valid h0 h1 hb)
      have hSG := fun w2 => sign_any c (s[j]).toNat w2 h0 h1 hb
      have hBs : (strOfNums (encodeRuneZ (sgn c (s[j]).toNat))).size ≤ 4 := by rw [strOfNums_size]; exact (encodeRuneZ_length _).2
      have hTs := txt_most (sdec c (s.data.toList.take j))
      rw [sdec_len] at hTs
      have hTl : (s.data.toList.take j).length ≤ j := List.length_take_le _ _
      generalize sgn c (s[j]).toNat = S at *
      generalize strOfNums (encodeRuneZ S) = B at *
      generalize pt.txt (sdec c (s.data.toList.take j)) = T0 at *
      have hcat : ¬ 9223372036854775807 < T0.size + B.size := by omega
      have HSN := Lib.hid hsn; have HBY := Lib.hid hBY; have HSG := Lib.hid hSG
      clear htk hsn hBY hSG hBs hTs hTl
      go_wp2_with (first | (go_at_call 55; refine (HSG.out _).mono ?_; rintro e2 w2 ⟨rfl, hb2⟩) | (go_at_call 54; refine (HBY.out _).mono ?_; rintro e3 w3 ⟨rfl, hb3⟩))
      go_roundw
      case rel => exact ⟨j + 1, by omega, by go_num, by rw [HSN.out], (HB.out.trans (hb2.mono HB.out.size)).trans (hb3.mono (Nat.le_trans HB.out.size hb2.size))⟩
      case measure => simp [RowKit.intOf]; omega
    · have hR : Hid (pt.txt (sdec c (s.data.toList.take j)) = T) := Lib.hid (by rw [List.take_of_length_le (by have := HL.out; omega)]; exact HT.out.symm)
      go_wp2_with fail
      go_ret
      exact ⟨congrArg (fun t => Ending.returned (.string t)) hR.out, HB.out⟩
/-- Where the signs of a row begin whose text has begun before. -/
def far : Option Nat → Int
  | none => -1
  | some a => (a : Int)
theorem senc_cons_bad {c p : Int} {l : List Int} {a : Nat} (h : byte c p < 0) : senc c a (p :: l) = ([], some a) := by
  show (if byte c p < 0 then _ else _) = _
  rw [if_pos h]
theorem senc_cons_good {c p : Int} {l : List Int} {a k : Nat} (h : byte c p = (k : Int)) : senc c a (p :: l) = (UInt8.ofNat k :: (senc c (a + (encodeRuneZ p).length) l).1, (senc c (a + (encodeRuneZ p).length) l).2) := by
  show (if byte c p < 0 then _ else _) = _
  rw [if_neg (by omega), h]
  rfl
end Go.Proofs.YtiigknimfibdpaaGreatDoor.sg
namespace Go.Proofs.YtiigknimfibdpaaGreatDoor.ch
open Go.RowKit Go.Lib
set_option linter.unusedVariables false
/-- What all walks ask: the examples of the layers repeat (first | (with_reducible exact Below.refl _ _) | (with_reducible refine Below.setCell ?_ (by simp) _) | (with_reducible refine Below.alloc ?_ (by simp) _)), Decode, a name. -/
structure Ch (K : World → Prop) : Prop where
  stay : ∀ w w', K w → Below w.heap.size w w' → K w'
  a2 : ∀ w, K w → Calls Tryz.prog 60 #[] w fun e w' => e = .returned (.bool true) ∧ Below w.heap.size w w'
  a5 : ∀ w, K w → Calls Tryz.prog 61 #[] w fun e w' => e = .returned (.bool true) ∧ Below w.heap.size w w'
  a6 : ∀ w, K w → Calls Tryz.prog 62 #[] w fun e w' => e = .returned (.bool true) ∧ Below w.heap.size w w'
  a7 : ∀ w, K w → Calls Tryz.prog 63 #[] w fun e w' => e = .returned (.bool true) ∧ Below w.heap.size w w'
  a8 : ∀ w, K w → Calls Tryz.prog 64 #[] w fun e w' => e = .returned (.bool true) ∧ Below w.heap.size w w'
  dec : ∀ (c : Int) (s : ByteArray) w, K w → -9223372036854775808 ≤ c → c ≤ 9223372036854775807 → s.size ≤ 4000 → Calls Tryz.prog 23 #[.int .i64 c, .string s] w fun e w' => e = .returned (.tuple #[.string (dcT c s), .agg #[.int .i64 (dcE c s), .int .i64 (dcA c s)]]) ∧ Below w.heap.size w w'
  utf : ∀ w, K w → Calls Tryz.prog 32 #[.string ⟨#[85, 84, 70, 56]⟩] w fun e w' => e = .returned (.tuple #[.int .i64 7, .bool true]) ∧ Below w.heap.size w w'
/-- The world so far. -/
structure Kb (K : World → Prop) (w W : World) : Prop where
  k : K W
  b : Below w.heap.size w W
theorem Kb.below {K : World → Prop} (L : ∀ w w', K w → Below w.heap.size w w' → K w') {w W W' : World} (h : Kb K w W) (hb : Below W.heap.size W W') : Kb K w W' := ⟨L _ _ h.k hb, h.b.trans (hb.mono h.b.size)⟩
theorem ex_one : dcT 4 ⟨#[97, 176, 161]⟩ = ⟨#[97, 234, 176, 128]⟩ ∧ dcE 4 ⟨#[97, 176, 161]⟩ = 0 ∧ dcA 4 ⟨#[97, 176, 161]⟩ = 0 := by
  have h : dz 4 ⟨#[97, 176, 161]⟩ = ([97, 44032], none) := by decide +kernel
  have hi : inC 4 := by decide
  unfold dcT dcE dcA
  rw [h]
  simp only [hi, if_true, and_self]
  exact ⟨by decide +kernel, trivial⟩
theorem ex_two : dcT 4 ⟨#[97, 176]⟩ = ⟨#[]⟩ ∧ dcE 4 ⟨#[97, 176]⟩ = 2 ∧ dcA 4 ⟨#[97, 176]⟩ = 1 := by
  have h : dz 4 ⟨#[97, 176]⟩ = ([97], some 1) := by decide +kernel
  have hi : inC 4 := by decide
  unfold dcT dcE dcA
  rw [h]
  simp [hi]
set_option maxRecDepth 100000 in
set_option maxHeartbeats 4000000 in
theorem Awake_any {K : World → Prop} (L : Ch K) (w : World) (hK : K w) : Calls Tryz.prog 37 #[] w fun e w' => e = .returned (.bool true) ∧ Below w.heap.size w w' := by
  have HD1 : Hid (∀ W, K W → Calls Tryz.prog 23 #[.int .i64 4, .string ⟨#[97, 176, 161]⟩] W fun e w' => e = .returned (.tuple #[.string ⟨#[97, 234, 176, 128]⟩, .agg #[.int .i64 0, .int .i64 0]]) ∧ Below W.heap.size W w') := Lib.hid (fun W h => by
    have := L.dec 4 ⟨#[97, 176, 161]⟩ W h (by omega) (by omega) (by decide)
    rw [ex_one.1, ex_one.2.1, ex_one.2.2] at this
    exact this)
  have HD2 : Hid (∀ W, K W → Calls Tryz.prog 23 #[.int .i64 4, .string ⟨#[97, 176]⟩] W fun e w' => e = .returned (.tuple #[.string ⟨#[]⟩, .agg #[.int .i64 2, .int .i64 1]]) ∧ Below W.heap.size W w') := Lib.hid (fun W h => by
    have := L.dec 4 ⟨#[97, 176]⟩ W h (by omega) (by omega) (by decide)
    rw [ex_two.1, ex_two.2.1, ex_two.2.2] at this
    exact this)
  have HBD : Hid (∀ W, Calls Tryz.prog 24 #[.agg #[.int .i64 0, .int .i64 0]] W fun e w' => e = .returned (.bool false) ∧ Below W.heap.size W w') := Lib.hid (fun W => pt.bad_any W 0 0)
  have HL := Lib.hid L.stay; have H2 := Lib.hid L.a2; have H5 := Lib.hid L.a5; have H6 := Lib.hid L.a6; have H7 := Lib.hid L.a7; have H8 := Lib.hid L.a8; have HU := Lib.hid L.utf
  have K0 : Hid (Kb K w w) := Lib.hid ⟨hK, Below.refl _ _⟩
  clear L hK
  go_enter Tryz.func37, Tryz.ntmps37
  go_wp2_with (first
    | (go_at_call 60; refine (H2.out _ K3.out.k).mono ?_; rintro e4 w4 ⟨rfl, hb4⟩; have K4 := Lib.hid (K3.out.below HL.out hb4); have F2 := Lib.hid (F2.out.below hb4 F2.out.lt); have G2 := Lib.hid (G2.out.below hb4 G2.out.lt); obtain ⟨_, f0, f1, _, _⟩ := F2.out; obtain ⟨_, g0, g1, _, _⟩ := G2.out; clear hb4)
    | (go_at_call 61; refine (H5.out _ K4.out.k).mono ?_; rintro e4 w4 ⟨rfl, hb4⟩; have K4 := Lib.hid (K4.out.below HL.out hb4); have F2 := Lib.hid (F2.out.below hb4 F2.out.lt); have G2 := Lib.hid (G2.out.below hb4 G2.out.lt); obtain ⟨_, f0, f1, _, _⟩ := F2.out; obtain ⟨_, g0, g1, _, _⟩ := G2.out; clear hb4)
    | (go_at_call 62; refine (H6.out _ K4.out.k).mono ?_; rintro e4 w4 ⟨rfl, hb4⟩; have K4 := Lib.hid (K4.out.below HL.out hb4); have F2 := Lib.hid (F2.out.below hb4 F2.out.lt); have G2 := Lib.hid (G2.out.below hb4 G2.out.lt); obtain ⟨_, f0, f1, _, _⟩ := F2.out; obtain ⟨_, g0, g1, _, _⟩ := G2.out; clear hb4)
    | (go_at_call 63; refine (H7.out _ K4.out.k).mono ?_; rintro e4 w4 ⟨rfl, hb4⟩; have K4 := Lib.hid (K4.out.below HL.out hb4); have F2 := Lib.hid (F2.out.below hb4 F2.out.lt); have G2 := Lib.hid (G2.out.below hb4 G2.out.lt); obtain ⟨_, f0, f1, _, _⟩ := F2.out; obtain ⟨_, g0, g1, _, _⟩ := G2.out; clear hb4)
    | (go_at_call 64; refine (H8.out _ K4.out.k).mono ?_; rintro e4 w4 ⟨rfl, hb4⟩; have K4 := Lib.hid (K4.out.below HL.out hb4); have F2 := Lib.hid (F2.out.below hb4 F2.out.lt); have G2 := Lib.hid (G2.out.below hb4 G2.out.lt); obtain ⟨_, f0, f1, _, _⟩ := F2.out; obtain ⟨_, g0, g1, _, _⟩ := G2.out; clear hb4)
    | (go_at_call 24; refine (HBD.out _).mono ?_; rintro e4 w4 ⟨rfl, hb4⟩; have K4 := Lib.hid (K4.out.below HL.out hb4); have F2 := Lib.hid (F2.out.below hb4 F2.out.lt); have G2 := Lib.hid (G2.out.below hb4 G2.out.lt); obtain ⟨_, f0, f1, _, _⟩ := F2.out; obtain ⟨_, g0, g1, _, _⟩ := G2.out; clear hb4)
    | (go_at_call 32; refine (HU.out _ K2.out.k).mono ?_; rintro e3 w3 ⟨rfl, hb3⟩; have K3 := Lib.hid (K2.out.below HL.out hb3); have F2 := Lib.hid (F2.out.below hb3 F2.out.lt); have G2 := Lib.hid (G2.out.below hb3 G2.out.lt); obtain ⟨_, f0, f1, _, _⟩ := F2.out; obtain ⟨_, g0, g1, _, _⟩ := G2.out; clear hb3)
    | (go_at_call 23; (with_reducible refine (HD2.out _ K1.out.k).mono ?_); rintro e2 w2 ⟨rfl, hb2⟩; have hA : Below w2.heap.size w2 (w2.alloc (.cells #[.int .i64 2, .int .i64 1] 54)) := (Below.refl _ _).alloc (Nat.le_refl _) _; have K2 := Lib.hid ((K1.out.below HL.out hb2).below HL.out hA); have F2 := Lib.hid ((F2.out.below hb2 F2.out.lt).below hA (Nat.lt_of_lt_of_le F2.out.lt hb2.size)); have G2 := Lib.hid (pt.f2_new w2 2 1 54); obtain ⟨_, f0, f1, _, _⟩ := F2.out; obtain ⟨_, g0, g1, g2, g3⟩ := G2.out; clear hb2 hA)
    | (go_at_call 23; (with_reducible refine (HD1.out _ K0.out.k).mono ?_); rintro e1 w1 ⟨rfl, hb1⟩; have hA : Below w1.heap.size w1 (w1.alloc (.cells #[.int .i64 0, .int .i64 0] 54)) := (Below.refl _ _).alloc (Nat.le_refl _) _; have K1 := Lib.hid ((K0.out.below HL.out hb1).below HL.out hA); have F2 := Lib.hid (pt.f2_new w1 0 0 54); obtain ⟨_, f0, f1, f2, f3⟩ := F2.out; clear hb1 hA))
  go_ret
  exact ⟨rfl, K4.out.b⟩
end Go.Proofs.YtiigknimfibdpaaGreatDoor.ch
namespace Go.Proofs.YtiigknimfibdpaaGreatDoor.ch
open Go.RowKit Go.Lib
set_option linter.unusedVariables false
theorem in07 {c : Int} (h0 : 0 ≤ c) (h7 : c ≤ 7) : inC c := ⟨h0, by omega⟩
theorem dc_ok {c : Int} {s : ByteArray} (hc : inC c) (h : (dz c s).2 = none) : dcT c s = pt.txt (dz c s).1 ∧ dcE c s = 0 ∧ dcA c s = 0 := by
  unfold dcT dcE dcA
  rw [if_pos ⟨hc, h⟩, if_pos hc, if_pos hc, if_pos h, h]
  exact ⟨rfl, rfl, rfl⟩
theorem dc_bad {c : Int} {s : ByteArray} {p : Nat} (hc : inC c) (h : (dz c s).2 = some p) : dcT c s = ⟨#[]⟩ ∧ dcE c s = 2 ∧ dcA c s = (p : Int) := by
  unfold dcT dcE dcA
  rw [if_neg (by rw [h]; simp), if_pos hc, if_pos hc, if_neg (by rw [h]; simp), h]
  exact ⟨rfl, rfl, rfl⟩
theorem index_bt (s : ByteArray) (i : Nat) (hi : i < s.size) (w : World) : (Instr.index 9 (.string s) (.int .i64 (i : Int))).run Tryz.prog w = .ok (.int .u8 ((bt s i : Nat) : Int)) w := by
  rw [run_index_string w 9 s .i64 i Tryz.underlying9, ← bt_get s i hi]
  simp [hi]
end Go.Proofs.YtiigknimfibdpaaGreatDoor.ch
