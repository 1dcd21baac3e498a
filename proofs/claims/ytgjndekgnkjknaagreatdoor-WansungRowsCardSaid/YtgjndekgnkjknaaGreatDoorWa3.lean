/- The document's own answers of layer 7: Row: a contract. -/
import Derived.Test.YtgjndekgnkjknaaGreatDoorWa2
import Derived.Test.YtgjndekgnkjknaaGreatDoorSg1
namespace Go.Proofs.YtgjndekgnkjknaaGreatDoor.wa
open Go.RowKit Go.Lib
set_option linter.unusedVariables false
def SpC (b f l : Int) (p S : Int) : Prop := ∀ w2, Calls Tryz.prog 15 #[.int .i64 b, .int .i64 f, .int .i64 l, .int .i32 p] w2 fun e w' => e = .returned (.int .i32 S) ∧ w2 = w'
theorem spn_le (b f l p : Nat) (hb : b < 256) : spn b f l p ≤ p + 256 := by unfold spn; split <;> omega
theorem spC {b : Nat} (f l p : Nat) (hb : b < 256) (hf : f < 256) (hp : p < 65536) : ∃ S : Int, S = ((spn b f l p : Nat) : Int) ∧ 0 ≤ S ∧ S ≤ 70000 ∧ SpC b f l p S :=
  ⟨_, rfl, by omega, by have := spn_le b f l p hb; omega, fun w2 => span_any b f l p w2 hb hf hp⟩
def RowPost (w : World) (l b : Nat) : Ending → World → Prop := fun e w' => e = .returned (.int .i32 ((row l b : Nat) : Int)) ∧ Below w.heap.size w w'
theorem rowPost {w w' : World} {l b : Nat} {v : Int} (h : ((row l b : Nat) : Int) = v) (hb : Below w.heap.size w w') : RowPost w l b (.returned (.int .i32 v)) w' := ⟨by rw [h], hb⟩
set_option maxRecDepth 100000 in
set_option maxHeartbeats 4000000 in
theorem row_161 (b : Nat) (w : World) (h0 : 161 ≤ b) (h1 : b ≤ 254) : Calls Tryz.prog 5 #[.int .i64 161, .int .i64 b] w (RowPost w 161 b) := by
  have hn : b - 161 < 94 := by omega
  have hl : b - 161 < a1L.length := hn
  have HV : Hid (((row 161 b : Nat) : Int) = ((a1L.getD (b - 161) 0 : Nat) : Int)) := Lib.hid (by unfold row; rw [if_pos rfl])
  have HN := Lib.hid (fun s hs hz w2 => sg.nth_any a1L s hs hz (b - 161) hl w2)
  rw [show ((b - 161 : Nat) : Int) = (b : Int) - 161 by omega] at HN
  generalize ((a1L.getD (b - 161) 0 : Nat) : Int) = V at *
  have g0 : (161 : Int) ≤ (b : Int) := by omega
  have g1 : (b : Int) ≤ 254 := by omega
  clear hn hl
  generalize (b : Int) = B at *
  go_enter Tryz.func5, Tryz.ntmps5
  go_wp2_with (go_at_call 14; refine (HN.out _ (by decide +kernel) (by decide +kernel) _).mono ?_; rintro e2 w2 ⟨rfl, hb2⟩)
  go_ret
  exact rowPost HV.out hb2
set_option maxRecDepth 100000 in
set_option maxHeartbeats 4000000 in
theorem row_162 (b : Nat) (w : World) (h0 : 161 ≤ b) (h1 : b ≤ 254) : Calls Tryz.prog 5 #[.int .i64 162, .int .i64 b] w (RowPost w 162 b) := by
  by_cases hn : b - 161 < 71
  · have hl : b - 161 < a2L.length := hn
    have HV : Hid (((row 162 b : Nat) : Int) = ((a2L.getD (b - 161) 0 : Nat) : Int)) := Lib.hid (by unfold row; rw [if_neg (by omega), if_pos rfl, if_pos hn])
    have HN := Lib.hid (fun s hs hz w2 => sg.nth_any a2L s hs hz (b - 161) hl w2)
    rw [show ((b - 161 : Nat) : Int) = (b : Int) - 161 by omega] at HN
    generalize ((a2L.getD (b - 161) 0 : Nat) : Int) = V at *
    have g0 : (161 : Int) ≤ (b : Int) := by omega
    have g1 : (b : Int) ≤ 254 := by omega
    have g2 : (b : Int) - 161 < 71 := by omega
    clear hn hl
    generalize (b : Int) = B at *
    go_enter Tryz.func5, Tryz.ntmps5
    go_wp2_with (go_at_call 14; refine (HN.out _ (by decide +kernel) (by decide +kernel) _).mono ?_; rintro e2 w2 ⟨rfl, hb2⟩)
    go_ret
    exact rowPost HV.out hb2
  · have HV : Hid (((row 162 b : Nat) : Int) = 0) := Lib.hid (by unfold row; rw [if_neg (by omega), if_pos rfl, if_neg hn]; rfl)
    have g2 : ¬ (b : Int) - 161 < 71 := by omega
    have g0 : (161 : Int) ≤ (b : Int) := by omega
    have g1 : (b : Int) ≤ 254 := by omega
    clear hn
    generalize (b : Int) = B at *
    go_enter Tryz.func5, Tryz.ntmps5
    go_wp2_with fail
    go_ret
    exact rowPost HV.out (Below.refl _ _)
set_option maxRecDepth 100000 in
set_option maxHeartbeats 4000000 in
theorem row_166 (b : Nat) (w : World) (h0 : 161 ≤ b) (h1 : b ≤ 254) : Calls Tryz.prog 5 #[.int .i64 166, .int .i64 b] w (RowPost w 166 b) := by
  by_cases hn : b - 161 < 68
  · have hl : b - 161 < a6L.length := hn
    have HV : Hid (((row 166 b : Nat) : Int) = ((a6L.getD (b - 161) 0 : Nat) : Int)) := Lib.hid (by unfold row; rw [if_neg (by omega), if_neg (by omega), if_neg (by omega), if_neg (by omega), if_neg (by omega), if_pos rfl, if_pos hn])
    have HN := Lib.hid (fun s hs hz w2 => sg.nth_any a6L s hs hz (b - 161) hl w2)
    rw [show ((b - 161 : Nat) : Int) = (b : Int) - 161 by omega] at HN
    generalize ((a6L.getD (b - 161) 0 : Nat) : Int) = V at *
    have g0 : (161 : Int) ≤ (b : Int) := by omega
    have g1 : (b : Int) ≤ 254 := by omega
    have g2 : (b : Int) - 161 < 68 := by omega
    clear hn hl
    generalize (b : Int) = B at *
    go_enter Tryz.func5, Tryz.ntmps5
    go_wp2_with (go_at_call 14; refine (HN.out _ (by decide +kernel) (by decide +kernel) _).mono ?_; rintro e2 w2 ⟨rfl, hb2⟩)
    go_ret
    exact rowPost HV.out hb2
  · have HV : Hid (((row 166 b : Nat) : Int) = 0) := Lib.hid (by unfold row; rw [if_neg (by omega), if_neg (by omega), if_neg (by omega), if_neg (by omega), if_neg (by omega), if_pos rfl, if_neg hn]; rfl)
    have g2 : ¬ (b : Int) - 161 < 68 := by omega
    have g0 : (161 : Int) ≤ (b : Int) := by omega
    have g1 : (b : Int) ≤ 254 := by omega
    clear hn
    generalize (b : Int) = B at *
    go_enter Tryz.func5, Tryz.ntmps5
    go_wp2_with fail
    go_ret
    exact rowPost HV.out (Below.refl _ _)
set_option maxRecDepth 100000 in
set_option maxHeartbeats 4000000 in
theorem row_163 (b : Nat) (w : World) (h0 : 161 ≤ b) (h1 : b ≤ 254) : Calls Tryz.prog 5 #[.int .i64 163, .int .i64 b] w (RowPost w 163 b) := by
  by_cases h2 : b = 220
  · subst h2
    go_enter Tryz.func5, Tryz.ntmps5
    go_wp2_with fail
    go_ret
    exact rowPost rfl (Below.refl _ _)
  by_cases h3 : b = 254
  · subst h3
    go_enter Tryz.func5, Tryz.ntmps5
    go_wp2_with fail
    go_ret
    exact rowPost rfl (Below.refl _ _)
  · have HV : Hid (((row 163 b : Nat) : Int) = 65281 + (b : Int) - 161) := Lib.hid (by unfold row; rw [if_neg (by omega), if_neg (by omega), if_pos rfl, if_neg h2, if_neg h3]; omega)
    have e1 : ((b : Int) == 220) = false := beq_eq_false_iff_ne.2 (by omega)
    have e2 : ((b : Int) == 254) = false := beq_eq_false_iff_ne.2 (by omega)
    have g0 : (161 : Int) ≤ (b : Int) := by omega
    have g1 : (b : Int) ≤ 254 := by omega
    clear h2 h3
    generalize (b : Int) = B at *
    have w1 : IntKind.i32.wrap (65281 + B - 161) = 65281 + B - 161 := wrap32 (by omega) (by omega)
    go_enter Tryz.func5, Tryz.ntmps5
    go_wp2_with fail
    go_ret
    exact rowPost HV.out (Below.refl _ _)
set_option maxRecDepth 100000 in
set_option maxHeartbeats 4000000 in
theorem row_164 (b : Nat) (w : World) (h0 : 161 ≤ b) (h1 : b ≤ 254) : Calls Tryz.prog 5 #[.int .i64 164, .int .i64 b] w (RowPost w 164 b) := by
  have HV : Hid (((row 164 b : Nat) : Int) = 12593 + (b : Int) - 161) := Lib.hid (by unfold row; rw [if_neg (by omega), if_neg (by omega), if_neg (by omega), if_pos rfl]; omega)
  have g0 : (161 : Int) ≤ (b : Int) := by omega
  have g1 : (b : Int) ≤ 254 := by omega
  generalize (b : Int) = B at *
  have w1 : IntKind.i32.wrap (12593 + B - 161) = 12593 + B - 161 := wrap32 (by omega) (by omega)
  go_enter Tryz.func5, Tryz.ntmps5
  go_wp2_with fail
  go_ret
  exact rowPost HV.out (Below.refl _ _)
set_option maxRecDepth 100000 in
set_option maxHeartbeats 4000000 in
theorem row_165 (b : Nat) (w : World) (h0 : 161 ≤ b) (h1 : b ≤ 254) : Calls Tryz.prog 5 #[.int .i64 165, .int .i64 b] w (RowPost w 165 b) := by
  have hb : b < 256 := by omega
  obtain ⟨S0, q0, u0, v0, c0⟩ := spC (b := b) 161 170 8560 hb (by omega) (by omega)
  have H0 : Hid (∀ w2, Calls Tryz.prog 15 #[.int .i64 b, .int .i64 161, .int .i64 170, .int .i32 8560] w2 fun e w' => e = .returned (.int .i32 S0) ∧ w2 = w') := Lib.hid c0
  obtain ⟨S1, q1, u1, v1, c1⟩ := spC (b := b) 176 185 8544 hb (by omega) (by omega)
  have H1 : Hid (∀ w2, Calls Tryz.prog 15 #[.int .i64 b, .int .i64 176, .int .i64 185, .int .i32 8544] w2 fun e w' => e = .returned (.int .i32 S1) ∧ w2 = w') := Lib.hid c1
  obtain ⟨S2, q2, u2, v2, c2⟩ := spC (b := b) 193 209 913 hb (by omega) (by omega)
  have H2 : Hid (∀ w2, Calls Tryz.prog 15 #[.int .i64 b, .int .i64 193, .int .i64 209, .int .i32 913] w2 fun e w' => e = .returned (.int .i32 S2) ∧ w2 = w') := Lib.hid c2
  obtain ⟨S3, q3, u3, v3, c3⟩ := spC (b := b) 210 216 931 hb (by omega) (by omega)
  have H3 : Hid (∀ w2, Calls Tryz.prog 15 #[.int .i64 b, .int .i64 210, .int .i64 216, .int .i32 931] w2 fun e w' => e = .returned (.int .i32 S3) ∧ w2 = w') := Lib.hid c3
  obtain ⟨S4, q4, u4, v4, c4⟩ := spC (b := b) 225 241 945 hb (by omega) (by omega)
  have H4 : Hid (∀ w2, Calls Tryz.prog 15 #[.int .i64 b, .int .i64 225, .int .i64 241, .int .i32 945] w2 fun e w' => e = .returned (.int .i32 S4) ∧ w2 = w') := Lib.hid c4
  obtain ⟨S5, q5, u5, v5, c5⟩ := spC (b := b) 242 248 963 hb (by omega) (by omega)
  have H5 : Hid (∀ w2, Calls Tryz.prog 15 #[.int .i64 b, .int .i64 242, .int .i64 248, .int .i32 963] w2 fun e w' => e = .returned (.int .i32 S5) ∧ w2 = w') := Lib.hid c5
  have HV : Hid (((row 165 b : Nat) : Int) = S0 + S1 + S2 + S3 + S4 + S5) := Lib.hid (by unfold row; rw [if_neg (by omega), if_neg (by omega), if_neg (by omega), if_neg (by omega), if_pos rfl]; omega)
  have g0 : (161 : Int) ≤ (b : Int) := by omega
  have g1 : (b : Int) ≤ 254 := by omega
  clear q0 c0 q1 c1 q2 c2 q3 c3 q4 c4 q5 c5
  generalize (b : Int) = B at *
  go_enter Tryz.func5, Tryz.ntmps5
  go_wp2_with (first | (go_at_call 15; (with_reducible refine (H0.out _).mono ?_); rintro e2 w2 ⟨rfl, rfl⟩) | (go_at_call 15; (with_reducible refine (H1.out _).mono ?_); rintro e2 w2 ⟨rfl, rfl⟩) | (go_at_call 15; (with_reducible refine (H2.out _).mono ?_); rintro e2 w2 ⟨rfl, rfl⟩) | (go_at_call 15; (with_reducible refine (H3.out _).mono ?_); rintro e2 w2 ⟨rfl, rfl⟩) | (go_at_call 15; (with_reducible refine (H4.out _).mono ?_); rintro e2 w2 ⟨rfl, rfl⟩) | (go_at_call 15; (with_reducible refine (H5.out _).mono ?_); rintro e2 w2 ⟨rfl, rfl⟩))
  go_ret
  exact rowPost HV.out (Below.refl _ _)
set_option maxRecDepth 100000 in
set_option maxHeartbeats 4000000 in
theorem row_170 (b : Nat) (w : World) (h0 : 161 ≤ b) (h1 : b ≤ 254) : Calls Tryz.prog 5 #[.int .i64 170, .int .i64 b] w (RowPost w 170 b) := by
  have hb : b < 256 := by omega
  obtain ⟨S0, q0, u0, v0, c0⟩ := spC (b := b) 161 243 12353 hb (by omega) (by omega)
  have H0 : Hid (∀ w2, Calls Tryz.prog 15 #[.int .i64 b, .int .i64 161, .int .i64 243, .int .i32 12353] w2 fun e w' => e = .returned (.int .i32 S0) ∧ w2 = w') := Lib.hid c0
  have HV : Hid (((row 170 b : Nat) : Int) = S0) := Lib.hid (by unfold row; rw [if_neg (by omega), if_neg (by omega), if_neg (by omega), if_neg (by omega), if_neg (by omega), if_neg (by omega), if_pos rfl]; omega)
  have g0 : (161 : Int) ≤ (b : Int) := by omega
  have g1 : (b : Int) ≤ 254 := by omega
  clear q0 c0
  generalize (b : Int) = B at *
  go_enter Tryz.func5, Tryz.ntmps5
  go_wp2_with (first | (go_at_call 15; (with_reducible refine (H0.out _).mono ?_); rintro e2 w2 ⟨rfl, rfl⟩))
  go_ret
  exact rowPost HV.out (Below.refl _ _)
set_option maxRecDepth 100000 in
set_option maxHeartbeats 4000000 in
theorem row_171 (b : Nat) (w : World) (h0 : 161 ≤ b) (h1 : b ≤ 254) : Calls Tryz.prog 5 #[.int .i64 171, .int .i64 b] w (RowPost w 171 b) := by
  have hb : b < 256 := by omega
  obtain ⟨S0, q0, u0, v0, c0⟩ := spC (b := b) 161 246 12449 hb (by omega) (by omega)
  have H0 : Hid (∀ w2, Calls Tryz.prog 15 #[.int .i64 b, .int .i64 161, .int .i64 246, .int .i32 12449] w2 fun e w' => e = .returned (.int .i32 S0) ∧ w2 = w') := Lib.hid c0
  have HV : Hid (((row 171 b : Nat) : Int) = S0) := Lib.hid (by unfold row; rw [if_neg (by omega), if_neg (by omega), if_neg (by omega), if_neg (by omega), if_neg (by omega), if_neg (by omega), if_neg (by omega), if_pos rfl]; omega)
  have g0 : (161 : Int) ≤ (b : Int) := by omega
  have g1 : (b : Int) ≤ 254 := by omega
  clear q0 c0
  generalize (b : Int) = B at *
  go_enter Tryz.func5, Tryz.ntmps5
  go_wp2_with (first | (go_at_call 15; (with_reducible refine (H0.out _).mono ?_); rintro e2 w2 ⟨rfl, rfl⟩))
  go_ret
  exact rowPost HV.out (Below.refl _ _)
set_option maxRecDepth 100000 in
set_option maxHeartbeats 4000000 in
theorem row_172 (b : Nat) (w : World) (h0 : 161 ≤ b) (h1 : b ≤ 254) : Calls Tryz.prog 5 #[.int .i64 172, .int .i64 b] w (RowPost w 172 b) := by
  have hb : b < 256 := by omega
  obtain ⟨S0, q0, u0, v0, c0⟩ := spC (b := b) 161 166 1040 hb (by omega) (by omega)
  have H0 : Hid (∀ w2, Calls Tryz.prog 15 #[.int .i64 b, .int .i64 161, .int .i64 166, .int .i32 1040] w2 fun e w' => e = .returned (.int .i32 S0) ∧ w2 = w') := Lib.hid c0
  obtain ⟨S1, q1, u1, v1, c1⟩ := spC (b := b) 167 167 1025 hb (by omega) (by omega)
  have H1 : Hid (∀ w2, Calls Tryz.prog 15 #[.int .i64 b, .int .i64 167, .int .i64 167, .int .i32 1025] w2 fun e w' => e = .returned (.int .i32 S1) ∧ w2 = w') := Lib.hid c1
  obtain ⟨S2, q2, u2, v2, c2⟩ := spC (b := b) 168 193 1046 hb (by omega) (by omega)
  have H2 : Hid (∀ w2, Calls Tryz.prog 15 #[.int .i64 b, .int .i64 168, .int .i64 193, .int .i32 1046] w2 fun e w' => e = .returned (.int .i32 S2) ∧ w2 = w') := Lib.hid c2
  obtain ⟨S3, q3, u3, v3, c3⟩ := spC (b := b) 209 214 1072 hb (by omega) (by omega)
  have H3 : Hid (∀ w2, Calls Tryz.prog 15 #[.int .i64 b, .int .i64 209, .int .i64 214, .int .i32 1072] w2 fun e w' => e = .returned (.int .i32 S3) ∧ w2 = w') := Lib.hid c3
  obtain ⟨S4, q4, u4, v4, c4⟩ := spC (b := b) 215 215 1105 hb (by omega) (by omega)
  have H4 : Hid (∀ w2, Calls Tryz.prog 15 #[.int .i64 b, .int .i64 215, .int .i64 215, .int .i32 1105] w2 fun e w' => e = .returned (.int .i32 S4) ∧ w2 = w') := Lib.hid c4
  obtain ⟨S5, q5, u5, v5, c5⟩ := spC (b := b) 216 241 1078 hb (by omega) (by omega)
  have H5 : Hid (∀ w2, Calls Tryz.prog 15 #[.int .i64 b, .int .i64 216, .int .i64 241, .int .i32 1078] w2 fun e w' => e = .returned (.int .i32 S5) ∧ w2 = w') := Lib.hid c5
  have HV : Hid (((row 172 b : Nat) : Int) = S0 + S1 + S2 + S3 + S4 + S5) := Lib.hid (by unfold row; rw [if_neg (by omega), if_neg (by omega), if_neg (by omega), if_neg (by omega), if_neg (by omega), if_neg (by omega), if_neg (by omega), if_neg (by omega), if_pos rfl]; omega)
  have g0 : (161 : Int) ≤ (b : Int) := by omega
  have g1 : (b : Int) ≤ 254 := by omega
  clear q0 c0 q1 c1 q2 c2 q3 c3 q4 c4 q5 c5
  generalize (b : Int) = B at *
  go_enter Tryz.func5, Tryz.ntmps5
  go_wp2_with (first | (go_at_call 15; (with_reducible refine (H0.out _).mono ?_); rintro e2 w2 ⟨rfl, rfl⟩) | (go_at_call 15; (with_reducible refine (H1.out _).mono ?_); rintro e2 w2 ⟨rfl, rfl⟩) | (go_at_call 15; (with_reducible refine (H2.out _).mono ?_); rintro e2 w2 ⟨rfl, rfl⟩) | (go_at_call 15; (with_reducible refine (H3.out _).mono ?_); rintro e2 w2 ⟨rfl, rfl⟩) | (go_at_call 15; (with_reducible refine (H4.out _).mono ?_); rintro e2 w2 ⟨rfl, rfl⟩) | (go_at_call 15; (with_reducible refine (H5.out _).mono ?_); rintro e2 w2 ⟨rfl, rfl⟩))
  go_ret
  exact rowPost HV.out (Below.refl _ _)
set_option maxRecDepth 100000 in
set_option maxHeartbeats 4000000 in
theorem row_else (l b : Nat) (w : World) (h : l ≠ 161 ∧ l ≠ 162 ∧ l ≠ 163 ∧ l ≠ 164 ∧ l ≠ 165 ∧ l ≠ 166 ∧ l ≠ 170 ∧ l ≠ 171 ∧ l ≠ 172) : Calls Tryz.prog 5 #[.int .i64 l, .int .i64 b] w (RowPost w l b) := by
  obtain ⟨h1, h2, h3, h4, h5, h6, h7, h8, h9⟩ := h
  have HV : Hid (((row l b : Nat) : Int) = 0) := Lib.hid (by unfold row; rw [if_neg h1, if_neg h2, if_neg h3, if_neg h4, if_neg h5, if_neg h6, if_neg h7, if_neg h8, if_neg h9]; rfl)
  have e0 : ((l : Int) == 161) = false := beq_eq_false_iff_ne.2 (by omega)
  have e1 : ((l : Int) == 162) = false := beq_eq_false_iff_ne.2 (by omega)
  have e2 : ((l : Int) == 163) = false := beq_eq_false_iff_ne.2 (by omega)
  have e3 : ((l : Int) == 164) = false := beq_eq_false_iff_ne.2 (by omega)
  have e4 : ((l : Int) == 165) = false := beq_eq_false_iff_ne.2 (by omega)
  have e5 : ((l : Int) == 166) = false := beq_eq_false_iff_ne.2 (by omega)
  have e6 : ((l : Int) == 170) = false := beq_eq_false_iff_ne.2 (by omega)
  have e7 : ((l : Int) == 171) = false := beq_eq_false_iff_ne.2 (by omega)
  have e8 : ((l : Int) == 172) = false := beq_eq_false_iff_ne.2 (by omega)
  clear h1 h2 h3 h4 h5 h6 h7 h8 h9
  generalize (l : Int) = L at *
  go_enter Tryz.func5, Tryz.ntmps5
  go_wp2_with fail
  go_ret
  exact rowPost HV.out (Below.refl _ _)
theorem row_any (l b : Nat) (w : World) (h0 : 161 ≤ b) (h1 : b ≤ 254) : Calls Tryz.prog 5 #[.int .i64 l, .int .i64 b] w fun e w' => e = .returned (.int .i32 ((row l b : Nat) : Int)) ∧ Below w.heap.size w w' := by
  by_cases h : l ≠ 161 ∧ l ≠ 162 ∧ l ≠ 163 ∧ l ≠ 164 ∧ l ≠ 165 ∧ l ≠ 166 ∧ l ≠ 170 ∧ l ≠ 171 ∧ l ≠ 172
  · exact row_else l b w h
  · have hh : l = 161 ∨ l = 162 ∨ l = 163 ∨ l = 164 ∨ l = 165 ∨ l = 166 ∨ l = 170 ∨ l = 171 ∨ l = 172 := by omega
    rcases hh with rfl | rfl | rfl | rfl | rfl | rfl | rfl | rfl | rfl
    · exact row_161 b w h0 h1
    · exact row_162 b w h0 h1
    · exact row_163 b w h0 h1
    · exact row_164 b w h0 h1
    · exact row_165 b w h0 h1
    · exact row_166 b w h0 h1
    · exact row_170 b w h0 h1
    · exact row_171 b w h0 h1
    · exact row_172 b w h0 h1
end Go.Proofs.YtgjndekgnkjknaaGreatDoor.wa
