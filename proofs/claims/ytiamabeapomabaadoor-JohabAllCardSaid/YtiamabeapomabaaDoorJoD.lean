/- The walk of JohabParts. -/
import Derived.Test.YtiamabeapomabaaDoorJoC
namespace Go.Proofs.YtiamabeapomabaaDoor.jo
open Go.RowKit Go.Lib
set_option linter.unusedVariables false
set_option maxRecDepth 100000 in
set_option maxHeartbeats 4000000 in
theorem parts_no (i m f : Int) (w : World) (h : ¬ has3 i m f) (hK : KD w) : Calls Tryd.prog 5 #[.int .i64 i, .int .i64 m, .int .i64 f] w fun e w' => e = .returned (.bool true) ∧ Below w.heap.size w w' := by
  have HS := Lib.hid (syllable_no i m f w h)
  have HA := Lib.hid awake_any
  have HK := Lib.hid hK
  unfold has3 at h
  have hh : i < 0 ∨ (0 ≤ i ∧ 19 ≤ i) ∨ ((0 ≤ i ∧ i < 19) ∧ m < 0) ∨ ((0 ≤ i ∧ i < 19) ∧ (0 ≤ m ∧ 21 ≤ m)) ∨ ((0 ≤ i ∧ i < 19) ∧ (0 ≤ m ∧ m < 21) ∧ f < 0) ∨ ((0 ≤ i ∧ i < 19) ∧ (0 ≤ m ∧ m < 21) ∧ (0 ≤ f ∧ 28 ≤ f)) := by omega
  clear h hK
  rcases hh with h | ⟨h0, h1⟩ | ⟨⟨h0, h1⟩, h2⟩ | ⟨⟨h0, h1⟩, h2, h3⟩ | ⟨⟨h0, h1⟩, ⟨h2, h3⟩, h4⟩ | ⟨⟨h0, h1⟩, ⟨h2, h3⟩, h4, h5⟩
  all_goals
    try have d1 : decide (f < 28) = false := decide_eq_false (by omega)
    try have d2 : decide (m < 21) = false := decide_eq_false (by omega)
    try have d3 : decide (i < 19) = false := decide_eq_false (by omega)
    try have d4 : decide (0 ≤ f) = false := decide_eq_false (by omega)
    try have d5 : decide (0 ≤ m) = false := decide_eq_false (by omega)
    try have d6 : decide (0 ≤ i) = false := decide_eq_false (by omega)
    go_enter Tryd.func5, Tryd.ntmps5
    go_wp2_with (first | (go_at_call 12; refine (HS.out).mono ?_; rintro e2 w2 ⟨rfl, rfl⟩) | (go_at_call 9; refine (HA.out _ HK.out).mono ?_; rintro e5 w5 ⟨rfl, hb5⟩))
    go_ret
    exact ⟨rfl, hb5⟩
theorem code_syl (n : Nat) (h : n < 11172) : 132 * 256 ≤ code (44032 + n) ∧ code (44032 + n) < 212 * 256 := by
  unfold code
  rw [if_pos (by omega), Nat.add_sub_cancel_left]
  have h1 := medC_le (n / 28 % 21) (by omega)
  have h2 := finC_le (n % 28) (by omega)
  omega
theorem two_hi (c : Nat) (h : c < 65536) : (((two c)[0]'(by rw [two_size]; omega)).toNat : Int) = ((c / 256 : Nat) : Int) := by
  show ((UInt8.ofNat (c / 256 % 256)).toNat : Int) = _
  simp; omega
theorem two_lo (c : Nat) (h : c < 65536) : (((two c)[1]'(by rw [two_size]; omega)).toNat : Int) = ((c % 256 : Nat) : Int) := by
  show ((UInt8.ofNat (c % 256)).toNat : Int) = _
  simp
set_option maxRecDepth 100000 in
set_option maxHeartbeats 4000000 in
theorem parts_yes (i m f : Int) (w : World) (h : has3 i m f) (hK : KD w) : Calls Tryd.prog 5 #[.int .i64 i, .int .i64 m, .int .i64 f] w fun e w' => e = .returned (.bool true) ∧ Below w.heap.size w w' := by
  have HS := Lib.hid (syllable_yes i m f w h)
  obtain ⟨⟨i0, i1⟩, ⟨m0, m1⟩, f0, f1⟩ := h
  obtain ⟨n, hn⟩ : ∃ n : Nat, (n : Int) = (i * 21 + m) * 28 + f := ⟨((i * 21 + m) * 28 + f).toNat, by omega⟩
  have hn2 : n < 11172 := by omega
  have hj : hasJ (44032 + n) := by unfold hasJ; omega
  have hc := code_syl n hn2
  have hcl := (code_le hj).2
  have HB := Lib.hid (fun w2 h => bytes_yes (44032 + n) w2 h hj)
  rw [show ((44032 + n : Nat) : Int) = 44032 + (i * 21 + m) * 28 + f by omega] at HB
  have t0 := two_hi (code (44032 + n)) hcl
  have sz := two_size (code (44032 + n))
  obtain ⟨T, hT⟩ : ∃ T, T = two (code (44032 + n)) := ⟨_, rfl⟩
  simp only [← hT] at HB t0 sz
  obtain ⟨L, hL⟩ : ∃ L : Int, L = ((code (44032 + n) / 256 : Nat) : Int) := ⟨_, rfl⟩
  rw [← hL] at t0
  have l0 : 132 ≤ L := by omega
  have l1 : L ≤ 211 := by omega
  have HA := Lib.hid awake_any
  have HK := Lib.hid hK
  have ix : ∀ wx, (Instr.index 9 (.string T) (.int .i64 0)).run Tryd.prog wx = .ok (.int .u8 L) wx := fun wx => by
    have := index_at 9 T 0 (by rw [sz]; omega) wx Tryd.underlying9
    rw [t0] at this; exact this
  have g0 : 44032 ≤ 44032 + (i * 21 + m) * 28 + f := by omega
  have g1 : 44032 + (i * 21 + m) * 28 + f ≤ 55203 := by omega
  have hw : IntKind.i64.wrap (44032 + (i * 21 + m) * 28 + f) = 44032 + (i * 21 + m) * 28 + f := wrap64 (by omega) (by omega)
  clear t0 hT hL hc hcl hj hn2 hn hK
  go_enter Tryd.func5, Tryd.ntmps5
  go_wp2_with (first | (go_at_call 12; refine (HS.out).mono ?_; rintro e2 w2 ⟨rfl, rfl⟩) | (go_at_call 10; refine (HB.out _ HK.out).mono ?_; rintro e4 w4 ⟨rfl, hb4⟩; have HB4 := Lib.hid hb4; have K4 := Lib.hid (HK.out.stay hb4); clear hb4) | (go_at_call 9; refine (HA.out _ K4.out).mono ?_; rintro e5 w5 ⟨rfl, hb5⟩; have HB5 := Lib.hid (HB4.out.trans (hb5.mono HB4.out.size)); clear hb5))
  go_ret
  exact ⟨rfl, HB5.out⟩
theorem parts_walk (i m f : Int) (w : World) (hK : KD w) : Calls Tryd.prog 5 #[.int .i64 i, .int .i64 m, .int .i64 f] w fun e w' => e = .returned (.bool true) ∧ Below w.heap.size w w' := by
  by_cases h : has3 i m f
  · exact parts_yes i m f w h hK
  · exact parts_no i m f w h hK
end Go.Proofs.YtiamabeapomabaaDoor.jo
