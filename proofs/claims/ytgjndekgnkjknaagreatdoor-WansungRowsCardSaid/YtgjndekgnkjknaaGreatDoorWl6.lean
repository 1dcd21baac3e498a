/- The landed wansung: Bytes of syllables, Sign in the rows of syllables; what the walks of Ranks and Places ask. -/
import Derived.Test.YtgjndekgnkjknaaGreatDoorWl5
namespace Go.Proofs.YtgjndekgnkjknaaGreatDoor.wa
open Go.RowKit Go.Lib
set_option linter.unusedVariables false
theorem big_two (c : Nat) (w : World) (h : c < 65536) : Calls Tryz.prog 53 #[.int .u64 (c : Int), .int .i64 2] w fun e w' => e = .returned (.string (two c)) ∧ Below w.heap.size w w' := by
  have h2 := oct.big_any c 2 2 w (by omega) (by omega) rfl (by omega)
  have e : (⟨(oct.bigL 256 2 c).toArray⟩ : ByteArray) = two c := by
    unfold two
    simp [oct.bigL]
  rw [e] at h2
  exact h2
/-- The code of a syllable. -/
theorem codeOf_syl (n : Nat) (w : World) (hT : pt.Tabs w) (hn : n < 11172) : Calls Tryz.prog 52 #[.int .i32 (44032 + (n : Int))] w fun e w' => e = .returned (.tuple #[.int .i64 ((byS n : Nat) : Int), .bool true]) ∧ Below w.heap.size w w' := by
  have HR := Lib.hid (rank_syl n w hT hn)
  unfold byS
  cases hb : inB n with
  | true =>
    rw [hb] at HR
    have hl := rk_lt hn hb
    have e : tot true = 2350 := rfl
    rw [if_pos rfl]
    have HC : Hid (∀ w2, Calls Tryz.prog 71 #[.int .i64 (1410 + ((rk true n : Nat) : Int))] w2 fun e w' => e = .returned (.int .i64 (((rk true n / 94 + 176) * 256 + (rk true n % 94 + 161) : Nat) : Int)) ∧ w2 = w') := Lib.hid (fun w2 => by
      have := codePl_any (1410 + rk true n) w2 (by omega)
      rw [show ((1410 + rk true n : Nat) : Int) = 1410 + ((rk true n : Nat) : Int) by omega, show (161 + (1410 + rk true n) / 94) * 256 + (161 + (1410 + rk true n) % 94) = (rk true n / 94 + 176) * 256 + (rk true n % 94 + 161) by omega] at this
      exact this)
    have g0 : 0 ≤ ((rk true n : Nat) : Int) := by omega
    have g1 : ((rk true n : Nat) : Int) < 2350 := by omega
    generalize (((rk true n / 94 + 176) * 256 + (rk true n % 94 + 161) : Nat) : Int) = C at *
    generalize ((rk true n : Nat) : Int) = R at *
    generalize 44032 + (n : Int) = p at *
    clear hT hb hl e
    go_enter Tryz.func52, Tryz.ntmps52
    go_wp2_with (first | (go_at_call 69; refine (HR.out).mono ?_; rintro e1 w1 ⟨rfl, hb1⟩; have B1 := Lib.hid hb1; clear hb1) | (go_at_call 71; refine (HC.out _).mono ?_; rintro e2 w2 ⟨rfl, rfl⟩))
    go_ret2
    exact ⟨rfl, B1.out⟩
  | false =>
    rw [hb] at HR
    have hl := rk_lt hn hb
    have e : tot false = 8822 := rfl
    rw [if_neg (by simp)]
    have HC : Hid (∀ w2, Calls Tryz.prog 72 #[.int .i64 ((rk false n : Nat) : Int)] w2 fun e w' => e = .returned (.int .i64 (((if rk false n < 5696 then (rk false n / 178 + 129) * 256 + secB (rk false n % 178) else ((rk false n - 5696) / 84 + 161) * 256 + secB ((rk false n - 5696) % 84)) : Nat) : Int)) ∧ w2 = w') := Lib.hid (fun w2 => by
      by_cases h : rk false n < 5696
      · rw [if_pos h]; exact codeEx_lo _ w2 h
      · rw [if_neg h]; exact codeEx_hi _ w2 (by omega) (by omega))
    generalize (((if rk false n < 5696 then (rk false n / 178 + 129) * 256 + secB (rk false n % 178) else ((rk false n - 5696) / 84 + 161) * 256 + secB ((rk false n - 5696) % 84)) : Nat) : Int) = C at *
    generalize ((rk false n : Nat) : Int) = R at *
    generalize 44032 + (n : Int) = p at *
    clear hT hb hl e
    go_enter Tryz.func52, Tryz.ntmps52
    go_wp2_with (first | (go_at_call 69; refine (HR.out).mono ?_; rintro e1 w1 ⟨rfl, hb1⟩; have B1 := Lib.hid hb1; clear hb1) | (go_at_call 72; refine (HC.out _).mono ?_; rintro e2 w2 ⟨rfl, rfl⟩))
    go_ret2
    exact ⟨rfl, B1.out⟩
theorem bytesL_syl (n : Nat) (w : World) (hT : pt.Tabs w) (hn : n < 11172) : Calls Tryz.prog 27 #[.int .i32 (44032 + (n : Int))] w fun e w' => e = .returned (.tuple #[.string (two (byS n)), .bool true]) ∧ Below w.heap.size w w' := by
  have HC := Lib.hid (codeOf_syl n w hT hn)
  have hs := (sg_byS hn).1
  have HB := Lib.hid (fun w2 => big_two (byS n) w2 hs)
  have g0 : 0 ≤ ((byS n : Nat) : Int) := by omega
  have g1 : ((byS n : Nat) : Int) < 65536 := by omega
  have e1 : IntKind.u64.wrap ((byS n : Nat) : Int) = ((byS n : Nat) : Int) := by simp [IntKind.wrap, IntKind.bits, IntKind.signed]; omega
  generalize two (byS n) = T at *
  generalize ((byS n : Nat) : Int) = C at *
  generalize 44032 + (n : Int) = p at *
  clear hs hT
  go_enter Tryz.func27, Tryz.ntmps27
  go_wp2_with (first | (go_at_call 52; refine (HC.out).mono ?_; rintro e1 w1 ⟨rfl, hb1⟩; have B1 := Lib.hid hb1; clear hb1) | (go_at_call 53; refine (HB.out _).mono ?_; rintro e2 w2 ⟨rfl, hb2⟩; have B2 := Lib.hid (B1.out.trans (hb2.mono B1.out.size)); clear hb2))
  go_ret2
  exact ⟨rfl, B2.out⟩
theorem inRows_yes (l b : Nat) (w : World) (l0 : 161 ≤ l) (l1 : l ≤ 254) (b0 : 161 ≤ b) (b1 : b ≤ 254) : Calls Tryz.prog 47 #[.int .u8 l, .int .u8 b] w fun e w' => e = .returned (.bool true) ∧ w = w' := by
  have g0 : (161 : Int) ≤ (l : Int) := by omega
  have g1 : (l : Int) ≤ 254 := by omega
  have g2 : (161 : Int) ≤ (b : Int) := by omega
  have g3 : (b : Int) ≤ 254 := by omega
  clear l0 l1 b0 b1
  go_enter Tryz.func47, Tryz.ntmps47
  go_wp2
  go_ret
  exact ⟨rfl, rfl⟩
theorem placeOf_any (l b : Nat) (w : World) (l0 : 161 ≤ l) (l1 : l ≤ 254) (b0 : 161 ≤ b) (b1 : b ≤ 254) : Calls Tryz.prog 50 #[.int .u8 l, .int .u8 b] w fun e w' => e = .returned (.int .i64 (((l : Int) - 161) * 94 + ((b : Int) - 161))) ∧ w = w' := by
  have g0 : (161 : Int) ≤ (l : Int) := by omega
  have g1 : (l : Int) ≤ 254 := by omega
  have g2 : (161 : Int) ≤ (b : Int) := by omega
  have g3 : (b : Int) ≤ 254 := by omega
  have e1 : IntKind.u8.wrap ((l : Int) - 161) = (l : Int) - 161 := wrapU8 (by omega) (by omega)
  have e2 : IntKind.u8.wrap ((b : Int) - 161) = (b : Int) - 161 := wrapU8 (by omega) (by omega)
  have e3 : IntKind.i64.wrap ((l : Int) - 161) = (l : Int) - 161 := wrap64 (by omega) (by omega)
  have e4 : IntKind.i64.wrap ((b : Int) - 161) = (b : Int) - 161 := wrap64 (by omega) (by omega)
  have e5 : IntKind.i64.wrap (((l : Int) - 161) * 94) = ((l : Int) - 161) * 94 := wrap64 (by omega) (by omega)
  have e6 : IntKind.i64.wrap (((l : Int) - 161) * 94 + ((b : Int) - 161)) = ((l : Int) - 161) * 94 + ((b : Int) - 161) := wrap64 (by omega) (by omega)
  clear l0 l1 b0 b1
  go_enter Tryz.func50, Tryz.ntmps50
  go_wp2
  go_ret
  exact ⟨rfl, rfl⟩
/-- The sign of two bytes in the rows of syllables. -/
theorem signL_syl (l b : Nat) (w : World) (hT : pt.Tabs w) (l0 : 176 ≤ l) (l1 : l ≤ 200) (b0 : 161 ≤ b) (b1 : b ≤ 254) : Calls Tryz.prog 26 #[.int .u8 l, .int .u8 b] w fun e w' => e = .returned (.tuple #[.int .i32 ((kth ((l - 176) * 94 + (b - 161)) true : Nat) : Int), .bool true]) ∧ Below w.heap.size w w' := by
  obtain ⟨k, hk⟩ : ∃ k, k = (l - 176) * 94 + (b - 161) := ⟨_, rfl⟩
  have hk2 : k < 2350 := by omega
  rw [← hk]
  have hp := plI_some (b := true) (k := k) hk2
  have HP : Hid (∀ w2, pt.Tabs w2 → Calls Tryz.prog 49 #[.int .i64 (((l : Int) - 161) * 94 + ((b : Int) - 161) - 1410)] w2 fun e w' => e = .returned (.tuple #[.int .i32 ((kth k true : Nat) : Int), .bool true]) ∧ Below w2.heap.size w2 w') := Lib.hid (fun w2 h2 => by
    have := place_any (k : Int) w2 h2 (by omega) (by omega)
    unfold plV at this
    rw [hp.1] at this
    have hz : (((kth k true : Nat) : Int) != 0) = true := by rw [bne, beq_eq_false_iff_ne.2 hp.2]; rfl
    rw [hz, show (k : Int) = ((l : Int) - 161) * 94 + ((b : Int) - 161) - 1410 by omega] at this
    exact this)
  have HI := Lib.hid (fun w2 => inRows_yes l b w2 (by omega) (by omega) b0 b1)
  have HO := Lib.hid (fun w2 => placeOf_any l b w2 (by omega) (by omega) b0 b1)
  have HT := Lib.hid hT
  generalize ((kth k true : Nat) : Int) = M at *
  obtain ⟨z, hz⟩ : ∃ z : Int, z = ((l : Int) - 161) * 94 + ((b : Int) - 161) := ⟨_, rfl⟩
  have z0 : 1410 ≤ z := by omega
  have z1 : z < 3760 := by omega
  have ez : IntKind.i64.wrap (z - 1410) = z - 1410 := wrap64 (by omega) (by omega)
  rw [← hz] at HP HO
  clear hT hp hz hk hk2 l0 l1 b0 b1
  go_enter Tryz.func26, Tryz.ntmps26
  go_wp2_with (first | (go_at_call 47; refine (HI.out _).mono ?_; rintro e1 w1 ⟨rfl, rfl⟩) | (go_at_call 50; refine (HO.out _).mono ?_; rintro e2 w2 ⟨rfl, rfl⟩) | (go_at_call 49; refine (HP.out _ HT.out).mono ?_; rintro e3 w3 ⟨rfl, hb3⟩; have B3 := Lib.hid hb3; clear hb3))
  go_ret2
  exact ⟨rfl, B3.out⟩
theorem kth_one : kth 1 true = 44033 := by
  have h2 := awake_sign
  have h3 := sg_in (k := 1) (by omega)
  rw [← h3]; exact h2
theorem byS_last : byS 11171 = 50770 := by
  have h2 := awake_bytes
  unfold byW at h2
  rw [if_pos (by omega)] at h2
  injection h2
theorem aw_land : Aw pt.Tabs where
  stay w w' h hb := h.below hb
  awS w h := by
    have h1 := signL_syl 176 162 w h (by omega) (by omega) (by omega) (by omega)
    have e : (176 - 176) * 94 + (162 - 161) = 1 := rfl
    rw [e, kth_one] at h1
    exact h1
  awB w h := by
    have h1 := bytesL_syl 11171 w h (by omega)
    rw [byS_last, show two 50770 = ⟨#[198, 82]⟩ by decide +kernel] at h1
    exact h1
theorem pl_land : Pl pt.Tabs where
  toAw := aw_land
  place k w h h0 h1 := place_any k w h h0 h1
  extra k w h h0 h1 := extra_any k w h h0 h1
  rank p w h h0 h1 := rankL_any p w h h0 h1
end Go.Proofs.YtgjndekgnkjknaaGreatDoor.wa
