/- The document's example; the walks of JohabSigns and JohabParts. -/
import Derived.Test.YtiamabeapomabaaDoorJoB
namespace Go.Proofs.YtiamabeapomabaaDoor.jo
open Go.RowKit Go.Lib
set_option linter.unusedVariables false
set_option maxRecDepth 100000 in
set_option maxHeartbeats 1000000 in
theorem Awake_any (w : World) (hK : KD w) : Calls Tryd.prog 19 #[] w fun e w' => e = .returned (.bool true) ∧ Below w.heap.size w w' := by
  have HS : Hid (∀ w2, KD w2 → Calls Tryd.prog 7 #[.int .u8 136, .int .u8 97] w2 fun e w' => e = .returned (.tuple #[.int .i32 44032, .bool true]) ∧ Below w2.heap.size w2 w') := Lib.hid (fun w2 h => by
    have := sign_any 136 97 w2 (by omega) (by omega) h
    rw [show sV (sg (136 * 256 + 97)) = .tuple #[.int .i32 44032, .bool true] by
      have : sg (136 * 256 + 97) = 44032 := by decide +kernel
      rw [this]; rfl] at this
    exact this)
  have HB : Hid (∀ w2, KD w2 → Calls Tryd.prog 10 #[.int .i32 12595] w2 fun e w' => e = .returned (.tuple #[.string ⟨#[132, 68]⟩, .bool true]) ∧ Below w2.heap.size w2 w') := Lib.hid (fun w2 h => by
    have := bytes_yes 12595 w2 h (by unfold hasJ; omega)
    rw [show two (code 12595) = ⟨#[132, 68]⟩ by decide +kernel] at this
    exact this)
  have HK := Lib.hid hK
  clear hK
  go_enter Tryd.func19, Tryd.ntmps19
  go_wp2_with (first | (go_at_call 7; refine (HS.out _ HK.out).mono ?_; rintro e2 w2 ⟨rfl, hb2⟩; have HB2 := Lib.hid hb2; have K2 := Lib.hid (HK.out.stay hb2); clear hb2) | (go_at_call 10; refine (HB.out _ K2.out).mono ?_; rintro e3 w3 ⟨rfl, hb3⟩; have HB3 := Lib.hid (HB2.out.trans (hb3.mono HB2.out.size)); clear hb3))
  go_ret
  exact ⟨rfl, HB3.out⟩
theorem awake_any (w : World) (hK : KD w) : Calls Tryd.prog 9 #[] w fun e w' => e = .returned (.bool true) ∧ Below w.heap.size w w' := by
  have HA := Lib.hid (Awake_any w hK)
  go_enter Tryd.func9, Tryd.ntmps9
  go_wp2_with (go_at_call 19; refine (HA.out).mono ?_; rintro e2 w2 ⟨rfl, hb2⟩)
  go_ret
  exact ⟨rfl, hb2⟩
theorem sgP_has (I m f : Nat) (hI : I < 32) (hm : m = 98 ∨ m = 99 ∨ m ≤ 20) (hf : f = 98 ∨ f ≤ 27) (h : sgP I m f ≠ 0) : hasJ (sgP I m f) := by
  unfold sgP at *
  by_cases h0 : I = 0 ∨ 20 < I ∨ m = 98 ∨ f = 98
  · rw [if_pos h0] at h; exact absurd rfl h
  rw [if_neg h0] at h ⊢
  unfold hasJ
  by_cases h1 : 2 ≤ I ∧ m < 98
  · rw [if_pos h1]; omega
  rw [if_neg h1] at h ⊢
  by_cases h2 : I = 1 ∧ m < 98 ∧ f = 0
  · rw [if_pos h2]; omega
  rw [if_neg h2] at h ⊢
  by_cases h3 : 2 ≤ I ∧ m = 99 ∧ f = 0
  · rw [if_pos h3]
    have := alo_i (I - 2) (by omega)
    omega
  rw [if_neg h3] at h ⊢
  by_cases h4 : I = 1 ∧ m = 99 ∧ 0 < f
  · rw [if_pos h4] at h ⊢
    have := alo_f f (by omega)
    omega
  · rw [if_neg h4] at h; exact absurd rfl h
theorem sg_has {c : Nat} (hc : c < 65536) (h : sg c ≠ 0) : hasJ (sg c) ∧ code (sg c) = c := by
  unfold sg at *
  by_cases h0 : c < 32768
  · rw [if_pos h0] at h; exact absurd rfl h
  · rw [if_neg h0] at h ⊢
    refine ⟨?_, code_sgn (by omega) hc h⟩
    rw [sgn_is] at h ⊢
    exact sgP_has _ _ _ (by omega) (med_cases _ (by omega)) (fin_cases _ (by omega)) h
theorem two_size (c : Nat) : (two c).size = 2 := rfl
theorem two_at0 (a b : Nat) (ha : a < 256) (hb : b < 256) : (((two (a * 256 + b))[0]'(by rw [two_size]; omega)).toNat : Int) = a := by
  show ((UInt8.ofNat ((a * 256 + b) / 256 % 256)).toNat : Int) = a
  simp; omega
theorem two_at1 (a b : Nat) (ha : a < 256) (hb : b < 256) : (((two (a * 256 + b))[1]'(by rw [two_size]; omega)).toNat : Int) = b := by
  show ((UInt8.ofNat ((a * 256 + b) % 256)).toNat : Int) = b
  simp; omega
set_option maxRecDepth 100000 in
set_option maxHeartbeats 2000000 in
theorem signs_walk (a b : Nat) (w : World) (ha : a < 256) (hb : b < 256) (hK : KD w) : Calls Tryd.prog 3 #[.int .u8 a, .int .u8 b] w fun e w' => e = .returned (.bool true) ∧ Below w.heap.size w w' := by
  have HS := Lib.hid (sign_any a b w ha hb hK)
  have HR := Lib.hid (fun w2 => refsign_any (a * 256 + b) w2 (by omega))
  rw [show ((a * 256 + b : Nat) : Int) = (a : Int) * 256 + (b : Int) by omega] at HR
  have HA := Lib.hid awake_any
  have HK := Lib.hid hK
  clear hK
  have a0 : (0 : Int) ≤ (a : Int) := by omega
  have a1 : (a : Int) < 256 := by omega
  have b0 : (0 : Int) ≤ (b : Int) := by omega
  have b1 : (b : Int) < 256 := by omega
  by_cases hS : sg (a * 256 + b) = 0
  · rw [hS] at HS HR
    replace HS : Hid (Calls Tryd.prog 7 #[.int .u8 a, .int .u8 b] w fun e w' => e = .returned (.tuple #[.int .i32 0, .bool false]) ∧ Below w.heap.size w w') := HS
    clear hS
    go_enter Tryd.func3, Tryd.ntmps3
    go_wp2_with (first | (go_at_call 7; refine (HS.out).mono ?_; rintro e2 w2 ⟨rfl, hb2⟩; have HB2 := Lib.hid hb2; have K2 := Lib.hid (HK.out.stay hb2); clear hb2) | (go_at_call 8; refine (HR.out _).mono ?_; rintro e3 w3 ⟨rfl, hb3⟩; have HB3 := Lib.hid (HB2.out.trans (hb3.mono HB2.out.size)); have K3 := Lib.hid (K2.out.stay hb3); clear hb3) | (go_at_call 9; refine (HA.out _ K3.out).mono ?_; rintro e4 w4 ⟨rfl, hb4⟩; have HB4 := Lib.hid (HB3.out.trans (hb4.mono HB3.out.size)); clear hb4))
    go_ret
    exact ⟨rfl, HB4.out⟩
  · obtain ⟨h1, h2⟩ := sg_has (c := a * 256 + b) (by omega) hS
    have HB := Lib.hid (fun w2 h => bytes_yes (sg (a * 256 + b)) w2 h h1)
    rw [h2] at HB
    rw [sV_pos hS] at HS
    have t0 := two_at0 a b ha hb
    have t1 := two_at1 a b ha hb
    have sz := two_size (a * 256 + b)
    obtain ⟨T, hT⟩ : ∃ T, T = two (a * 256 + b) := ⟨_, rfl⟩
    simp only [← hT] at HB t0 t1 sz
    have hz : ¬ ((sg (a * 256 + b) : Nat) : Int) = 0 := by omega
    generalize ((sg (a * 256 + b) : Nat) : Int) = S at *
    have e1 : (S == 0) = false := beq_eq_false_iff_ne.2 hz
    have e2 : (S != 0) = true := by rw [bne, e1]; rfl
    have i0 : ∀ wx, (Instr.index 9 (.string T) (.int .i64 0)).run Tryd.prog wx = .ok (.int .u8 (a : Int)) wx := fun wx => by
      have := index_at 9 T 0 (by rw [sz]; omega) wx Tryd.underlying9
      rw [t0] at this; exact this
    have i1 : ∀ wx, (Instr.index 9 (.string T) (.int .i64 1)).run Tryd.prog wx = .ok (.int .u8 (b : Int)) wx := fun wx => by
      have := index_at 9 T 1 (by rw [sz]; omega) wx Tryd.underlying9
      rw [t1] at this; exact this
    clear t0 t1 hT h1 h2 hS hz
    go_enter Tryd.func3, Tryd.ntmps3
    go_wp2_with (first | (go_at_call 7; refine (HS.out).mono ?_; rintro e2 w2 ⟨rfl, hb2⟩; have HB2 := Lib.hid hb2; have K2 := Lib.hid (HK.out.stay hb2); clear hb2) | (go_at_call 8; refine (HR.out _).mono ?_; rintro e3 w3 ⟨rfl, hb3⟩; have HB3 := Lib.hid (HB2.out.trans (hb3.mono HB2.out.size)); have K3 := Lib.hid (K2.out.stay hb3); clear hb3) | (go_at_call 10; refine (HB.out _ K3.out).mono ?_; rintro e4 w4 ⟨rfl, hb4⟩; have HB4 := Lib.hid (HB3.out.trans (hb4.mono HB3.out.size)); have K4 := Lib.hid (K3.out.stay hb4); clear hb4) | (go_at_call 9; refine (HA.out _ K4.out).mono ?_; rintro e5 w5 ⟨rfl, hb5⟩; have HB5 := Lib.hid (HB4.out.trans (hb5.mono HB4.out.size)); clear hb5))
    go_ret
    exact ⟨rfl, HB5.out⟩
end Go.Proofs.YtiamabeapomabaaDoor.jo
