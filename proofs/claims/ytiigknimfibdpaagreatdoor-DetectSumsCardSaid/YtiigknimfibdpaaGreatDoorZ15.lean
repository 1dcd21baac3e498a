/- Several texts in one. -/
import Derived.Test.YtiigknimfibdpaaGreatDoorZ14
import Derived.Test.YtiigknimfibdpaaGreatDoorZ13
import Derived.Test.YtiigknimfibdpaaGreatDoorOctA
namespace Go.Proofs.YtiigknimfibdpaaGreatDoor.jo
open Go.RowKit Go.Lib
set_option linter.unusedVariables false
def mj (j : Nat) : Nat := if j = 0 then 2 else medC (j - 1)
theorem k0_at : ∀ i : Fin 20, (K0[i.1]'(show i.1 < K0.size from i.2)).toNat = i.1 + 1 := by decide +kernel
theorem k1_at : ∀ i : Fin 22, (K1[i.1]'(show i.1 < K1.size from i.2)).toNat = mj i.1 := by decide +kernel
theorem k2_at : ∀ i : Fin 28, (K2[i.1]'(show i.1 < K2.size from i.2)).toNat = finC i.1 := by decide +kernel
theorem mj_le (j : Nat) (h : j < 22) : mj j ≤ 29 := by
  unfold mj
  split
  · omega
  · exact (medC_le (j - 1) (by omega)).1
theorem pcode_parts (i j k : Nat) (w : World) (hK : KD w) (hi : i < 20) (hj : j < 22) (hk : k < 28) : Calls Tryz.prog 134 #[aggP ((i : Int) - 1) ((j : Int) - 1) k] w fun e w' => e = .returned (.int .i64 ((32768 + (i + 1) * 1024 + mj j * 32 + finC k : Nat) : Int)) ∧ Below w.heap.size w w' := by
  have h1 := mj_le j hj
  have h2 := (finC_le k (by omega)).1
  have hx : ((K0[i]'(show i < K0.size from hi)).toNat : Int) = (i : Int) + 1 := by rw [k0_at ⟨i, hi⟩]; rfl
  have hy : ((K1[j]'(show j < K1.size from hj)).toNat : Int) = (mj j : Int) := by rw [k1_at ⟨j, hj⟩]
  have hz : ((K2[k]'(show k < K2.size from hk)).toNat : Int) = (finC k : Int) := by rw [k2_at ⟨k, hk⟩]
  have hp := pcode_core i j k _ _ _ w hK hi hj hk hx hy hz (or_int _ _ 15 (by omega) (by omega) (by omega) (by omega) (by omega) (by omega)) (or_int _ _ 10 (by omega) (by omega) (by omega) (by omega) (by omega) (by omega)) (or_int _ _ 5 (by omega) (by omega) (by omega) (by omega) (by omega) (by omega)) (by omega) (by omega) (by omega)
  rw [show ((32768 + (i + 1) * 1024 + mj j * 32 + finC k : Nat) : Int) = 32768 + ((i : Int) + 1) * 1024 + (mj j : Int) * 32 + (finC k : Int) by omega]
  exact hp
theorem let_alo : ∀ k < 30, letL.getD k 0 = if aloL.getD k 0 < 100 then 65 + aloL.getD k 0 else aloL.getD k 0 - 3 := by decide
/-- The parts of a sign, and their code. -/
theorem parts_code (q : Nat) (h : hasJ q) : ∃ a b d : Int, (∀ w, Calls Tryz.prog 132 #[.int .i32 q] w fun e w' => e = .returned (tupP (aggP a b d) true) ∧ Below w.heap.size w w') ∧
    (∀ w, KD w → Calls Tryz.prog 134 #[aggP a b d] w fun e w' => e = .returned (.int .i64 ((code q : Nat) : Int)) ∧ Below w.heap.size w w') := by
  have h0 := h
  unfold hasJ at h0
  by_cases hs : 44032 ≤ q
  · obtain ⟨n, rfl⟩ : ∃ n, q = 44032 + n := ⟨q - 44032, by omega⟩
    refine ⟨_, _, _, fun w => pos_syl ((44032 + n : Nat) : Int) n w (by omega) (by omega) (by omega), fun w hK => ?_⟩
    have hc := pcode_parts (n / 28 / 21 + 1) (n / 28 % 21 + 1) (n % 28) w hK (by omega) (by omega) (by omega)
    have e : code (44032 + n) = 32768 + (n / 28 / 21 + 1 + 1) * 1024 + mj (n / 28 % 21 + 1) * 32 + finC (n % 28) := by
      unfold code mj
      rw [if_pos (by omega), if_neg (by omega), Nat.add_sub_cancel_left, Nat.add_sub_cancel]
      rw [show n / 588 = n / 28 / 21 by omega]
    rw [e, show ((n : Int) / 28 / 21) = ((n / 28 / 21 + 1 : Nat) : Int) - 1 by omega, show ((n : Int) / 28 % 21) = ((n / 28 % 21 + 1 : Nat) : Int) - 1 by omega, show ((n : Int) % 28) = ((n % 28 : Nat) : Int) by omega]
    exact hc
  by_cases hm : 12623 ≤ q
  · obtain ⟨n, rfl⟩ : ∃ n, q = 12623 + n := ⟨q - 12623, by omega⟩
    refine ⟨_, _, _, fun w => pos_med ((12623 + n : Nat) : Int) n w (by omega) (by omega) (by omega), fun w hK => ?_⟩
    have hc := pcode_parts 0 (n + 1) 0 w hK (by omega) (by omega) (by omega)
    have e : code (12623 + n) = 32768 + (0 + 1) * 1024 + mj (n + 1) * 32 + finC 0 := by
      unfold code mj
      rw [if_neg (by omega), if_pos (by omega), if_neg (by omega), Nat.add_sub_cancel_left, Nat.add_sub_cancel]
      rfl
    rw [e, show (n : Int) = ((n + 1 : Nat) : Int) - 1 by omega]
    exact hc
  · obtain ⟨k, rfl⟩ : ∃ k, q = 12593 + k := ⟨q - 12593, by omega⟩
    have hl := let_alo k (by omega)
    have ha := aloL_has k (by omega)
    have hv := fun (a b d : Int) hh w => pos_con ((12593 + k : Nat) : Int) k a b d w (by omega) (by omega) hh
    have e : code (12593 + k) = if aloL.getD k 0 < 100 then 32768 + (aloL.getD k 0 + 2) * 1024 + 64 + 1 else 32768 + 1024 + 64 + finC (aloL.getD k 0 - 100) := by
      unfold code
      rw [if_neg (by omega), if_neg (by omega), if_pos (by omega), Nat.add_sub_cancel_left]
    rw [e]
    generalize letL.getD k 0 = L at *
    generalize aloL.getD k 0 = A at *
    by_cases hA : A < 100
    · rw [if_pos hA] at hl ⊢
      refine ⟨(A : Int), -1, 0, hv _ _ _ (by rw [if_neg (by omega), hl, show (((65 + A : Nat) : Int) - 65) = (A : Int) by omega]), fun w hK => ?_⟩
      have hcc := pcode_parts (A + 1) 0 0 w hK (by omega) (by omega) (by omega)
      rw [show (A : Int) = ((A + 1 : Nat) : Int) - 1 by omega]
      rw [show 32768 + (A + 2) * 1024 + 64 + 1 = 32768 + (A + 1 + 1) * 1024 + mj 0 * 32 + finC 0 from rfl]
      exact hcc
    · rw [if_neg hA] at hl ⊢
      refine ⟨-1, -1, ((A - 100 : Nat) : Int), hv _ _ _ (by rw [if_pos (by omega), hl, show (((A - 3 : Nat) : Int) - 97) = ((A - 100 : Nat) : Int) by omega]), fun w hK => ?_⟩
      have hcc := pcode_parts 0 0 (A - 100) w hK (by omega) (by omega) (by omega)
      rw [show 32768 + 1024 + 64 + finC (A - 100) = 32768 + (0 + 1) * 1024 + mj 0 * 32 + finC (A - 100) from rfl]
      exact hcc
/-- Two bytes. -/
def two (c : Nat) : ByteArray := ⟨#[UInt8.ofNat (c / 256 % 256), UInt8.ofNat (c % 256)]⟩
theorem big_two (c : Nat) (w : World) (h : c < 65536) : Calls Tryz.prog 133 #[.int .u64 (c : Int), .int .i64 2] w fun e w' => e = .returned (.string (two c)) ∧ Below w.heap.size w w' := by
  have h2 := oct.big_any c 2 2 w (by omega) (by omega) rfl (by omega)
  have e : (⟨(oct.bigL 256 2 c).toArray⟩ : ByteArray) = two c := by
    unfold two
    simp [oct.bigL]
  rw [e] at h2
  exact h2
set_option maxRecDepth 100000 in
set_option maxHeartbeats 2000000 in
theorem bytes_yes (q : Nat) (w : World) (hK : KD w) (h : hasJ q) : Calls Tryz.prog 97 #[.int .i32 q] w fun e w' => e = .returned (.tuple #[.string (two (code q)), .bool true]) ∧ Below w.heap.size w w' := by
  obtain ⟨a, b, d, hp, hc⟩ := parts_code q h
  have hle := (code_le h).2
  have HB := Lib.hid (fun w2 => big_two (code q) w2 hle)
  have g0 : (0 : Int) ≤ ((code q : Nat) : Int) := by omega
  have g1 : ((code q : Nat) : Int) < 65536 := by omega
  generalize two (code q) = T at *
  generalize ((code q : Nat) : Int) = C at *
  generalize (q : Int) = Q at *
  have HP := Lib.hid hp; have HC := Lib.hid hc; have HK := Lib.hid hK
  clear hp hc h hle hK
  unfold tupP aggP at HP
  unfold aggP at HC
  go_enter Tryz.func97, Tryz.ntmps97
  go_wp2_with (first | (go_at_call 132; refine (HP.out _).mono ?_; rintro e2 w2 ⟨rfl, hb2⟩; have HB2 := Lib.hid (hb2.alloc hb2.size (.cells #[.int .i64 a, .int .i64 b, .int .i64 d] 156)); have K2 := Lib.hid (HK.out.stay HB2.out); clear hb2) | (go_at_call 134; refine (HC.out _ K2.out).mono ?_; rintro e3 w3 ⟨rfl, hb3⟩; have HB3 := Lib.hid (HB2.out.trans (hb3.mono HB2.out.size)); clear hb3) | (go_at_call 133; refine (HB.out _).mono ?_; rintro e4 w4 ⟨rfl, hb4⟩; have HB4 := Lib.hid (HB3.out.trans (hb4.mono HB3.out.size)); clear hb4))
  go_ret2
  exact ⟨rfl, HB4.out⟩
end Go.Proofs.YtiigknimfibdpaaGreatDoor.jo
namespace Go.Proofs.YtiigknimfibdpaaGreatDoor.jo
open Go.RowKit Go.Lib
set_option linter.unusedVariables false
set_option maxRecDepth 100000 in
set_option maxHeartbeats 1000000 in
theorem Awake_any (w : World) (hK : KD w) : Calls Tryz.prog 62 #[] w fun e w' => e = .returned (.bool true) ∧ Below w.heap.size w w' := by
  have HS : Hid (∀ w2, KD w2 → Calls Tryz.prog 96 #[.int .u8 136, .int .u8 97] w2 fun e w' => e = .returned (.tuple #[.int .i32 44032, .bool true]) ∧ Below w2.heap.size w2 w') := Lib.hid (fun w2 h => by
    have := sign_any 136 97 w2 (by omega) (by omega) h
    rw [show sV (sg (136 * 256 + 97)) = .tuple #[.int .i32 44032, .bool true] by
      have : sg (136 * 256 + 97) = 44032 := by decide +kernel
      rw [this]; rfl] at this
    exact this)
  have HB : Hid (∀ w2, KD w2 → Calls Tryz.prog 97 #[.int .i32 12595] w2 fun e w' => e = .returned (.tuple #[.string ⟨#[132, 68]⟩, .bool true]) ∧ Below w2.heap.size w2 w') := Lib.hid (fun w2 h => by
    have := bytes_yes 12595 w2 h (by unfold hasJ; omega)
    rw [show two (code 12595) = ⟨#[132, 68]⟩ by decide +kernel] at this
    exact this)
  have HK := Lib.hid hK
  clear hK
  go_enter Tryz.func62, Tryz.ntmps62
  go_wp2_with (first | (go_at_call 96; refine (HS.out _ HK.out).mono ?_; rintro e2 w2 ⟨rfl, hb2⟩; have HB2 := Lib.hid hb2; have K2 := Lib.hid (HK.out.stay hb2); clear hb2) | (go_at_call 97; refine (HB.out _ K2.out).mono ?_; rintro e3 w3 ⟨rfl, hb3⟩; have HB3 := Lib.hid (HB2.out.trans (hb3.mono HB2.out.size)); clear hb3))
  go_ret
  exact ⟨rfl, HB3.out⟩
theorem sgP_has (I m f : Nat) (hI : I < 32) (hm : m = 98 ∨ m = 99 ∨ m ≤ 20) (hf : f = 98 ∨ f ≤ 27) (h : sgP I m f ≠ 0) : hasJ (sgP I m f) := by
  unfold sgP at *
  by_cases h0 : I = 0 ∨ 20 < I ∨ m = 98 ∨ f = 98
  · rw [if_pos h0] at h; exact absurd rfl h
  rw [if_neg h0] at h ⊢
  unfold hasJ
  by_cases h1 : 2 ≤ I ∧ m < 98
  · rw [if_pos h1]; omega
  rw [if_neg h1] at h ⊢
  by_cases h2 : I = 1 ∧ m < 98 ∧ f = 0
  · rw [if_pos h2]; omega
  rw [if_neg h2] at h ⊢
  by_cases h3 : 2 ≤ I ∧ m = 99 ∧ f = 0
  · rw [if_pos h3]
    have := alo_i (I - 2) (by omega)
    omega
  rw [if_neg h3] at h ⊢
  by_cases h4 : I = 1 ∧ m = 99 ∧ 0 < f
  · rw [if_pos h4] at h ⊢
    have := alo_f f (by omega)
    omega
  · rw [if_neg h4] at h; exact absurd rfl h
theorem sg_has {c : Nat} (hc : c < 65536) (h : sg c ≠ 0) : hasJ (sg c) ∧ code (sg c) = c := by
  unfold sg at *
  by_cases h0 : c < 32768
  · rw [if_pos h0] at h; exact absurd rfl h
  · rw [if_neg h0] at h ⊢
    refine ⟨?_, code_sgn (by omega) hc h⟩
    rw [sgn_is] at h ⊢
    exact sgP_has _ _ _ (by omega) (med_cases _ (by omega)) (fin_cases _ (by omega)) h
end Go.Proofs.YtiigknimfibdpaaGreatDoor.jo
