/- The walk of JohabBytes. -/
import Derived.Test.YtiamabeapomabaaDoorJoD
import Derived.Test.YtiamabeapomabaaDoorOct6
import Derived.Deep.RegionWith
namespace Go.Proofs.YtiamabeapomabaaDoor.jo
open Go.RowKit Go.Lib
set_option linter.unusedVariables false
set_option maxRecDepth 100000 in
set_option maxHeartbeats 4000000 in
theorem bytes_walk_no (p : Int) (w : World) (h : ¬ (12593 ≤ p ∧ p ≤ 55203 ∧ ¬ (12643 < p ∧ p < 44032))) (hK : KD w) : Calls Tryd.prog 4 #[.int .i32 p] w fun e w' => e = .returned (.bool true) ∧ Below w.heap.size w w' := by
  have HB := Lib.hid (bytes_no p w h)
  have HC := Lib.hid (fun w2 => refcode_not p w2 h)
  have HA := Lib.hid awake_any
  have HK := Lib.hid hK
  clear h hK
  go_enter Tryd.func4, Tryd.ntmps4
  go_wp2_with (first | (go_at_call 10; refine (HB.out).mono ?_; rintro e2 w2 ⟨rfl, hb2⟩; have HB2 := Lib.hid hb2; have K2 := Lib.hid (HK.out.stay hb2); clear hb2) | (go_at_call 11; refine (HC.out _).mono ?_; rintro e3 w3 ⟨rfl, hb3⟩; have HB3 := Lib.hid (HB2.out.trans (hb3.mono HB2.out.size)); have K3 := Lib.hid (K2.out.stay hb3); clear hb3) | (go_at_call 9; refine (HA.out _ K3.out).mono ?_; rintro e4 w4 ⟨rfl, hb4⟩; have HB4 := Lib.hid (HB3.out.trans (hb4.mono HB3.out.size)); clear hb4))
  go_ret
  exact ⟨rfl, HB4.out⟩
theorem hasJ_sg {q : Nat} (h : hasJ q) : sg (code q) = q := by
  unfold sg
  rw [if_neg (by have := code_le h; omega), sgn_code h]
set_option maxRecDepth 100000 in
set_option maxHeartbeats 4000000 in
theorem bytes_walk_yes (q : Nat) (w : World) (h : hasJ q) (hK : KD w) : Calls Tryd.prog 4 #[.int .i32 q] w fun e w' => e = .returned (.bool true) ∧ Below w.heap.size w w' := by
  have hle := code_le h
  have h0 : q ≠ 0 := by unfold hasJ at h; omega
  obtain ⟨a, b, hab, ha, hb⟩ : ∃ a b : Nat, code q = a * 256 + b ∧ a < 256 ∧ b < 256 := ⟨code q / 256, code q % 256, by omega, by omega, by omega⟩
  have HB := Lib.hid (bytes_yes q w hK h)
  have HC := Lib.hid (fun w2 => refcode_any q w2)
  rw [cd_has h] at HC
  have HS := Lib.hid (fun w2 hk => sign_any a b w2 ha hb hk)
  rw [← hab, hasJ_sg h, sV_pos h0] at HS
  rw [hab] at HB HC
  have t0 := two_at0 a b ha hb
  have t1 := two_at1 a b ha hb
  have sz := two_size (a * 256 + b)
  have hcv : ∀ wx : World, (convert 30 9 (.slice (some ⟨wx.heap.size, 0, none⟩) 2 2)).run Tryd.prog (wx.alloc (.cells #[.int .u8 (a : Int), .int .u8 (b : Int)] 5)) = .ok (.string (two (a * 256 + b))) (wx.alloc (.cells #[.int .u8 (a : Int), .int .u8 (b : Int)] 5)) := fun wx => by
    have h := oct.conv_lit wx [UInt8.ofNat ((a * 256 + b) / 256 % 256), UInt8.ofNat ((a * 256 + b) % 256)]
    rw [show oct.cellsL [UInt8.ofNat ((a * 256 + b) / 256 % 256), UInt8.ofNat ((a * 256 + b) % 256)] = [.int .u8 a, .int .u8 b] by
      simp only [oct.cellsL, List.map_cons, List.map_nil]
      have e0 : ((UInt8.ofNat ((a * 256 + b) / 256 % 256)).toNat : Int) = a := by simp; omega
      have e1 : ((UInt8.ofNat ((a * 256 + b) % 256)).toNat : Int) = b := by simp; omega
      rw [e0, e1]] at h
    exact h
  obtain ⟨T, hT⟩ : ∃ T, T = two (a * 256 + b) := ⟨_, rfl⟩
  simp only [← hT] at HB t0 t1 sz hcv
  have i0 : ∀ wx, (Instr.index 9 (.string T) (.int .i64 0)).run Tryd.prog wx = .ok (.int .u8 (a : Int)) wx := fun wx => by
    have := index_at 9 T 0 (by rw [sz]; omega) wx Tryd.underlying9
    rw [t0] at this; exact this
  have i1 : ∀ wx, (Instr.index 9 (.string T) (.int .i64 1)).run Tryd.prog wx = .ok (.int .u8 (b : Int)) wx := fun wx => by
    have := index_at 9 T 1 (by rw [sz]; omega) wx Tryd.underlying9
    rw [t1] at this; exact this
  have HA := Lib.hid awake_any
  have HK := Lib.hid hK
  generalize (q : Int) = Q at *
  obtain ⟨C, hC⟩ : ∃ C : Int, C = ((a * 256 + b : Nat) : Int) := ⟨_, rfl⟩
  rw [← hC] at HC
  have q0 : C / 256 = (a : Int) := by omega
  have q1 : C % 256 = (b : Int) := by omega
  have c0 : 0 ≤ C := by omega
  have c1 : C < 65536 := by omega
  have a0 : (0 : Int) ≤ (a : Int) := by omega
  have a1 : (a : Int) < 256 := by omega
  have b0 : (0 : Int) ≤ (b : Int) := by omega
  have b1 : (b : Int) < 256 := by omega
  clear t0 t1 hT hC hab h hle h0 hK
  go_enter Tryd.func4, Tryd.ntmps4
  go_wp2_with (first | (go_at_call 10; refine (HB.out).mono ?_; rintro e2 w2 ⟨rfl, hb2⟩; have HB2 := Lib.hid hb2; have K2 := Lib.hid (HK.out.stay hb2); clear hb2) | (go_at_call 11; refine (HC.out _).mono ?_; rintro e3 w3 ⟨rfl, hb3⟩; have HB3 := Lib.hid (HB2.out.trans (hb3.mono HB2.out.size)); have K3 := Lib.hid (K2.out.stay hb3); clear hb3))
  go_region_with (first | (go_at_call 7; refine (HS.out _ (K3.out.below (below_drewN ((Below.refl _ _).alloc (Nat.le_refl _) _) _) K3.out.lt)).mono ?_; rintro e4 w4 ⟨rfl, hb4⟩; have HB4 := Lib.hid ((below_drewN (HB3.out.alloc HB3.out.size (.cells #[.int .u8 (a : Int), .int .u8 (b : Int)] 5)) 1).trans (hb4.mono (by have := HB3.out.size; simp; omega))); have K4 := Lib.hid ((K3.out.below (below_drewN ((Below.refl _ _).alloc (Nat.le_refl _) (.cells #[.int .u8 (a : Int), .int .u8 (b : Int)] 5)) 1) K3.out.lt).stay hb4); clear hb4))
  all_goals
    go_wp2_with (go_at_call 9; refine (HA.out _ K4.out).mono ?_; rintro e5 w5 ⟨rfl, hb5⟩; have HB5 := Lib.hid (HB4.out.trans (hb5.mono HB4.out.size)); clear hb5)
    go_ret
    exact ⟨rfl, HB5.out⟩
theorem bytes_walk (p : Int) (w : World) (hK : KD w) : Calls Tryd.prog 4 #[.int .i32 p] w fun e w' => e = .returned (.bool true) ∧ Below w.heap.size w w' := by
  by_cases h : 12593 ≤ p ∧ p ≤ 55203 ∧ ¬ (12643 < p ∧ p < 44032)
  · obtain ⟨q, rfl⟩ : ∃ q : Nat, p = (q : Int) := ⟨p.toNat, by omega⟩
    exact bytes_walk_yes q w (by unfold hasJ; omega) hK
  · exact bytes_walk_no p w h hK
end Go.Proofs.YtiamabeapomabaaDoor.jo
