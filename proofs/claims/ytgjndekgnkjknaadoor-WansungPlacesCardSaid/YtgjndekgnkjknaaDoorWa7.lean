/- The walks of WansungRanks, WansungPlaces, WansungSigns. -/
import Derived.Test.YtgjndekgnkjknaaDoorWa6
namespace Go.Proofs.YtgjndekgnkjknaaDoor.wa
open Go.RowKit Go.Lib
set_option linter.unusedVariables false
theorem plV_tup (k : Int) (b : Bool) : ∃ (z : Int) (t : Bool), plV k b = .tuple #[.int .i32 z, .bool t] := ⟨_, _, rfl⟩
theorem plV_hit {b : Bool} {n : Nat} (hn : n < 11172) (h : inB n = b) : plV ((rk b n : Nat) : Int) b = .tuple #[.int .i32 (44032 + (n : Int)), .bool true] := by
  have h1 := plI_some (rk_lt hn h)
  unfold plV
  rw [h1.1, kth_rank hn h]
  have e : ((44032 + n : Nat) : Int) = 44032 + (n : Int) := by omega
  rw [e]
  have : ((44032 + (n : Int)) != 0) = true := by
    rw [bne, beq_eq_false_iff_ne.2 (show (44032 + (n : Int)) ≠ 0 by omega)]; rfl
  rw [this]
theorem rkV_syl {p : Int} {n : Nat} (hp : p = 44032 + (n : Int)) (hn : n < 11172) : rkV p = .tuple #[.int .i64 ((rk (inB n) n : Nat) : Int), .bool (inB n), .bool true] := by
  unfold rkV
  rw [if_pos (by omega), show (p - 44032).toNat = n by omega]
theorem rkV_not {p : Int} (h : ¬ (44032 ≤ p ∧ p ≤ 55203)) : rkV p = .tuple #[.int .i64 0, .bool false, .bool false] := if_neg h
set_option maxRecDepth 100000 in
set_option maxHeartbeats 4000000 in
theorem ranks_walk {K : World → Prop} (L : Pl K) (p : Int) (w : World) (h0 : -2147483648 ≤ p) (h1 : p ≤ 2147483647) (hK : K w) : Calls Tryd.prog 3 #[.int .i32 p] w fun e w' => e = .returned (.bool true) ∧ Below w.heap.size w w' := by
  have HR := Lib.hid (L.rank p w hK h0 h1)
  have HA := Lib.hid (fun w2 h => awake_any L.toAw w2 h)
  have HL := Lib.hid L.stay
  by_cases hs : 44032 ≤ p ∧ p ≤ 55203
  · obtain ⟨n, hn⟩ : ∃ n : Nat, p = 44032 + (n : Int) := ⟨(p - 44032).toNat, by omega⟩
    have hn2 : n < 11172 := by omega
    rw [rkV_syl hn hn2] at HR
    have HI := Lib.hid (fun w2 => in_any n w2 hn2)
    have HRN := Lib.hid (fun w2 => rank_any n w2 hn2)
    rw [show (n : Int) = p - 44032 by omega] at HI HRN
    have hhit := plV_hit (b := inB n) hn2 rfl
    have hrl := rk_le (inB n) n
    have HPl := Lib.hid (fun w2 h => L.place ((rk (inB n) n : Nat) : Int) w2 h (by omega) (by omega))
    have HEx := Lib.hid (fun w2 h => L.extra ((rk (inB n) n : Nat) : Int) w2 h (by omega) (by omega))
    have g0 : 44032 ≤ p := hs.1
    have g1 : p ≤ 55203 := hs.2
    rw [show 44032 + (n : Int) = p by omega] at hhit
    have HK := Lib.hid hK
    clear hK hs hn2 hn L h0 h1 hrl
    cases hb : inB n with
    | true =>
      rw [hb] at HR HI HRN hhit HPl
      rw [hhit] at HPl
      generalize ((rk true n : Nat) : Int) = G at *
      clear hhit HEx hb
      go_enter Tryd.func3, Tryd.ntmps3
      go_wp2_with (first | (go_at_call 7; refine (HR.out).mono ?_; rintro e2 w2 ⟨rfl, hb2⟩; have B2 := Lib.hid hb2; have K2 := Lib.hid (HL.out _ _ HK.out hb2); clear hb2) | (go_at_call 9; refine (HI.out _).mono ?_; rintro e3 w3 ⟨rfl, rfl⟩) | (go_at_call 10; refine (HRN.out _).mono ?_; rintro e3 w3 ⟨rfl, rfl⟩) | (go_at_call 11; refine (HPl.out _ K2.out).mono ?_; rintro e4 w4 ⟨rfl, hb4⟩; have B4 := Lib.hid (B2.out.trans (hb4.mono B2.out.size)); have K4 := Lib.hid (HL.out _ _ K2.out hb4); clear hb4) | (go_at_call 8; refine (HA.out _ K4.out).mono ?_; rintro e5 w5 ⟨rfl, hb5⟩; have B5 := Lib.hid (B4.out.trans (hb5.mono B4.out.size)); clear hb5))
      go_ret
      exact ⟨rfl, B5.out⟩
    | false =>
      rw [hb] at HR HI HRN hhit HPl HEx
      rw [hhit] at HEx
      obtain ⟨z, t, hz⟩ := plV_tup ((rk false n : Nat) : Int) true
      rw [hz] at HPl
      clear hz
      generalize ((rk false n : Nat) : Int) = G at *
      clear hhit hb
      go_enter Tryd.func3, Tryd.ntmps3
      go_wp2_with (first | (go_at_call 7; refine (HR.out).mono ?_; rintro e2 w2 ⟨rfl, hb2⟩; have B2 := Lib.hid hb2; have K2 := Lib.hid (HL.out _ _ HK.out hb2); clear hb2) | (go_at_call 9; refine (HI.out _).mono ?_; rintro e3 w3 ⟨rfl, rfl⟩) | (go_at_call 10; refine (HRN.out _).mono ?_; rintro e3 w3 ⟨rfl, rfl⟩) | (go_at_call 11; refine (HPl.out _ K2.out).mono ?_; rintro e4 w4 ⟨rfl, hb4⟩; have B4 := Lib.hid (B2.out.trans (hb4.mono B2.out.size)); have K4 := Lib.hid (HL.out _ _ K2.out hb4); clear hb4) | (go_at_call 12; refine (HEx.out _ K4.out).mono ?_; rintro e6 w6 ⟨rfl, hb6⟩; have B6 := Lib.hid (B4.out.trans (hb6.mono B4.out.size)); have K6 := Lib.hid (HL.out _ _ K4.out hb6); clear hb6) | (go_at_call 8; refine (HA.out _ K6.out).mono ?_; rintro e5 w5 ⟨rfl, hb5⟩; have B5 := Lib.hid (B6.out.trans (hb5.mono B6.out.size)); clear hb5))
      go_ret
      exact ⟨rfl, B5.out⟩
  · rw [rkV_not hs] at HR
    have HK := Lib.hid hK
    have hh : p < 44032 ∨ (44032 ≤ p ∧ 55203 < p) := by omega
    clear hK hs L h0 h1
    rcases hh with h | ⟨h, h2⟩
    all_goals
      go_enter Tryd.func3, Tryd.ntmps3
      go_wp2_with (first | (go_at_call 7; refine (HR.out).mono ?_; rintro e2 w2 ⟨rfl, hb2⟩; have B2 := Lib.hid hb2; have K2 := Lib.hid (HL.out _ _ HK.out hb2); clear hb2) | (go_at_call 8; refine (HA.out _ K2.out).mono ?_; rintro e5 w5 ⟨rfl, hb5⟩; have B5 := Lib.hid (B2.out.trans (hb5.mono B2.out.size)); clear hb5))
      go_ret
      exact ⟨rfl, B5.out⟩
set_option maxRecDepth 100000 in
set_option maxHeartbeats 4000000 in
theorem signs_walk {K : World → Prop} (L : Sn K) (a b : Nat) (w : World) (ha : a < 256) (hb : b < 256) (hK : K w) : Calls Tryd.prog 5 #[.int .u8 a, .int .u8 b] w fun e w' => e = .returned (.bool true) ∧ Below w.heap.size w w' := by
  have HS := Lib.hid (L.sign a b w hK ha hb)
  have HR : Hid (∀ w2, Calls Tryd.prog 15 #[.int .i64 a, .int .i64 b] w2 fun e w' => e = .returned (.int .i32 ((sgW a b : Nat) : Int)) ∧ Below w2.heap.size w2 w') := Lib.hid (fun w2 => sgn_any a b w2 ha hb)
  have HA := Lib.hid (fun w2 h => awake_any L.toAw w2 h)
  have HL := Lib.hid L.stay
  have HK := Lib.hid hK
  have a0 : (0 : Int) ≤ (a : Int) := by omega
  have a1 : (a : Int) < 256 := by omega
  have b0 : (0 : Int) ≤ (b : Int) := by omega
  have b1 : (b : Int) < 256 := by omega
  by_cases hS : sgW a b = 0
  · rw [hS] at HS HR
    replace HS : Hid (Calls Tryd.prog 14 #[.int .u8 a, .int .u8 b] w fun e w' => e = .returned (.tuple #[.int .i32 0, .bool false]) ∧ Below w.heap.size w w') := HS
    clear hS hK L
    go_enter Tryd.func5, Tryd.ntmps5
    go_wp2_with (first | (go_at_call 14; refine (HS.out).mono ?_; rintro e2 w2 ⟨rfl, hb2⟩; have B2 := Lib.hid hb2; have K2 := Lib.hid (HL.out _ _ HK.out hb2); clear hb2) | (go_at_call 15; refine (HR.out _).mono ?_; rintro e3 w3 ⟨rfl, hb3⟩; have B3 := Lib.hid (B2.out.trans (hb3.mono B2.out.size)); have K3 := Lib.hid (HL.out _ _ K2.out hb3); clear hb3) | (go_at_call 8; refine (HA.out _ K3.out).mono ?_; rintro e5 w5 ⟨rfl, hb5⟩; have B5 := Lib.hid (B3.out.trans (hb5.mono B3.out.size)); clear hb5))
    go_ret
    exact ⟨rfl, B5.out⟩
  · have hby := by_sg ha hb hS
    have hSle : sgW a b < 65536 := by
      have h1 := hby
      unfold byW at h1
      by_cases q : 44032 ≤ sgW a b ∧ sgW a b ≤ 55203
      · omega
      · rw [if_neg q, if_neg hS] at h1
        cases hr : rc (sgW a b) with
        | none => rw [hr] at h1; cases h1
        | some j =>
          obtain ⟨_, j1, j2⟩ := rcF_some _ _ _ _ hr
          have := rowJ_out (j := j) (by omega)
          omega
    have HB : Hid (∀ w2, K w2 → Calls Tryd.prog 16 #[.int .i32 ((sgW a b : Nat) : Int)] w2 fun e w' => e = .returned (.tuple #[.string (two (a * 256 + b)), .bool true]) ∧ Below w2.heap.size w2 w') := Lib.hid (fun w2 h => by
      have := L.bytes ((sgW a b : Nat) : Int) w2 h (by omega) (by omega)
      rw [byV_some hby] at this
      exact this)
    rw [sgV_pos hS] at HS
    have t0 := two_at0 a b ha hb
    have t1 := two_at1 a b ha hb
    have sz := two_size (a * 256 + b)
    obtain ⟨T, hT⟩ : ∃ T, T = two (a * 256 + b) := ⟨_, rfl⟩
    simp only [← hT] at HB t0 t1 sz
    have hz : ¬ ((sgW a b : Nat) : Int) = 0 := by omega
    generalize ((sgW a b : Nat) : Int) = S at *
    have e1 : (S == 0) = false := beq_eq_false_iff_ne.2 hz
    have e2 : (S != 0) = true := by rw [bne, e1]; rfl
    have i0 : ∀ wx, (Instr.index 9 (.string T) (.int .i64 0)).run Tryd.prog wx = .ok (.int .u8 (a : Int)) wx := fun wx => by
      have := index_at 9 T 0 (by rw [sz]; omega) wx Tryd.underlying9
      rw [t0] at this; exact this
    have i1 : ∀ wx, (Instr.index 9 (.string T) (.int .i64 1)).run Tryd.prog wx = .ok (.int .u8 (b : Int)) wx := fun wx => by
      have := index_at 9 T 1 (by rw [sz]; omega) wx Tryd.underlying9
      rw [t1] at this; exact this
    clear t0 t1 hT hS hz hby hSle hK L
    go_enter Tryd.func5, Tryd.ntmps5
    go_wp2_with (first | (go_at_call 14; refine (HS.out).mono ?_; rintro e2 w2 ⟨rfl, hb2⟩; have B2 := Lib.hid hb2; have K2 := Lib.hid (HL.out _ _ HK.out hb2); clear hb2) | (go_at_call 15; refine (HR.out _).mono ?_; rintro e3 w3 ⟨rfl, hb3⟩; have B3 := Lib.hid (B2.out.trans (hb3.mono B2.out.size)); have K3 := Lib.hid (HL.out _ _ K2.out hb3); clear hb3) | (go_at_call 16; refine (HB.out _ K3.out).mono ?_; rintro e4 w4 ⟨rfl, hb4⟩; have B4 := Lib.hid (B3.out.trans (hb4.mono B3.out.size)); have K4 := Lib.hid (HL.out _ _ K3.out hb4); clear hb4) | (go_at_call 8; refine (HA.out _ K4.out).mono ?_; rintro e5 w5 ⟨rfl, hb5⟩; have B5 := Lib.hid (B4.out.trans (hb5.mono B4.out.size)); clear hb5))
    go_ret
    exact ⟨rfl, B5.out⟩
end Go.Proofs.YtgjndekgnkjknaaDoor.wa
