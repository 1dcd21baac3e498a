/- The walk of WansungPlaces. -/
import Derived.Test.YtgjndekgnkjknaaDoorWa7
namespace Go.Proofs.YtgjndekgnkjknaaDoor.wa
open Go.RowKit Go.Lib
set_option linter.unusedVariables false
theorem plV_zero {k : Int} {b : Bool} (h : k < 0 ∨ (tot b : Int) ≤ k) : plV k b = .tuple #[.int .i32 0, .bool false] := by
  unfold plV; rw [plI_none h]; rfl
theorem plV_pos {k : Nat} {b : Bool} (h : k < tot b) : ∃ z : Int, z ≠ 0 ∧ plV (k : Int) b = .tuple #[.int .i32 z, .bool true] ∧ kthI (k : Int) b = z := by
  have h1 := plI_some h
  refine ⟨((kth k b : Nat) : Int), h1.2, ?_, kthI_nat k b⟩
  unfold plV
  rw [h1.1]
  have : (((kth k b : Nat) : Int) != 0) = true := by rw [bne, beq_eq_false_iff_ne.2 h1.2]; rfl
  rw [this]
theorem kthI_zero {k : Nat} {b : Bool} (h : tot b ≤ k) : kthI (k : Int) b = 0 := by rw [kthI_nat, kth_none h]; rfl
set_option maxRecDepth 100000 in
set_option maxHeartbeats 4000000 in
theorem places_far {K : World → Prop} (L : Pl K) (k : Int) (w : World) (h0 : -9223372036854775808 ≤ k) (h1 : k ≤ 9223372036854775807) (hh : k < 0 ∨ 12000 < k) (hK : K w) : Calls Tryd.prog 4 #[.int .i64 k] w fun e w' => e = .returned (.bool true) ∧ Below w.heap.size w w' := by
  have t1 : (tot true : Int) = 2350 := rfl
  have t2 : (tot false : Int) = 8822 := rfl
  have HP := Lib.hid (L.place k w hK h0 h1)
  have HX := Lib.hid (fun w2 h => L.extra k w2 h h0 h1)
  rw [plV_zero (by omega)] at HP
  rw [plV_zero (by omega)] at HX
  have HA := Lib.hid (fun w2 h => awake_any L.toAw w2 h)
  have HL := Lib.hid L.stay
  have HK := Lib.hid hK
  have HT : Hid (∀ w2, Calls Tryd.prog 13 #[.int .i64 0, .bool true] w2 fun e w' => e = .returned (.int .i32 (kthI 0 true)) ∧ w2 = w') := Lib.hid (fun w2 => kth_any 0 true w2 (by omega))
  have HF : Hid (∀ w2, Calls Tryd.prog 13 #[.int .i64 0, .bool false] w2 fun e w' => e = .returned (.int .i32 (kthI 0 false)) ∧ w2 = w') := Lib.hid (fun w2 => kth_any 0 false w2 (by omega))
  clear hK L h0 h1
  rcases hh with hh | hh
  all_goals
    go_enter Tryd.func4, Tryd.ntmps4
    go_wp2_with (first | (go_at_call 11; refine (HP.out).mono ?_; rintro e2 w2 ⟨rfl, hb2⟩; have B2 := Lib.hid hb2; have K2 := Lib.hid (HL.out _ _ HK.out hb2); clear hb2) | (go_at_call 12; refine (HX.out _ K2.out).mono ?_; rintro e3 w3 ⟨rfl, hb3⟩; have B3 := Lib.hid (B2.out.trans (hb3.mono B2.out.size)); have K3 := Lib.hid (HL.out _ _ K2.out hb3); clear hb3) | (go_at_call 13; (with_reducible refine (HT.out _).mono ?_); rintro e6 w6 ⟨rfl, rfl⟩) | (go_at_call 13; (with_reducible refine (HF.out _).mono ?_); rintro e6 w6 ⟨rfl, rfl⟩) | (go_at_call 8; refine (HA.out _ K3.out).mono ?_; rintro e5 w5 ⟨rfl, hb5⟩; have B5 := Lib.hid (B3.out.trans (hb5.mono B3.out.size)); clear hb5))
    go_ret
    exact ⟨rfl, B5.out⟩
set_option maxRecDepth 100000 in
set_option maxHeartbeats 4000000 in
theorem places_near {K : World → Prop} (L : Pl K) (q : Nat) (w : World) (hq : q ≤ 12000) (hK : K w) : Calls Tryd.prog 4 #[.int .i64 (q : Int)] w fun e w' => e = .returned (.bool true) ∧ Below w.heap.size w w' := by
  have t1 : tot true = 2350 := rfl
  have t2 : tot false = 8822 := rfl
  have HP := Lib.hid (L.place q w hK (by omega) (by omega))
  have HX := Lib.hid (fun w2 h => L.extra q w2 h (by omega) (by omega))
  have HA := Lib.hid (fun w2 h => awake_any L.toAw w2 h)
  have HL := Lib.hid L.stay
  have HK := Lib.hid hK
  have HT := Lib.hid (fun w2 => kth_any (q : Int) true w2 (by omega))
  have HF := Lib.hid (fun w2 => kth_any (q : Int) false w2 (by omega))
  clear hK L
  have k0 : ¬ (q : Int) < 0 := by omega
  have k1 : ¬ 12000 < (q : Int) := by omega
  by_cases c1 : q < 2350
  · obtain ⟨z, z1, z2, z3⟩ := plV_pos (k := q) (b := true) (by omega)
    obtain ⟨y, y1, y2, y3⟩ := plV_pos (k := q) (b := false) (by omega)
    rw [z2] at HP; rw [y2] at HX; rw [z3] at HT; rw [y3] at HF
    have g0 : (q : Int) < 2350 := by omega
    have g1 : (q : Int) < 8822 := by omega
    have e1 : (z != 0) = true := by rw [bne, beq_eq_false_iff_ne.2 z1]; rfl
    have e2 : (y != 0) = true := by rw [bne, beq_eq_false_iff_ne.2 y1]; rfl
    clear z1 z2 z3 y1 y2 y3 c1 hq t1 t2
    generalize (q : Int) = Q at *
    go_enter Tryd.func4, Tryd.ntmps4
    go_wp2_with (first | (go_at_call 11; refine (HP.out).mono ?_; rintro e2 w2 ⟨rfl, hb2⟩; have B2 := Lib.hid hb2; have K2 := Lib.hid (HL.out _ _ HK.out hb2); clear hb2) | (go_at_call 12; refine (HX.out _ K2.out).mono ?_; rintro e3 w3 ⟨rfl, hb3⟩; have B3 := Lib.hid (B2.out.trans (hb3.mono B2.out.size)); have K3 := Lib.hid (HL.out _ _ K2.out hb3); clear hb3) | (go_at_call 13; (with_reducible refine (HT.out _).mono ?_); rintro e6 w6 ⟨rfl, rfl⟩) | (go_at_call 13; (with_reducible refine (HF.out _).mono ?_); rintro e6 w6 ⟨rfl, rfl⟩) | (go_at_call 8; refine (HA.out _ K3.out).mono ?_; rintro e5 w5 ⟨rfl, hb5⟩; have B5 := Lib.hid (B3.out.trans (hb5.mono B3.out.size)); clear hb5))
    go_ret
    exact ⟨rfl, B5.out⟩
  by_cases c2 : q < 8822
  · have z2 := plV_zero (k := (q : Int)) (b := true) (by omega)
    have z3 := kthI_zero (k := q) (b := true) (by omega)
    obtain ⟨y, y1, y2, y3⟩ := plV_pos (k := q) (b := false) (by omega)
    rw [z2] at HP; rw [y2] at HX; rw [z3] at HT; rw [y3] at HF
    have g0 : decide ((q : Int) < 2350) = false := decide_eq_false (by omega)
    have g1 : (q : Int) < 8822 := by omega
    have e2 : (y != 0) = true := by rw [bne, beq_eq_false_iff_ne.2 y1]; rfl
    clear z2 z3 y1 y2 y3 c1 c2 hq t1 t2
    generalize (q : Int) = Q at *
    go_enter Tryd.func4, Tryd.ntmps4
    go_wp2_with (first | (go_at_call 11; refine (HP.out).mono ?_; rintro e2 w2 ⟨rfl, hb2⟩; have B2 := Lib.hid hb2; have K2 := Lib.hid (HL.out _ _ HK.out hb2); clear hb2) | (go_at_call 12; refine (HX.out _ K2.out).mono ?_; rintro e3 w3 ⟨rfl, hb3⟩; have B3 := Lib.hid (B2.out.trans (hb3.mono B2.out.size)); have K3 := Lib.hid (HL.out _ _ K2.out hb3); clear hb3) | (go_at_call 13; (with_reducible refine (HT.out _).mono ?_); rintro e6 w6 ⟨rfl, rfl⟩) | (go_at_call 13; (with_reducible refine (HF.out _).mono ?_); rintro e6 w6 ⟨rfl, rfl⟩) | (go_at_call 8; refine (HA.out _ K3.out).mono ?_; rintro e5 w5 ⟨rfl, hb5⟩; have B5 := Lib.hid (B3.out.trans (hb5.mono B3.out.size)); clear hb5))
    go_ret
    exact ⟨rfl, B5.out⟩
  · have z2 := plV_zero (k := (q : Int)) (b := true) (by omega)
    have z3 := kthI_zero (k := q) (b := true) (by omega)
    have y2 := plV_zero (k := (q : Int)) (b := false) (by omega)
    have y3 := kthI_zero (k := q) (b := false) (by omega)
    rw [z2] at HP; rw [y2] at HX; rw [z3] at HT; rw [y3] at HF
    have g0 : decide ((q : Int) < 2350) = false := decide_eq_false (by omega)
    have g1 : decide ((q : Int) < 8822) = false := decide_eq_false (by omega)
    clear z2 z3 y2 y3 c1 c2 hq t1 t2
    generalize (q : Int) = Q at *
    go_enter Tryd.func4, Tryd.ntmps4
    go_wp2_with (first | (go_at_call 11; refine (HP.out).mono ?_; rintro e2 w2 ⟨rfl, hb2⟩; have B2 := Lib.hid hb2; have K2 := Lib.hid (HL.out _ _ HK.out hb2); clear hb2) | (go_at_call 12; refine (HX.out _ K2.out).mono ?_; rintro e3 w3 ⟨rfl, hb3⟩; have B3 := Lib.hid (B2.out.trans (hb3.mono B2.out.size)); have K3 := Lib.hid (HL.out _ _ K2.out hb3); clear hb3) | (go_at_call 13; (with_reducible refine (HT.out _).mono ?_); rintro e6 w6 ⟨rfl, rfl⟩) | (go_at_call 13; (with_reducible refine (HF.out _).mono ?_); rintro e6 w6 ⟨rfl, rfl⟩) | (go_at_call 8; refine (HA.out _ K3.out).mono ?_; rintro e5 w5 ⟨rfl, hb5⟩; have B5 := Lib.hid (B3.out.trans (hb5.mono B3.out.size)); clear hb5))
    go_ret
    exact ⟨rfl, B5.out⟩
theorem places_walk {K : World → Prop} (L : Pl K) (k : Int) (w : World) (h0 : -9223372036854775808 ≤ k) (h1 : k ≤ 9223372036854775807) (hK : K w) : Calls Tryd.prog 4 #[.int .i64 k] w fun e w' => e = .returned (.bool true) ∧ Below w.heap.size w w' := by
  by_cases hh : k < 0 ∨ 12000 < k
  · exact places_far L k w h0 h1 hh hK
  · obtain ⟨q, rfl⟩ : ∃ q : Nat, k = (q : Int) := ⟨k.toNat, by omega⟩
    exact places_near L q w (by omega) hK
end Go.Proofs.YtgjndekgnkjknaaDoor.wa
