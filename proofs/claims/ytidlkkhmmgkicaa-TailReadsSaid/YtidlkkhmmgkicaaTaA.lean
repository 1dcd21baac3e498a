/- Layer 12: the walk of TailReads. -/
import Derived.Test.YtidlkkhmmgkicaaTa8
import Derived.ChangeKeysEq
namespace Go.Proofs.Ytidlkkhmmgkicaa.ta
open Go.RowKit Go.Lib
open Go.Proofs.Ytidlkkhmmgkicaa.un (bs bs_list bs_size bs_app bs_back size_list bt bt_lt wrap64 data_app Kb Kb.below)
set_option linter.unusedVariables false
theorem slice_h (s : ByteArray) (i : Nat) (h : i ≤ s.size) (wx : World) : (Instr.slice 9 (.string s) none (some (.int .i64 (i : Int))) none).run Try.prog wx = .ok (.string (s.extract 0 i)) wx := by
  rw [run_slice_string_h wx 9 s Try.underlying9 .i64 (i : Int) (by omega) (by omega)]
  rfl
theorem slice_l (s : ByteArray) (i : Nat) (h : i ≤ s.size) (wx : World) : (Instr.slice 9 (.string s) (some (.int .i64 (i : Int))) none none).run Try.prog wx = .ok (.string (s.extract i s.size)) wx := by
  rw [run_slice_string_l wx 9 s Try.underlying9 .i64 (i : Int) (by omega) (by omega)]
  rfl
theorem eq_str (f : ByteArray) (w : World) : (Op.equalIn 9998 9 (.string f) (.string f)).run Try.prog w = .ok true w := by
  rw [run_equalIn_string w 9997 9 f f Try.underlying9]
  simp
theorem eq_row (f1 f2 f3 f4 f5 : ByteArray) (w : World) : (Op.equalIn 9999 34 (.agg #[.string f1, .string f2, .string f3, .string f4, .string f5]) (.agg #[.string f1, .string f2, .string f3, .string f4, .string f5])).run Try.prog w = .ok true w := by
  have hc : Try.prog.cellsOf 9 = 1 := by kernel_rfl
  have p0 : (part 9 #[.string f1, .string f2, .string f3, .string f4, .string f5] 0).run Try.prog w = .ok (.string f1) w := by kernel_rfl
  have p1 : (part 9 #[.string f1, .string f2, .string f3, .string f4, .string f5] 1).run Try.prog w = .ok (.string f2) w := by kernel_rfl
  have p2 : (part 9 #[.string f1, .string f2, .string f3, .string f4, .string f5] 2).run Try.prog w = .ok (.string f3) w := by kernel_rfl
  have p3 : (part 9 #[.string f1, .string f2, .string f3, .string f4, .string f5] 3).run Try.prog w = .ok (.string f4) w := by kernel_rfl
  have p4 : (part 9 #[.string f1, .string f2, .string f3, .string f4, .string f5] 4).run Try.prog w = .ok (.string f5) w := by kernel_rfl
  rw [run_equalIn_array w 9998 (e := 9) (n := 5) _ _ (by kernel_rfl) (Option.some_get (by kernel_rfl : (Try.prog.info? 9).isSome = true)).symm, hc]
  simp only [show List.range 5 = [0, 1, 2, 3, 4] from rfl, Op.eqItems, Sem.run_bind, p0, p1, p2, p3, p4, Nat.mul_one, Result.andThen_ok, eq_str, Bool.not_true, Bool.false_eq_true, if_false]
  rfl
theorem ne_tag {x : ByteArray} (h : ¬ x = ⟨#[84, 65, 71]⟩) : (x.toList == [84, 65, 71]) = false := by
  have h2 := ne_list h
  rw [show (⟨#[84, 65, 71]⟩ : ByteArray).toList = [84, 65, 71] by decide +kernel] at h2
  exact h2
set_option maxRecDepth 100000 in
set_option maxHeartbeats 8000000 in
theorem reads_walk {K : World → Prop} (L : Tl K) (s : ByteArray) (w : World) (hK : K w) (hs : s.size ≤ maxLen) : Calls Try.prog 6 #[.string s] w fun e w' => e = .returned (.bool true) ∧ Below w.heap.size w w' := by
  have HAW := Lib.hid (fun w2 h2 => awake_any L w2 h2)
  have HL := Lib.hid L.stay
  have K0 : Hid (Kb K w w) := Lib.hid ⟨hK, Below.refl _ _⟩
  unfold maxLen at hs
  by_cases h : 3000 < s.size
  · have h1 : (3000 : Int) < s.size := by omega
    clear L hK h
    go_enter Try.func6, Try.ntmps6
    go_wp2_with (go_at_call 17; refine (HAW.out _ K0.out.k).mono ?_; rintro e2 w2 ⟨rfl, hb2⟩)
    go_ret
    exact ⟨rfl, hb2⟩
  · have h1 : ¬ (3000 : Int) < s.size := by omega
    have HPS := Lib.hid (fun W h => L.parse s W h (by omega))
    have HSP := Lib.hid (fun W h => L.split s W h (by omega))
    clear L hK
    have hcase : (s.size < 128) ∨ (128 < s.size ∧ spN s = true) ∨ (128 < s.size ∧ ¬ spN s = true) ∨ (s.size = 128 ∧ s.extract 0 3 = ⟨#[84, 65, 71]⟩) ∨ (s.size = 128 ∧ ¬ s.extract 0 3 = ⟨#[84, 65, 71]⟩) := by
      by_cases c1 : s.size < 128
      · exact .inl c1
      · by_cases c2 : s.size = 128
        · by_cases c3 : s.extract 0 3 = ⟨#[84, 65, 71]⟩
          · exact .inr (.inr (.inr (.inl ⟨c2, c3⟩)))
          · exact .inr (.inr (.inr (.inr ⟨c2, c3⟩)))
        · by_cases c3 : spN s = true
          · exact .inr (.inl ⟨by omega, c3⟩)
          · exact .inr (.inr (.inl ⟨by omega, c3⟩))
    rcases hcase with c1 | ⟨c1, c2⟩ | ⟨c1, c2⟩ | ⟨c1, c2⟩ | ⟨c1, c2⟩
    · have hT : isT s = false := by unfold isT; rw [decide_eq_false (by omega)]; rfl
      have hN : spN s = false := by unfold spN; rw [decide_eq_false (by omega)]; rfl
      have hv : paV s = tlV ⟨#[]⟩ ⟨#[]⟩ ⟨#[]⟩ ⟨#[]⟩ ⟨#[]⟩ 0 0 := by unfold paV; rw [hT]; rfl
      have hA : spA s = s := by unfold spA; rw [hN]; rfl
      have hB : spB s = ⟨#[]⟩ := by unfold spB; rw [hN]; rfl
      rw [hv, hT] at HPS
      rw [hA, hB] at HSP
      unfold tlV at HPS
      have e1 : ((s.size : Int) == 128) = false := by simp; omega
      have kN : IntKind.i64.wrap ((s.size : Int) - 128) = (s.size : Int) - 128 := wrap64 (by omega) (by omega)
      have g1 : ¬ (0 : Int) ≤ (s.size : Int) - 128 := by omega
      clear hT hN hv hA hB c1 h hs
      go_enter Try.func6, Try.ntmps6
      go_wp2_with (first
          | (go_at_call 17; refine (HAW.out _ K5.out.k).mono ?_; rintro e6 w6 ⟨rfl, hb6⟩; have K6 := Lib.hid (K5.out.below HL.out hb6); clear hb6)
          | (go_at_call 21; refine (HSP.out _ K2.out.k).mono ?_; rintro e5 w5 ⟨rfl, hb5⟩; have K5 := Lib.hid (K2.out.below HL.out hb5); clear hb5)
          | (go_at_call 18; refine (HPS.out _ K0.out.k).mono ?_; rintro e1 w1 ⟨rfl, hb1⟩; have K1 := Lib.hid (K0.out.below HL.out hb1); clear hb1; have hb2 : Below w1.heap.size w1 (w1.alloc (.cells #[.string ⟨#[]⟩, .string ⟨#[]⟩, .string ⟨#[]⟩, .string ⟨#[]⟩, .string ⟨#[]⟩, .int .u8 0, .int .u8 0] 31)) := (Below.refl _ _).alloc (Nat.le_refl _) _; have K2 := Lib.hid (K1.out.below HL.out hb2); clear hb2))
      go_ret
      exact ⟨by simp, K6.out.b⟩
    · obtain ⟨N, hN0⟩ : ∃ N, s.size = N + 128 := ⟨s.size - 128, by omega⟩
      have hT : isT s = false := by unfold isT; rw [decide_eq_false (by omega)]; rfl
      have hv : paV s = tlV ⟨#[]⟩ ⟨#[]⟩ ⟨#[]⟩ ⟨#[]⟩ ⟨#[]⟩ 0 0 := by unfold paV; rw [hT]; rfl
      have hA : spA s = s.extract 0 N := by unfold spA; rw [if_pos c2, hN0, Nat.add_sub_cancel]
      have hB : spB s = s.extract N s.size := by unfold spB; rw [if_pos c2, show s.size - 128 = N by omega]
      have hx : s.extract N (N + 3) = ⟨#[84, 65, 71]⟩ := by
        unfold spN at c2
        rw [Bool.and_eq_true, show s.size - 128 = N by omega] at c2
        exact of_decide_eq_true c2.2
      rw [hv, hT] at HPS
      rw [hA, hB] at HSP
      unfold tlV at HPS
      have e1 : ((s.size : Int) == 128) = false := by simp; omega
      have kN : IntKind.i64.wrap ((s.size : Int) - 128) = (N : Int) := by rw [wrap64 (by omega) (by omega)]; omega
      have kM : IntKind.i64.wrap ((N : Int) + 3) = (N : Int) + 3 := wrap64 (by omega) (by omega)
      have g1 : (0 : Int) ≤ (N : Int) := by omega
      have x1 : ∀ wx, (Instr.slice 9 (.string s) (some (.int .i64 (N : Int))) (some (.int .i64 ((N : Int) + 3))) none).run Try.prog wx = .ok (.string ⟨#[84, 65, 71]⟩) wx := fun wx => by have h2 := slice_f s N 3 (by omega) wx; rw [hx] at h2; exact h2
      have x2 := fun wx => slice_h s N (by omega) wx
      have x3 := fun wx => slice_l s N (by omega) wx
      generalize s.extract 0 N = X at *
      generalize s.extract N s.size = Y at *
      clear hT hv hA hB c1 c2 h hs hx hN0
      go_enter Try.func6, Try.ntmps6
      go_wp2_with (first
          | (go_at_call 17; refine (HAW.out _ K5.out.k).mono ?_; rintro e6 w6 ⟨rfl, hb6⟩; have K6 := Lib.hid (K5.out.below HL.out hb6); clear hb6)
          | (go_at_call 21; refine (HSP.out _ K2.out.k).mono ?_; rintro e5 w5 ⟨rfl, hb5⟩; have K5 := Lib.hid (K2.out.below HL.out hb5); clear hb5)
          | (go_at_call 18; refine (HPS.out _ K0.out.k).mono ?_; rintro e1 w1 ⟨rfl, hb1⟩; have K1 := Lib.hid (K0.out.below HL.out hb1); clear hb1; have hb2 : Below w1.heap.size w1 (w1.alloc (.cells #[.string ⟨#[]⟩, .string ⟨#[]⟩, .string ⟨#[]⟩, .string ⟨#[]⟩, .string ⟨#[]⟩, .int .u8 0, .int .u8 0] 31)) := (Below.refl _ _).alloc (Nat.le_refl _) _; have K2 := Lib.hid (K1.out.below HL.out hb2); clear hb2))
      go_ret
      exact ⟨by simp, K6.out.b⟩
    · obtain ⟨N, hN0⟩ : ∃ N, s.size = N + 128 := ⟨s.size - 128, by omega⟩
      have hT : isT s = false := by unfold isT; rw [decide_eq_false (by omega)]; rfl
      have hv : paV s = tlV ⟨#[]⟩ ⟨#[]⟩ ⟨#[]⟩ ⟨#[]⟩ ⟨#[]⟩ 0 0 := by unfold paV; rw [hT]; rfl
      have hA : spA s = s := by unfold spA; rw [if_neg c2]
      have hB : spB s = ⟨#[]⟩ := by unfold spB; rw [if_neg c2]
      have hx : ¬ s.extract N (N + 3) = ⟨#[84, 65, 71]⟩ := by
        intro hx
        apply c2
        unfold spN
        rw [show s.size - 128 = N by omega, hx, decide_eq_true (by omega)]
        simp
      rw [hv, hT] at HPS
      rw [hA, hB] at HSP
      unfold tlV at HPS
      have e1 : ((s.size : Int) == 128) = false := by simp; omega
      have kN : IntKind.i64.wrap ((s.size : Int) - 128) = (N : Int) := by rw [wrap64 (by omega) (by omega)]; omega
      have kM : IntKind.i64.wrap ((N : Int) + 3) = (N : Int) + 3 := wrap64 (by omega) (by omega)
      have g1 : (0 : Int) ≤ (N : Int) := by omega
      have x1 : ∀ wx, (Instr.slice 9 (.string s) (some (.int .i64 (N : Int))) (some (.int .i64 ((N : Int) + 3))) none).run Try.prog wx = .ok (.string (s.extract N (N + 3))) wx := fun wx => slice_f s N 3 (by omega) wx
      have n1 := ne_tag hx
      generalize s.extract N (N + 3) = X at *
      clear hT hv hA hB c1 c2 h hs hx hN0
      go_enter Try.func6, Try.ntmps6
      go_wp2_with (first
          | (go_at_call 17; refine (HAW.out _ K5.out.k).mono ?_; rintro e6 w6 ⟨rfl, hb6⟩; have K6 := Lib.hid (K5.out.below HL.out hb6); clear hb6)
          | (go_at_call 21; refine (HSP.out _ K2.out.k).mono ?_; rintro e5 w5 ⟨rfl, hb5⟩; have K5 := Lib.hid (K2.out.below HL.out hb5); clear hb5)
          | (go_at_call 18; refine (HPS.out _ K0.out.k).mono ?_; rintro e1 w1 ⟨rfl, hb1⟩; have K1 := Lib.hid (K0.out.below HL.out hb1); clear hb1; have hb2 : Below w1.heap.size w1 (w1.alloc (.cells #[.string ⟨#[]⟩, .string ⟨#[]⟩, .string ⟨#[]⟩, .string ⟨#[]⟩, .string ⟨#[]⟩, .int .u8 0, .int .u8 0] 31)) := (Below.refl _ _).alloc (Nat.le_refl _) _; have K2 := Lib.hid (K1.out.below HL.out hb2); clear hb2))
      go_ret
      exact ⟨by simp, K6.out.b⟩
    · have hT : isT s = true := by unfold isT; rw [c1, c2]; simp
      have hN : spN s = true := by unfold spN; rw [c1, show 128 - 128 = 0 from rfl, show 0 + 3 = 3 from rfl, decide_eq_true c2]; rfl
      have hv : paV s = tlV (fld s 3 30) (fld s 33 30) (fld s 63 30) (fld s 93 4) (fld s 97 (wd 4 (trB s))) (trB s) (bt s 127) := by unfold paV; rw [hT]; rfl
      have hA : spA s = s.extract 0 0 := by unfold spA; rw [if_pos hN, c1]
      have hB : spB s = s.extract 0 s.size := by unfold spB; rw [if_pos hN, c1]
      rw [hv, hT] at HPS
      rw [hA, hB] at HSP
      unfold tlV at HPS
      have HRP := Lib.hid (fun W => Parse_any s W c1)
      have HOF := Lib.hid (fun W => of_any (fld s 3 30) (fld s 33 30) (fld s 63 30) (fld s 93 4) (fld s 97 (wd 4 (trB s))) (trB s) (bt s 127) W (trB_lt s) (bt_lt s 127))
      have e1 : (s.size : Int) = 128 := by omega
      have y1 : ∀ wx, (Instr.slice 9 (.string s) none (some (.int .i64 3)) none).run Try.prog wx = .ok (.string ⟨#[84, 65, 71]⟩) wx := fun wx => by have h2 := slice_h s 3 (by omega) wx; rw [c2] at h2; exact h2
      have x1 : ∀ wx, (Instr.slice 9 (.string s) (some (.int .i64 0)) (some (.int .i64 3)) none).run Try.prog wx = .ok (.string ⟨#[84, 65, 71]⟩) wx := fun wx => by have h2 := slice_f s 0 3 (by omega) wx; rw [show (0 + 3 : Nat) = 3 from rfl, c2] at h2; exact h2
      have x2 : ∀ wx, (Instr.slice 9 (.string s) none (some (.int .i64 0)) none).run Try.prog wx = .ok (.string (s.extract 0 0)) wx := fun wx => slice_h s 0 (by omega) wx
      have x3 : ∀ wx, (Instr.slice 9 (.string s) (some (.int .i64 0)) none none).run Try.prog wx = .ok (.string (s.extract 0 s.size)) wx := fun wx => slice_l s 0 (by omega) wx
      generalize s.extract 0 0 = X at *
      generalize s.extract 0 s.size = Y at *
      generalize fld s 3 30 = f1 at *
      generalize fld s 33 30 = f2 at *
      generalize fld s 63 30 = f3 at *
      generalize fld s 93 4 = f4 at *
      generalize fld s 97 (wd 4 (trB s)) = f5 at *
      generalize (trB s : Int) = T at *
      generalize (bt s 127 : Int) = G at *
      have hE := fun wx => eq_row f1 f2 f3 f4 f5 wx
      clear hT hN hv hA hB c1 c2 h hs
      go_enter Try.func6, Try.ntmps6
      go_wp2_with (first
          | (go_at_call 17; refine (HAW.out _ K5.out.k).mono ?_; rintro e6 w6 ⟨rfl, hb6⟩; have K6 := Lib.hid (K5.out.below HL.out hb6); clear hb6)
          | (go_at_call 21; refine (HSP.out _ K4.out.k).mono ?_; rintro e5 w5 ⟨rfl, hb5⟩; have K5 := Lib.hid (K4.out.below HL.out hb5); clear hb5)
          | (go_at_call 20; refine (HRP.out _).mono ?_; rintro e4 w4 ⟨rfl, hb4⟩; have K4 := Lib.hid (K3.out.below HL.out hb4); clear hb4)
          | (go_at_call 19; refine (HOF.out _).mono ?_; rintro e3 w3 ⟨rfl, hb3⟩; have K3 := Lib.hid (K2.out.below HL.out hb3); clear hb3)
          | (go_at_call 18; refine (HPS.out _ K0.out.k).mono ?_; rintro e1 w1 ⟨rfl, hb1⟩; have K1 := Lib.hid (K0.out.below HL.out hb1); clear hb1; have hb2 : Below w1.heap.size w1 (w1.alloc (.cells #[.string f1, .string f2, .string f3, .string f4, .string f5, .int .u8 T, .int .u8 G] 31)) := (Below.refl _ _).alloc (Nat.le_refl _) _; have K2 := Lib.hid (K1.out.below HL.out hb2); clear hb2))
      go_ret
      exact ⟨by simp, K6.out.b⟩
    · have hT : isT s = false := by unfold isT; rw [decide_eq_false c2, Bool.and_false]
      have hN : spN s = false := by unfold spN; rw [c1, show 128 - 128 = 0 from rfl, show 0 + 3 = 3 from rfl, decide_eq_false c2, Bool.and_false]
      have hv : paV s = tlV ⟨#[]⟩ ⟨#[]⟩ ⟨#[]⟩ ⟨#[]⟩ ⟨#[]⟩ 0 0 := by unfold paV; rw [hT]; rfl
      have hA : spA s = s := by unfold spA; rw [hN]; rfl
      have hB : spB s = ⟨#[]⟩ := by unfold spB; rw [hN]; rfl
      rw [hv, hT] at HPS
      rw [hA, hB] at HSP
      unfold tlV at HPS
      have e1 : (s.size : Int) = 128 := by omega
      have y1 : ∀ wx, (Instr.slice 9 (.string s) none (some (.int .i64 3)) none).run Try.prog wx = .ok (.string (s.extract 0 3)) wx := fun wx => slice_h s 3 (by omega) wx
      have x1 : ∀ wx, (Instr.slice 9 (.string s) (some (.int .i64 0)) (some (.int .i64 3)) none).run Try.prog wx = .ok (.string (s.extract 0 3)) wx := fun wx => slice_f s 0 3 (by omega) wx
      have n1 := ne_tag c2
      generalize s.extract 0 3 = X at *
      clear hT hN hv hA hB c1 c2 h hs
      go_enter Try.func6, Try.ntmps6
      go_wp2_with (first
          | (go_at_call 17; refine (HAW.out _ K5.out.k).mono ?_; rintro e6 w6 ⟨rfl, hb6⟩; have K6 := Lib.hid (K5.out.below HL.out hb6); clear hb6)
          | (go_at_call 21; refine (HSP.out _ K2.out.k).mono ?_; rintro e5 w5 ⟨rfl, hb5⟩; have K5 := Lib.hid (K2.out.below HL.out hb5); clear hb5)
          | (go_at_call 18; refine (HPS.out _ K0.out.k).mono ?_; rintro e1 w1 ⟨rfl, hb1⟩; have K1 := Lib.hid (K0.out.below HL.out hb1); clear hb1; have hb2 : Below w1.heap.size w1 (w1.alloc (.cells #[.string ⟨#[]⟩, .string ⟨#[]⟩, .string ⟨#[]⟩, .string ⟨#[]⟩, .string ⟨#[]⟩, .int .u8 0, .int .u8 0] 31)) := (Below.refl _ _).alloc (Nat.le_refl _) _; have K2 := Lib.hid (K1.out.below HL.out hb2); clear hb2))
      go_ret
      exact ⟨by simp, K6.out.b⟩
end Go.Proofs.Ytidlkkhmmgkicaa.ta
