/- The walks of SyncBack and SyncParts. -/
import Derived.Test.YtidlkkhmmgkicaaUn2
namespace Go.Proofs.Ytidlkkhmmgkicaa.un
open Go.RowKit Go.Lib
set_option linter.unusedVariables false
theorem okF_drop : ∀ (i : Nat) (l : List UInt8), okF l = true → okF (l.drop i) = true
  | 0, l, h => h
  | i + 1, [], h => rfl
  | i + 1, x :: l, h => by
    rw [List.drop_succ_cons]
    refine okF_drop i l ?_
    unfold okF at h
    rw [Bool.and_eq_true] at h
    exact h.2
theorem ok_at (s : ByteArray) (i : Nat) (h : i < s.size) (ho : okF s.data.toList = true) : bt s i ≠ 255 ∨ (i + 1 < s.size ∧ bt s (i + 1) < 224) := by
  have h2 := okF_drop i _ ho
  rw [drop_at s i h] at h2
  by_cases h1 : i + 1 < s.size
  · rw [drop_at s (i + 1) h1] at h2
    have h3 : (!(s.data.toList.getD i 0 == 255 && decide (224 ≤ (s.data.toList.getD (i + 1) 0).toNat))) = true := by
      unfold okF at h2
      rw [Bool.and_eq_true] at h2
      exact h2.1
    rw [u255] at h3
    by_cases h4 : bt s i = 255
    · right
      refine ⟨h1, ?_⟩
      unfold bt at h4 ⊢
      rw [h4] at h3
      by_cases h5 : 224 ≤ (s.data.toList.getD (i + 1) 0).toNat
      · rw [decide_eq_true h5] at h3; cases h3
      · omega
    · exact .inl h4
  · rw [drop_end s (i + 1) (by omega)] at h2
    left
    intro h4
    have h3 : (!(s.data.toList.getD i 0 == 255 && true)) = true := by
      unfold okF at h2
      rw [Bool.and_eq_true] at h2
      exact h2.1
    rw [u255] at h3
    unfold bt at h4
    rw [h4] at h3
    simp at h3
set_option maxRecDepth 100000 in
set_option maxHeartbeats 4000000 in
theorem back_walk {K : World → Prop} (L : Un K) (s : ByteArray) (w : World) (hK : K w) (hs : s.size ≤ maxLen) : Calls Try.prog 4 #[.string s] w fun e w' => e = .returned (.bool true) ∧ Below w.heap.size w w' := by
  have HAW := Lib.hid (fun w2 h2 => awake_any L w2 h2)
  have HL := Lib.hid L.stay
  have K0 : Hid (Kb K w w) := Lib.hid ⟨hK, Below.refl _ _⟩
  unfold maxLen at hs
  by_cases h : 1000 < s.size
  · have h1 : (1000 : Int) < s.size := by omega
    clear L hK h
    go_enter Try.func4, Try.ntmps4
    go_wp2_with (go_at_call 9; refine (HAW.out _ K0.out.k).mono ?_; rintro e2 w2 ⟨rfl, hb2⟩)
    go_ret
    exact ⟨rfl, hb2⟩
  · have h1 : ¬ (1000 : Int) < s.size := by omega
    obtain ⟨P, hP⟩ : ∃ P, P = bs (putL s.data.toList) := ⟨_, rfl⟩
    have hPl : P.data.toList = putL s.data.toList := by rw [hP, bs_list]
    have hPs : P.size ≤ 2000 := by
      rw [hP, bs_size, put_len, size_list]
      have := ext_le s.data.toList
      rw [size_list] at this; omega
    have HC := Lib.hid (fun W h => L.clean s W h (by omega))
    have HP := Lib.hid (fun W h => L.put s W h (by omega))
    have HD : Hid (∀ W, K W → Calls Try.prog 14 #[.string P] W fun e w' => e = .returned (.string s) ∧ Below W.heap.size W w') := Lib.hid (fun W h => by
      have h2 := L.drop P W h (by omega)
      rw [hPl, drp_put, bs_back] at h2
      exact h2)
    rw [← hP] at HP
    have HOK := Lib.hid (fun i (h : i < P.size) => ok_at P i h (by rw [hPl]; exact put_ok _))
    have HCL : Hid (extL s.data.toList = 0 → P = s) := Lib.hid (fun h0 => by rw [hP, put_clean _ h0, bs_back])
    have p0 : (P.size : Int) ≤ 2000 := by omega
    clear L hK h hP hPl
    go_enter Try.func4, Try.ntmps4
    go_wp2_with (go_at_call 12; refine (HP.out _ K0.out.k).mono ?_; rintro e1 w1 ⟨rfl, hb1⟩; have K1 := Lib.hid (K0.out.below HL.out hb1); clear hb1)
    go_loopw [13] (fun i wr => ∃ j : Nat, j ≤ P.size ∧ i = .int .i64 j ∧ Kb K w wr) (fun i _ => P.size - (RowKit.intOf i).toNat)
    case atStart => exact ⟨0, by omega, rfl, K1.out⟩
    case round =>
      obtain ⟨j, hj, rfl, hkb⟩ := hrel
      have KX := Lib.hid hkb
      clear hkb
      by_cases hlt : j < P.size
      · have j0 : (0 : Int) ≤ (j : Int) := by omega
        have j1 : (j : Int) < (P.size : Int) := by omega
        have x2 := fun wx => index_bt P j hlt wx
        have e1 : IntKind.i64.wrap ((j : Int) + 1) = (j : Int) + 1 := wrap64 (by omega) (by omega)
        have e2 : IntKind.i64.wrap ((P.size : Int) - 1) = (P.size : Int) - 1 := wrap64 (by omega) (by omega)
        have hc : bt P j ≠ 255 ∨ (bt P j = 255 ∧ j + 1 < P.size ∧ bt P (j + 1) < 224) := by have := HOK.out j hlt; omega
        rcases hc with h2 | ⟨h2, h3, h4⟩
        · have n1 : (((bt P j : Nat) : Int) == 255) = false := by simp; omega
          generalize ((bt P j : Nat) : Int) = B at *
          clear h2
          go_wp2_with fail
          go_roundw
          case rel => exact ⟨j + 1, by omega, by go_num, KX.out⟩
          case measure => simp [RowKit.intOf]; omega
        · have x3 := fun wx => index_bt1 P j h3 wx
          rw [h2] at x2
          have j2 : (j : Int) + 1 < (P.size : Int) := by omega
          have n1 : ((j : Int) == (P.size : Int) - 1) = false := by simp; omega
          have n2 : decide ((224 : Int) ≤ ((bt P (j + 1) : Nat) : Int)) = false := by rw [decide_eq_false_iff_not]; omega
          generalize ((bt P (j + 1) : Nat) : Int) = B at *
          clear h2 h3 h4
          go_wp2_with fail
          go_roundw
          case rel => exact ⟨j + 1, by omega, by go_num, KX.out⟩
          case measure => simp [RowKit.intOf]; omega
      · obtain rfl : j = P.size := by omega
        clear hlt
        by_cases h0 : extL s.data.toList = 0
        · have hps := HCL.out h0
          have hz : (extL s.data.toList == 0) = true := by rw [h0]; rfl
          rw [hz] at HC
          have HPS := Lib.hid hps
          clear h0 hz hps
          go_wp2_with (first
            | (go_at_call 11; refine (HC.out _ Y2.out.k).mono ?_; rintro e3 w3 ⟨rfl, hb3⟩; have Y3 := Lib.hid (Y2.out.below HL.out hb3); clear hb3)
            | (go_at_call 14; refine (HD.out _ Y1.out.k).mono ?_; rintro e2 w2 ⟨rfl, hb2⟩; have Y2 := Lib.hid (Y1.out.below HL.out hb2); clear hb2)
            | (go_at_call 9; refine (HAW.out _ KX.out.k).mono ?_; rintro e1 w1 ⟨rfl, hb1⟩; have Y1 := Lib.hid (KX.out.below HL.out hb1); clear hb1))
          go_ret
          exact ⟨by simp [HPS.out], Y3.out.b⟩
        · have hz : (extL s.data.toList == 0) = false := by simp [h0]
          rw [hz] at HC
          clear h0 hz
          go_wp2_with (first
            | (go_at_call 11; refine (HC.out _ Y2.out.k).mono ?_; rintro e3 w3 ⟨rfl, hb3⟩; have Y3 := Lib.hid (Y2.out.below HL.out hb3); clear hb3)
            | (go_at_call 14; refine (HD.out _ Y1.out.k).mono ?_; rintro e2 w2 ⟨rfl, hb2⟩; have Y2 := Lib.hid (Y1.out.below HL.out hb2); clear hb2)
            | (go_at_call 9; refine (HAW.out _ KX.out.k).mono ?_; rintro e1 w1 ⟨rfl, hb1⟩; have Y1 := Lib.hid (KX.out.below HL.out hb1); clear hb1))
          go_ret
          exact ⟨by simp, Y3.out.b⟩
theorem ends_at (s : ByteArray) (h : 0 < s.size) : ends s.data.toList = (bt s (s.size - 1) == 255) := by
  unfold ends bt
  have hl := size_list s
  rw [List.getLast?_eq_getElem?, hl, List.getElem?_eq_getElem (by omega)]
  rw [List.getD_eq_getElem?_getD, List.getElem?_eq_getElem (by omega)]
  rw [← u255]
  rw [Bool.eq_iff_iff]; simp
theorem ends_nil (s : ByteArray) (h : s.size = 0) : ends s.data.toList = false := by
  have : s.data.toList = [] := List.length_eq_zero_iff.1 (by rw [size_list]; exact h)
  rw [this]; rfl
set_option maxRecDepth 100000 in
set_option maxHeartbeats 4000000 in
theorem parts_out {K : World → Prop} (L : Un K) (a b : ByteArray) (w : World) (hK : K w) (ha : a.size ≤ maxLen) (hb : b.size ≤ maxLen) (h : 500 < a.size ∨ 500 < b.size ∨ (0 < a.size ∧ bt a (a.size - 1) = 255)) : Calls Try.prog 5 #[.string a, .string b] w fun e w' => e = .returned (.bool true) ∧ Below w.heap.size w w' := by
  have HAW := Lib.hid (fun w2 h2 => awake_any L w2 h2)
  have HK := Lib.hid hK
  unfold maxLen at ha hb
  have hh : ((500 : Int) < a.size) ∨ (decide ((500 : Int) < a.size) = false ∧ (500 : Int) < b.size) ∨ (decide ((500 : Int) < a.size) = false ∧ decide ((500 : Int) < b.size) = false ∧ 0 < a.size ∧ bt a (a.size - 1) = 255) := by
    by_cases h1 : 500 < a.size
    · exact .inl (by omega)
    · by_cases h2 : 500 < b.size
      · exact .inr (.inl ⟨by rw [decide_eq_false_iff_not]; omega, by omega⟩)
      · exact .inr (.inr ⟨by rw [decide_eq_false_iff_not]; omega, by rw [decide_eq_false_iff_not]; omega, by omega⟩)
  clear L hK h
  rcases hh with h1 | ⟨h1, h2⟩ | ⟨h1, h2, h3, h4⟩
  · go_enter Try.func5, Try.ntmps5
    go_wp2_with (go_at_call 9; refine (HAW.out _ HK.out).mono ?_; rintro e2 w2 ⟨rfl, hb2⟩)
    go_ret
    exact ⟨rfl, hb2⟩
  · go_enter Try.func5, Try.ntmps5
    go_wp2_with (go_at_call 9; refine (HAW.out _ HK.out).mono ?_; rintro e2 w2 ⟨rfl, hb2⟩)
    go_ret
    exact ⟨rfl, hb2⟩
  · have x0 : ∀ wx, (Instr.index 9 (.string a) (.int .i64 ((a.size : Int) - 1))).run Try.prog wx = .ok (.int .u8 255) wx := fun wx => by
      have := index_bt a (a.size - 1) (by omega) wx
      rw [h4, show ((a.size - 1 : Nat) : Int) = (a.size : Int) - 1 by omega] at this
      exact this
    have h5 : (0 : Int) < (a.size : Int) := by omega
    have e2 : IntKind.i64.wrap ((a.size : Int) - 1) = (a.size : Int) - 1 := wrap64 (by omega) (by omega)
    clear h3 h4
    go_enter Try.func5, Try.ntmps5
    go_wp2_with (go_at_call 9; refine (HAW.out _ HK.out).mono ?_; rintro e2 w2 ⟨rfl, hb2⟩)
    go_ret
    exact ⟨rfl, hb2⟩
set_option maxRecDepth 100000 in
set_option maxHeartbeats 4000000 in
theorem parts_in {K : World → Prop} (L : Un K) (a b : ByteArray) (w : World) (hK : K w) (ha : a.size ≤ 500) (hb : b.size ≤ 500) (he : ends a.data.toList = false) : Calls Try.prog 5 #[.string a, .string b] w fun e w' => e = .returned (.bool true) ∧ Below w.heap.size w w' := by
  have HAW := Lib.hid (fun w2 h2 => awake_any L w2 h2)
  have HL := Lib.hid L.stay
  have K0 : Hid (Kb K w w) := Lib.hid ⟨hK, Below.refl _ _⟩
  have hab : (a ++ b).size = a.size + b.size := by rw [← size_list, data_app, List.length_append, size_list, size_list]
  obtain ⟨p1, p2⟩ := put_app a.data.toList b.data.toList he
  have p3 := drp_app a.data.toList b.data.toList he
  have HP1 := Lib.hid (fun W h => L.put a W h (by omega))
  have HP2 := Lib.hid (fun W h => L.put b W h (by omega))
  have HP3 := Lib.hid (fun W h => L.put (a ++ b) W h (by omega))
  have HD1 := Lib.hid (fun W h => L.drop a W h (by omega))
  have HD2 := Lib.hid (fun W h => L.drop b W h (by omega))
  have HD3 := Lib.hid (fun W h => L.drop (a ++ b) W h (by omega))
  have HE1 := Lib.hid (fun W h => L.extra a W h (by omega))
  have HE2 := Lib.hid (fun W h => L.extra b W h (by omega))
  have HE3 := Lib.hid (fun W h => L.extra (a ++ b) W h (by omega))
  rw [data_app, p1, ← bs_app] at HP3
  rw [data_app, p3, ← bs_app] at HD3
  rw [data_app, p2] at HE3
  have la := ext_le a.data.toList
  have lb := ext_le b.data.toList
  have da := drp_le a.data.toList
  have db := drp_le b.data.toList
  have qa := put_len a.data.toList
  have qb := put_len b.data.toList
  rw [size_list] at la lb da db qa qb
  have o0 : ¬ 9223372036854775807 < a.size + b.size := by omega
  have o1 : ¬ 9223372036854775807 < (bs (putL a.data.toList)).size + (bs (putL b.data.toList)).size := by rw [bs_size, bs_size]; omega
  have o2 : ¬ 9223372036854775807 < (bs (drpL a.data.toList)).size + (bs (drpL b.data.toList)).size := by rw [bs_size, bs_size]; omega
  have e3 : IntKind.i64.wrap (((extL a.data.toList : Nat) : Int) + ((extL b.data.toList : Nat) : Int)) = ((extL a.data.toList + extL b.data.toList : Nat) : Int) := by rw [wrap64 (by omega) (by omega)]; omega
  have n1 : decide ((500 : Int) < a.size) = false := by rw [decide_eq_false_iff_not]; omega
  have n2 : decide ((500 : Int) < b.size) = false := by rw [decide_eq_false_iff_not]; omega
  have e2 : IntKind.i64.wrap ((a.size : Int) - 1) = (a.size : Int) - 1 := wrap64 (by omega) (by omega)
  have hz : (a.size = 0) ∨ (0 < a.size ∧ bt a (a.size - 1) ≠ 255) := by
    by_cases h0 : a.size = 0
    · exact .inl h0
    · right
      refine ⟨by omega, fun h1 => ?_⟩
      rw [ends_at a (by omega), h1] at he
      cases he
  generalize bs (putL a.data.toList) = PA at *
  generalize bs (putL b.data.toList) = PB at *
  generalize bs (drpL a.data.toList) = DA at *
  generalize bs (drpL b.data.toList) = DB at *
  clear L hK p1 p2 p3 he hab
  have hz2 : (decide ((0 : Int) < a.size) = false ∧ decide (0 < a.size) = false) ∨ (0 < (a.size : Int) ∧ (((bt a (a.size - 1) : Nat) : Int) == 255) = false ∧ ∀ wx, (Instr.index 9 (.string a) (.int .i64 ((a.size : Int) - 1))).run Try.prog wx = .ok (.int .u8 ((bt a (a.size - 1) : Nat) : Int)) wx) := by
    rcases hz with h0 | ⟨h0, h1⟩
    · left; exact ⟨by rw [decide_eq_false_iff_not]; omega, by rw [decide_eq_false_iff_not]; omega⟩
    · right
      refine ⟨by omega, by simp; omega, fun wx => ?_⟩
      have := index_bt a (a.size - 1) (by omega) wx
      rw [show ((a.size - 1 : Nat) : Int) = (a.size : Int) - 1 by omega] at this
      exact this
  clear hz la lb da db qa qb
  generalize ((bt a (a.size - 1) : Nat) : Int) = B at *
  rcases hz2 with ⟨h0, h00⟩ | ⟨h0, h1, x0⟩
  all_goals
    go_enter Try.func5, Try.ntmps5
    go_wp2_with (first
      | (go_at_call 16; (with_reducible refine (HE2.out _ Y9.out.k).mono ?_); rintro e7 w7 ⟨rfl, hb7⟩; have Y10 := Lib.hid (Y9.out.below HL.out hb7); clear hb7)
      | (go_at_call 16; (with_reducible refine (HE1.out _ Y8.out.k).mono ?_); rintro e7 w7 ⟨rfl, hb7⟩; have Y9 := Lib.hid (Y8.out.below HL.out hb7); clear hb7)
      | (go_at_call 16; (with_reducible refine (HE3.out _ Y7.out.k).mono ?_); rintro e7 w7 ⟨rfl, hb7⟩; have Y8 := Lib.hid (Y7.out.below HL.out hb7); clear hb7)
      | (go_at_call 14; (with_reducible refine (HD2.out _ Y6.out.k).mono ?_); rintro e7 w7 ⟨rfl, hb7⟩; have Y7 := Lib.hid (Y6.out.below HL.out hb7); clear hb7)
      | (go_at_call 14; (with_reducible refine (HD1.out _ Y5.out.k).mono ?_); rintro e7 w7 ⟨rfl, hb7⟩; have Y6 := Lib.hid (Y5.out.below HL.out hb7); clear hb7)
      | (go_at_call 14; (with_reducible refine (HD3.out _ Y4.out.k).mono ?_); rintro e7 w7 ⟨rfl, hb7⟩; have Y5 := Lib.hid (Y4.out.below HL.out hb7); clear hb7)
      | (go_at_call 12; (with_reducible refine (HP2.out _ Y3.out.k).mono ?_); rintro e7 w7 ⟨rfl, hb7⟩; have Y4 := Lib.hid (Y3.out.below HL.out hb7); clear hb7)
      | (go_at_call 12; (with_reducible refine (HP1.out _ Y2.out.k).mono ?_); rintro e7 w7 ⟨rfl, hb7⟩; have Y3 := Lib.hid (Y2.out.below HL.out hb7); clear hb7)
      | (go_at_call 12; (with_reducible refine (HP3.out _ Y1.out.k).mono ?_); rintro e7 w7 ⟨rfl, hb7⟩; have Y2 := Lib.hid (Y1.out.below HL.out hb7); clear hb7)
      | (go_at_call 9; refine (HAW.out _ K0.out.k).mono ?_; rintro e1 w1 ⟨rfl, hb1⟩; have Y1 := Lib.hid (K0.out.below HL.out hb1); clear hb1))
    go_ret
    exact ⟨by simp, Y10.out.b⟩
theorem parts_walk {K : World → Prop} (L : Un K) (a b : ByteArray) (w : World) (hK : K w) (ha : a.size ≤ maxLen) (hb : b.size ≤ maxLen) : Calls Try.prog 5 #[.string a, .string b] w fun e w' => e = .returned (.bool true) ∧ Below w.heap.size w w' := by
  by_cases h : 500 < a.size ∨ 500 < b.size ∨ (0 < a.size ∧ bt a (a.size - 1) = 255)
  · exact parts_out L a b w hK ha hb h
  · refine parts_in L a b w hK (by omega) (by omega) ?_
    by_cases h0 : a.size = 0
    · exact ends_nil a h0
    · rw [ends_at a (by omega), beq_eq_false_iff_ne]
      intro h1
      exact h (.inr (.inr ⟨by omega, h1⟩))
end Go.Proofs.Ytidlkkhmmgkicaa.un
