/- The landed unsync: sounds, Clean, Extra, Put, Drop: contracts. -/
import Derived.Test.YtkhajafjieofhaaUn2
import Derived.Test.YtkhajafjieofhaaRw
namespace Go.Proofs.Ytkhajafjieofhaa.un
open Go.RowKit Go.Lib
open Go.Proofs.Ytkhajafjieofhaa.rw (byte_info mk_bytes below_grown owns_below conv_row bv bv_len bv_app str_bytes conv_bytes)
set_option linter.unusedVariables false
set_option maxRecDepth 100000 in
set_option maxHeartbeats 2000000 in
theorem sounds_any (s : ByteArray) (i : Nat) (w : World) (hi : i < s.size) (hs : s.size ≤ 4000) : Calls Try.prog 60 #[.string s, .int .i64 (i : Int)] w fun e w' => e = .returned (.bool (lkA s i)) ∧ w = w' := by
  have x0 := fun wx => index_bt s i hi wx
  have i0 : (0 : Int) ≤ (i : Int) := by omega
  have i1 : (i : Int) < (s.size : Int) := by omega
  have i2 : (s.size : Int) ≤ 4000 := by omega
  obtain ⟨PP, hPP⟩ : ∃ PP, PP = lkA s i := ⟨_, rfl⟩
  rw [← hPP]
  unfold lkA at hPP
  have hb := bt_lt s (i + 1)
  have hc : bt s i ≠ 255 ∨ (bt s i = 255 ∧ i + 1 = s.size) ∨ (bt s i = 255 ∧ i + 1 < s.size ∧ bt s (i + 1) = 0) ∨ (bt s i = 255 ∧ i + 1 < s.size ∧ bt s (i + 1) ≠ 0 ∧ 224 ≤ bt s (i + 1)) ∨ (bt s i = 255 ∧ i + 1 < s.size ∧ bt s (i + 1) ≠ 0 ∧ ¬ 224 ≤ bt s (i + 1)) := by omega
  rcases hc with h1 | ⟨h1, h2⟩ | ⟨h1, h2, h3⟩ | ⟨h1, h2, h3, h4⟩ | ⟨h1, h2, h3, h4⟩
  · obtain rfl : PP = false := by rw [hPP]; simp [h1]
    have n1 : (((bt s i : Nat) : Int) == 255) = false := by simp; omega
    generalize ((bt s i : Nat) : Int) = B at *
    clear hPP h1 hi hs hb
    go_enter Try.func60, Try.ntmps60
    go_wp2
    go_ret
    exact ⟨rfl, rfl⟩
  · obtain rfl : PP = true := by rw [hPP, h1, decide_eq_true h2]; rfl
    rw [h1] at x0
    have e1 : (i : Int) + 1 = (s.size : Int) := by omega
    clear hPP h1 h2 hi hs hb
    go_enter Try.func60, Try.ntmps60
    go_wp2
    go_ret
    exact ⟨rfl, rfl⟩
  · obtain rfl : PP = true := by rw [hPP, h1, h3]; simp
    have x1 := fun wx => index_bt1 s i h2 wx
    rw [h1] at x0
    rw [h3] at x1
    have e1 : ((i : Int) + 1 == (s.size : Int)) = false := by simp; omega
    have e2 : IntKind.i64.wrap ((i : Int) + 1) = (i : Int) + 1 := by simp [IntKind.wrap, IntKind.bits, IntKind.signed]; omega
    clear hPP h1 h2 h3 hi hs hb
    go_enter Try.func60, Try.ntmps60
    go_wp2
    go_ret
    exact ⟨rfl, rfl⟩
  · obtain rfl : PP = true := by rw [hPP, h1]; simp [h4]
    have x1 := fun wx => index_bt1 s i h2 wx
    rw [h1] at x0
    have e1 : ((i : Int) + 1 == (s.size : Int)) = false := by simp; omega
    have e2 : IntKind.i64.wrap ((i : Int) + 1) = (i : Int) + 1 := by simp [IntKind.wrap, IntKind.bits, IntKind.signed]; omega
    have h3' : (((bt s (i + 1) : Nat) : Int) == 0) = false := by simp; omega
    have h5 : (224 : Int) ≤ ((bt s (i + 1) : Nat) : Int) := by omega
    generalize ((bt s (i + 1) : Nat) : Int) = B at *
    clear hPP h1 h2 h3 h4 hi hs hb
    go_enter Try.func60, Try.ntmps60
    go_wp2
    go_ret
    exact ⟨rfl, rfl⟩
  · obtain rfl : PP = false := by rw [hPP, h1]; simp [h3, h4]; omega
    have x1 := fun wx => index_bt1 s i h2 wx
    rw [h1] at x0
    have e1 : ((i : Int) + 1 == (s.size : Int)) = false := by simp; omega
    have e2 : IntKind.i64.wrap ((i : Int) + 1) = (i : Int) + 1 := by simp [IntKind.wrap, IntKind.bits, IntKind.signed]; omega
    have h3' : (((bt s (i + 1) : Nat) : Int) == 0) = false := by simp; omega
    have h5 : decide ((224 : Int) ≤ ((bt s (i + 1) : Nat) : Int)) = false := by rw [decide_eq_false_iff_not]; omega
    generalize ((bt s (i + 1) : Nat) : Int) = B at *
    clear hPP h1 h2 h3 h4 hi hs hb
    go_enter Try.func60, Try.ntmps60
    go_wp2
    go_ret
    exact ⟨rfl, rfl⟩
set_option maxRecDepth 100000 in
set_option maxHeartbeats 2000000 in
theorem extra_any (s : ByteArray) (w : World) (hs : s.size ≤ 4000) : Calls Try.prog 38 #[.string s] w fun e w' => e = .returned (.int .i64 ((extL s.data.toList : Nat) : Int)) ∧ w = w' := by
  have HLK := Lib.hid (fun i W h => sounds_any s i W h hs)
  have HX := Lib.hid (fun i h => ext_at s i h)
  have hle := ext_le s.data.toList
  rw [size_list] at hle
  obtain ⟨R, hR⟩ : ∃ R, R = extL s.data.toList := ⟨_, rfl⟩
  rw [← hR] at hle ⊢
  have HR := Lib.hid hR
  clear hR
  go_enter Try.func38, Try.ntmps38
  go_wp2_with fail
  go_loopw [3, 7] (fun e i wr => ∃ j E : Nat, j ≤ s.size ∧ i = .int .i64 j ∧ e = .int .i64 E ∧ Hid (E + extL (s.data.toList.drop j) = R) ∧ w = wr) (fun _ i _ => s.size - (RowKit.intOf i).toNat)
  case atStart => exact ⟨0, 0, by omega, rfl, rfl, Lib.hid (by rw [HR.out]; simp), rfl⟩
  case round =>
    obtain ⟨j, E, hj, rfl, rfl, hE, rfl⟩ := hrel
    by_cases hlt : j < s.size
    · have j0 : (0 : Int) ≤ (j : Int) := by omega
      have j1 : (j : Int) < (s.size : Int) := by omega
      have hx := HX.out j hlt
      have HK := Lib.hid (fun W => HLK.out j W hlt)
      have hE2 := hE.out
      have e0 : (E : Int) ≤ 4000 := by omega
      have e2 : IntKind.i64.wrap ((j : Int) + 1) = (j : Int) + 1 := wrap64 (by omega) (by omega)
      have e3 : IntKind.i64.wrap ((E : Int) + 1) = (E : Int) + 1 := wrap64 (by omega) (by omega)
      cases hk : lkA s j with
      | true =>
        rw [hk] at HK hx
        have HE2 : Hid ((E + 1) + extL (s.data.toList.drop (j + 1)) = R) := Lib.hid (by rw [if_pos rfl] at hx; omega)
        clear hk hx hE2
        go_wp2_with (go_at_call 60; refine (HK.out _).mono ?_; rintro e1 w1 ⟨rfl, rfl⟩)
        go_roundw
        case rel => exact ⟨j + 1, E + 1, by omega, by go_num, by go_num, HE2, trivial⟩
        case measure => simp [RowKit.intOf]; omega
      | false =>
        rw [hk] at HK hx
        have HE2 : Hid (E + extL (s.data.toList.drop (j + 1)) = R) := Lib.hid (by rw [if_neg (by simp)] at hx; omega)
        clear hk hx hE2
        go_wp2_with (go_at_call 60; refine (HK.out _).mono ?_; rintro e1 w1 ⟨rfl, rfl⟩)
        go_roundw
        case rel => exact ⟨j + 1, E, by omega, by go_num, rfl, HE2, trivial⟩
        case measure => simp [RowKit.intOf]; omega
    · obtain rfl : j = s.size := by omega
      have hEE : E = R := by rw [← hE.out, drop_end s s.size (Nat.le_refl _)]; simp [extL]
      subst hEE
      clear hE
      go_wp2_with fail
      go_ret
      exact ⟨rfl, rfl⟩
theorem clean_any (s : ByteArray) (w : World) (hs : s.size ≤ 4000) : Calls Try.prog 71 #[.string s] w fun e w' => e = .returned (.bool (extL s.data.toList == 0)) ∧ w = w' := by
  have HE := Lib.hid (extra_any s w hs)
  have hz : ((((extL s.data.toList : Nat)) : Int) == 0) = (extL s.data.toList == 0) := by rw [Bool.eq_iff_iff]; simp
  generalize extL s.data.toList = E at *
  go_enter Try.func71, Try.ntmps71
  go_wp2_with (go_at_call 38; refine (HE.out).mono ?_; rintro e1 w1 ⟨rfl, rfl⟩)
  go_ret
  exact ⟨rfl, rfl⟩
set_option maxRecDepth 100000 in
set_option maxHeartbeats 4000000 in
theorem put_any (s : ByteArray) (w : World) (hs : s.size ≤ 4000) : Calls Try.prog 62 #[.string s] w fun e w' => e = .returned (.string (bs (putL s.data.toList))) ∧ Below w.heap.size w w' := by
  have HLK := Lib.hid (fun i W h => sounds_any s i W h hs)
  have HX := Lib.hid (fun i h => put_at s i h)
  have HE := Lib.hid (extra_any s w hs)
  have hle := ext_le s.data.toList
  rw [size_list] at hle
  obtain ⟨E, hE⟩ : ∃ E, E = extL s.data.toList := ⟨_, rfl⟩
  rw [← hE] at hle HE
  clear hE
  obtain ⟨R, hR⟩ : ∃ R, R = putL s.data.toList := ⟨_, rfl⟩
  rw [← hR]
  have HR := Lib.hid hR
  clear hR
  have hmk := mk_bytes (s.size + E) (by omega)
  rw [show ((s.size + E : Nat) : Int) = (s.size : Int) + (E : Int) by omega] at hmk
  have e9 : IntKind.i64.wrap ((s.size : Int) + (E : Int)) = (s.size : Int) + (E : Int) := wrap64 (by omega) (by omega)
  go_enter Try.func62, Try.ntmps62
  go_wp2_with (go_at_call 38; refine (HE.out).mono ?_; rintro e1 w1 ⟨rfl, rfl⟩)
  go_loopw [3, 13] (fun vv i wr => ∃ (j : Nat) (pre : List UInt8), j ≤ s.size ∧ i = .int .i64 j ∧ pre.length ≤ 2 * j ∧ Hid (pre ++ putL (s.data.toList.drop j) = R) ∧ Hid (wr.ownsRow w.heap.size 5 1 vv pre.length (bv pre)) ∧ Hid (Below w.heap.size w wr)) (fun _ i _ => s.size - (RowKit.intOf i).toNat)
  case atStart =>
    refine ⟨0, [], by omega, rfl, by simp, Lib.hid (by rw [HR.out]; simp), Lib.hid ?_, Lib.hid ((Below.refl _ _).alloc (Nat.le_refl _) _)⟩
    exact World.ownsRow_made w _ (s.size + E) (Nat.le_refl _) (by unfold maxLen; omega) (by simp [madeCells])
  case round =>
    obtain ⟨j, pre, hj, rfl, hpl, hQ, HOW, HB⟩ := hrel
    obtain ⟨i0, hi0, hzz⟩ := Option.map_eq_some_iff.1 byte_info
    simp only [Prod.mk.injEq] at hzz
    obtain ⟨hz, hsi, hby⟩ := hzz
    by_cases hlt : j < s.size
    · have j0 : (0 : Int) ≤ (j : Int) := by omega
      have j1 : (j : Int) < (s.size : Int) := by omega
      have hx := HX.out j hlt
      have HK := Lib.hid (fun W => HLK.out j W hlt)
      have x2 := fun wx => index_bt s j hlt wx
      have hbs := HB.out.size
      have hxv : ∃ x : UInt8, s.data.toList.getD j 0 = x ∧ bt s j = x.toNat := ⟨_, rfl, rfl⟩
      obtain ⟨x, hx1, hx2⟩ := hxv
      rw [hx1] at hx
      rw [hx2] at x2
      have e2 : IntKind.i64.wrap ((j : Int) + 1) = (j : Int) + 1 := wrap64 (by omega) (by omega)
      cases hk : lkA s j with
      | true =>
        rw [hk] at HK hx
        have HQ2 : Hid ((pre ++ [x] ++ [0]) ++ putL (s.data.toList.drop (j + 1)) = R) := Lib.hid (by rw [← hQ.out, hx]; simp)
        clear hk hx hx1 hx2
        go_wp2_with (first | (at_builtin; refine wpList_append_own _ rfl _ _ 82 rfl w.heap.size 5 i0 (.int .u8 0) 1 1 Try.underlying82 hi0 hz hsi hby rfl (by decide) _ _ _ rfl (HOW.out.alloc _) ⟨wr.heap.size, 0, none⟩ 1 1 [.int .u8 (x.toNat : Int)] rfl rfl ?c1 ?c2 ?c3 ?c4 ?c5 ?_))
        case c1 =>
          intro j u hj
          match j, hj with
          | 0, hj =>
            simp at hj
            subst hj
            have e : (⟨wr.heap.size, 0, none⟩ : Addr).add 0 = ⟨wr.heap.size, 0, none⟩ := by simp [Addr.add]
            rw [e, World.cell?_alloc_mark]; rfl
          | (j + 1), hj => simp at hj
        case c2 => intro u hu; simp at hu; subst hu; rfl
        case c3 => unfold maxLen; omega
        case c4 => omega
        case c5 => simp; omega
        intro v5 w5 hown5 hgrow5 _
        have O5 := Lib.hid hown5
        have B5 := Lib.hid (below_grown HB.out (by have := HB.out.size; omega) HOW.out hgrow5)
        clear hown5 hgrow5
        have hz6 := B5.out.size
        go_wp2_with (first | (go_at_call 60; refine (HK.out _).mono ?_; rintro e1 w1 ⟨rfl, rfl⟩) | (at_builtin; refine wpList_append_own _ rfl _ _ 82 rfl w.heap.size 5 i0 (.int .u8 0) 1 1 Try.underlying82 hi0 hz hsi hby rfl (by decide) _ _ _ rfl (O5.out.alloc _) ⟨w5.heap.size, 0, none⟩ 1 1 [.int .u8 0] rfl rfl ?c1 ?c2 ?c3 ?c4 ?c5 ?_))
        case c1 =>
          intro j u hj
          match j, hj with
          | 0, hj =>
            simp at hj
            subst hj
            have e : (⟨w5.heap.size, 0, none⟩ : Addr).add 0 = ⟨w5.heap.size, 0, none⟩ := by simp [Addr.add]
            rw [e, World.cell?_alloc_mark]; rfl
          | (j + 1), hj => simp at hj
        case c2 => intro u hu; simp at hu; subst hu; rfl
        case c3 => unfold maxLen; omega
        case c4 => omega
        case c5 => simp; omega
        intro v6 w6 hown6 hgrow6 _
        have O6 := Lib.hid hown6
        have B6 := Lib.hid (below_grown B5.out (by have := B5.out.size; omega) O5.out hgrow6)
        clear hown6 hgrow6
        go_wp2_with fail
        go_roundw
        case rel => exact ⟨j + 1, pre ++ [x] ++ [0], by omega, by go_num, by simp; omega, HQ2, Lib.hid (by rw [show bv (pre ++ [x] ++ [0]) = bv pre ++ [.int .u8 (x.toNat : Int), .int .u8 0] by simp [bv], List.length_append, List.length_append]; exact O6.out), B6⟩
        case measure => simp [RowKit.intOf]; omega
      | false =>
        rw [hk] at HK hx
        have HQ2 : Hid ((pre ++ [x]) ++ putL (s.data.toList.drop (j + 1)) = R) := Lib.hid (by rw [← hQ.out, hx]; simp)
        clear hk hx hx1 hx2
        go_wp2_with (first | (at_builtin; refine wpList_append_own _ rfl _ _ 82 rfl w.heap.size 5 i0 (.int .u8 0) 1 1 Try.underlying82 hi0 hz hsi hby rfl (by decide) _ _ _ rfl (HOW.out.alloc _) ⟨wr.heap.size, 0, none⟩ 1 1 [.int .u8 (x.toNat : Int)] rfl rfl ?c1 ?c2 ?c3 ?c4 ?c5 ?_))
        case c1 =>
          intro j u hj
          match j, hj with
          | 0, hj =>
            simp at hj
            subst hj
            have e : (⟨wr.heap.size, 0, none⟩ : Addr).add 0 = ⟨wr.heap.size, 0, none⟩ := by simp [Addr.add]
            rw [e, World.cell?_alloc_mark]; rfl
          | (j + 1), hj => simp at hj
        case c2 => intro u hu; simp at hu; subst hu; rfl
        case c3 => unfold maxLen; omega
        case c4 => omega
        case c5 => simp; omega
        intro v5 w5 hown5 hgrow5 _
        have O5 := Lib.hid hown5
        have B5 := Lib.hid (below_grown HB.out (by have := HB.out.size; omega) HOW.out hgrow5)
        clear hown5 hgrow5
        go_wp2_with (first | (go_at_call 60; refine (HK.out _).mono ?_; rintro e1 w1 ⟨rfl, rfl⟩))
        go_roundw
        case rel => exact ⟨j + 1, pre ++ [x], by omega, by go_num, by simp; omega, HQ2, Lib.hid (by rw [bv_app, List.length_append]; exact O5.out), B5⟩
        case measure => simp [RowKit.intOf]; omega
    · obtain rfl : j = s.size := by omega
      have hr : pre = R := by rw [← hQ.out, drop_end s s.size (Nat.le_refl _)]; simp [putL]
      have hcv := conv_bytes wr w.heap.size _ pre HOW.out
      rw [hr, show (⟨R.toArray⟩ : ByteArray) = bs R from rfl] at hcv
      obtain ⟨T, hT⟩ : ∃ T, T = bs R := ⟨_, rfl⟩
      rw [← hT] at hcv
      have HT := Lib.hid hT
      clear hQ hr hT
      go_wp2_with fail
      go_ret
      exact ⟨congrArg (fun z => Ending.returned (.string z)) HT.out, HB.out⟩
/-- What is left to be written, from a place on. -/
def remD (s : ByteArray) (j : Nat) : List UInt8 := if 0 < j ∧ j < s.size ∧ bt s (j - 1) = 255 ∧ bt s j = 0 then drpL (s.data.toList.drop (j + 1)) else drpL (s.data.toList.drop j)
theorem rem_skip (s : ByteArray) (j : Nat) (h0 : 0 < j) (h : j < s.size) (h1 : bt s (j - 1) = 255) (h2 : bt s j = 0) : remD s j = remD s (j + 1) := by
  unfold remD
  rw [if_pos ⟨h0, h, h1, h2⟩, if_neg (by rw [Nat.add_sub_cancel]; omega)]
theorem rem_keep (s : ByteArray) (j : Nat) (h : j < s.size) (hn : ¬ (0 < j ∧ bt s (j - 1) = 255 ∧ bt s j = 0)) : remD s j = s.data.toList.getD j 0 :: remD s (j + 1) := by
  unfold remD
  rw [if_neg (by omega), drp_at s j h, Nat.add_sub_cancel]
  by_cases hc : bt s j = 255 ∧ j + 1 < s.size ∧ bt s (j + 1) = 0
  · rw [if_pos hc, if_pos (by omega)]
  · rw [if_neg hc, if_neg (by omega)]
set_option maxRecDepth 100000 in
set_option maxHeartbeats 4000000 in
theorem drop_any (s : ByteArray) (w : World) (hs : s.size ≤ 4000) : Calls Try.prog 68 #[.string s] w fun e w' => e = .returned (.string (bs (drpL s.data.toList))) ∧ Below w.heap.size w w' := by
  have HX := Lib.hid (fun i h => rem_keep s i h)
  have HS := Lib.hid (fun i => rem_skip s i)
  obtain ⟨R, hR⟩ : ∃ R, R = drpL s.data.toList := ⟨_, rfl⟩
  rw [← hR]
  have HR := Lib.hid hR
  clear hR
  have hmk := mk_bytes s.size (by omega)
  have hss : (s.size : Int) ≤ 4000 := by omega
  go_enter Try.func68, Try.ntmps68
  go_wp2_with fail
  go_loopw [3, 10] (fun vv i wr => ∃ (j : Nat) (pre : List UInt8), j ≤ s.size ∧ i = .int .i64 j ∧ pre.length ≤ j ∧ Hid (pre ++ remD s j = R) ∧ Hid (wr.ownsRow w.heap.size 5 1 vv pre.length (bv pre)) ∧ Hid (Below w.heap.size w wr)) (fun _ i _ => s.size - (RowKit.intOf i).toNat)
  case atStart =>
    refine ⟨0, [], by omega, rfl, by simp, Lib.hid (by rw [HR.out]; unfold remD; rw [if_neg (by omega)]; simp), Lib.hid ?_, Lib.hid ((Below.refl _ _).alloc (Nat.le_refl _) _)⟩
    exact World.ownsRow_made w _ s.size (Nat.le_refl _) (by unfold maxLen; omega) (by simp [madeCells])
  case round =>
    obtain ⟨j, pre, hj, rfl, hpl, hQ, HOW, HB⟩ := hrel
    obtain ⟨i0, hi0, hzz⟩ := Option.map_eq_some_iff.1 byte_info
    simp only [Prod.mk.injEq] at hzz
    obtain ⟨hz, hsi, hby⟩ := hzz
    by_cases hlt : j < s.size
    · have j0 : (0 : Int) ≤ (j : Int) := by omega
      have j1 : (j : Int) < (s.size : Int) := by omega
      have x2 := fun wx => index_bt s j hlt wx
      have hbs := HB.out.size
      have e2 : IntKind.i64.wrap ((j : Int) + 1) = (j : Int) + 1 := wrap64 (by omega) (by omega)
      have hxv : ∃ x : UInt8, s.data.toList.getD j 0 = x ∧ bt s j = x.toNat := ⟨_, rfl, rfl⟩
      obtain ⟨x, hx1, hx2⟩ := hxv
      have hc : bt s j ≠ 0 ∨ (bt s j = 0 ∧ j = 0) ∨ (bt s j = 0 ∧ 0 < j ∧ bt s (j - 1) ≠ 255) ∨ (bt s j = 0 ∧ 0 < j ∧ bt s (j - 1) = 255) := by omega
      rcases hc with h1 | ⟨h1, h2⟩ | ⟨h1, h2, h3⟩ | ⟨h1, h2, h3⟩
      · have HQ2 : Hid ((pre ++ [x]) ++ remD s (j + 1) = R) := Lib.hid (by rw [← hQ.out, HX.out j hlt (by omega), hx1]; simp)
        rw [hx2] at x2
        have n1 : (((x.toNat : Nat) : Int) == 0) = false := by simp; omega
        obtain ⟨B, hBx⟩ : ∃ B : Int, B = ((x.toNat : Nat) : Int) := ⟨_, rfl⟩
        rw [← hBx] at x2 n1
        have HBX := Lib.hid hBx
        clear hx1 hx2 h1 hBx
        go_wp2_with (first | (at_builtin; refine wpList_append_own _ rfl _ _ 82 rfl w.heap.size 5 i0 (.int .u8 0) 1 1 Try.underlying82 hi0 hz hsi hby rfl (by decide) _ _ _ rfl (HOW.out.alloc _) ⟨wr.heap.size, 0, none⟩ 1 1 [.int .u8 B] rfl rfl ?c1 ?c2 ?c3 ?c4 ?c5 ?_))
        case c1 =>
          intro j u hj
          match j, hj with
          | 0, hj =>
            simp at hj
            subst hj
            have e : (⟨wr.heap.size, 0, none⟩ : Addr).add 0 = ⟨wr.heap.size, 0, none⟩ := by simp [Addr.add]
            rw [e, World.cell?_alloc_mark]; rfl
          | (j + 1), hj => simp at hj
        case c2 => intro u hu; simp at hu; subst hu; rfl
        case c3 => unfold maxLen; omega
        case c4 => omega
        case c5 => simp; omega
        intro v5 w5 hown5 hgrow5 _
        have O5 := Lib.hid hown5
        have B5 := Lib.hid (below_grown HB.out (by have := HB.out.size; omega) HOW.out hgrow5)
        clear hown5 hgrow5
        go_wp2_with fail
        go_roundw
        case rel => exact ⟨j + 1, pre ++ [x], by omega, by go_num, by simp; omega, HQ2, Lib.hid (by rw [bv_app, List.length_append, show bv [x] = [.int .u8 ((x.toNat : Nat) : Int)] from rfl, ← HBX.out]; exact O5.out), B5⟩
        case measure => simp [RowKit.intOf]; omega
      · have HQ2 : Hid ((pre ++ [x]) ++ remD s (j + 1) = R) := Lib.hid (by rw [← hQ.out, HX.out j hlt (by omega), hx1]; simp)
        have n1 : decide ((0 : Int) < (j : Int)) = false := by rw [decide_eq_false_iff_not]; omega
        have n3 : decide (0 < j) = false := by rw [decide_eq_false_iff_not]; omega
        rw [h1, show (((0 : Nat)) : Int) = 0 from rfl] at x2
        have hBx : (0 : Int) = ((x.toNat : Nat) : Int) := by rw [← hx2, h1]; rfl
        have HBX := Lib.hid hBx
        clear hx1 hx2 h1 h2 hBx
        go_wp2_with (first | (at_builtin; refine wpList_append_own _ rfl _ _ 82 rfl w.heap.size 5 i0 (.int .u8 0) 1 1 Try.underlying82 hi0 hz hsi hby rfl (by decide) _ _ _ rfl (HOW.out.alloc _) ⟨wr.heap.size, 0, none⟩ 1 1 [.int .u8 0] rfl rfl ?c1 ?c2 ?c3 ?c4 ?c5 ?_))
        case c1 =>
          intro j u hj
          match j, hj with
          | 0, hj =>
            simp at hj
            subst hj
            have e : (⟨wr.heap.size, 0, none⟩ : Addr).add 0 = ⟨wr.heap.size, 0, none⟩ := by simp [Addr.add]
            rw [e, World.cell?_alloc_mark]; rfl
          | (j + 1), hj => simp at hj
        case c2 => intro u hu; simp at hu; subst hu; rfl
        case c3 => unfold maxLen; omega
        case c4 => omega
        case c5 => simp; omega
        intro v5 w5 hown5 hgrow5 _
        have O5 := Lib.hid hown5
        have B5 := Lib.hid (below_grown HB.out (by have := HB.out.size; omega) HOW.out hgrow5)
        clear hown5 hgrow5
        go_wp2_with fail
        go_roundw
        case rel => exact ⟨j + 1, pre ++ [x], by omega, by go_num, by simp; omega, HQ2, Lib.hid (by rw [bv_app, List.length_append, show bv [x] = [.int .u8 ((x.toNat : Nat) : Int)] from rfl, ← HBX.out]; exact O5.out), B5⟩
        case measure => simp [RowKit.intOf]; omega
      · have HQ2 : Hid ((pre ++ [x]) ++ remD s (j + 1) = R) := Lib.hid (by rw [← hQ.out, HX.out j hlt (by omega), hx1]; simp)
        rw [h1, show (((0 : Nat)) : Int) = 0 from rfl] at x2
        have hBx : (0 : Int) = ((x.toNat : Nat) : Int) := by rw [← hx2, h1]; rfl
        have x3 := fun wx => index_bt s (j - 1) (by omega) wx
        rw [show (((j - 1 : Nat)) : Int) = (j : Int) - 1 by omega] at x3
        have e3 : IntKind.i64.wrap ((j : Int) - 1) = (j : Int) - 1 := wrap64 (by omega) (by omega)
        have n1 : (0 : Int) < (j : Int) := by omega
        have n2 : (((bt s (j - 1) : Nat) : Int) == 255) = false := by simp; omega
        generalize ((bt s (j - 1) : Nat) : Int) = B3 at *
        have HBX := Lib.hid hBx
        clear hx1 hx2 h1 h2 h3 hBx
        go_wp2_with (first | (at_builtin; refine wpList_append_own _ rfl _ _ 82 rfl w.heap.size 5 i0 (.int .u8 0) 1 1 Try.underlying82 hi0 hz hsi hby rfl (by decide) _ _ _ rfl (HOW.out.alloc _) ⟨wr.heap.size, 0, none⟩ 1 1 [.int .u8 0] rfl rfl ?c1 ?c2 ?c3 ?c4 ?c5 ?_))
        case c1 =>
          intro j u hj
          match j, hj with
          | 0, hj =>
            simp at hj
            subst hj
            have e : (⟨wr.heap.size, 0, none⟩ : Addr).add 0 = ⟨wr.heap.size, 0, none⟩ := by simp [Addr.add]
            rw [e, World.cell?_alloc_mark]; rfl
          | (j + 1), hj => simp at hj
        case c2 => intro u hu; simp at hu; subst hu; rfl
        case c3 => unfold maxLen; omega
        case c4 => omega
        case c5 => simp; omega
        intro v5 w5 hown5 hgrow5 _
        have O5 := Lib.hid hown5
        have B5 := Lib.hid (below_grown HB.out (by have := HB.out.size; omega) HOW.out hgrow5)
        clear hown5 hgrow5
        go_wp2_with fail
        go_roundw
        case rel => exact ⟨j + 1, pre ++ [x], by omega, by go_num, by simp; omega, HQ2, Lib.hid (by rw [bv_app, List.length_append, show bv [x] = [.int .u8 ((x.toNat : Nat) : Int)] from rfl, ← HBX.out]; exact O5.out), B5⟩
        case measure => simp [RowKit.intOf]; omega
      · have HQ2 : Hid (pre ++ remD s (j + 1) = R) := Lib.hid (by rw [← hQ.out, HS.out j h2 hlt h3 h1])
        rw [h1] at x2
        have x3 := fun wx => index_bt s (j - 1) (by omega) wx
        rw [h3, show (((j - 1 : Nat)) : Int) = (j : Int) - 1 by omega] at x3
        have e3 : IntKind.i64.wrap ((j : Int) - 1) = (j : Int) - 1 := wrap64 (by omega) (by omega)
        have n1 : (0 : Int) < (j : Int) := by omega
        clear hx1 hx2 h1 h2 h3
        go_wp2_with fail
        go_roundw
        case rel => exact ⟨j + 1, pre, by omega, by go_num, by omega, HQ2, HOW, HB⟩
        case measure => simp [RowKit.intOf]; omega
    · obtain rfl : j = s.size := by omega
      have hr : pre = R := by rw [← hQ.out]; unfold remD; rw [if_neg (by omega), drop_end s s.size (Nat.le_refl _)]; simp [drpL]
      have hcv := conv_bytes wr w.heap.size _ pre HOW.out
      rw [hr, show (⟨R.toArray⟩ : ByteArray) = bs R from rfl] at hcv
      obtain ⟨T, hT⟩ : ∃ T, T = bs R := ⟨_, rfl⟩
      rw [← hT] at hcv
      have HT := Lib.hid hT
      clear hQ hr hT
      go_wp2_with fail
      go_ret
      exact ⟨congrArg (fun z => Ending.returned (.string z)) HT.out, HB.out⟩
/-- What the walks ask of the landed unsync. -/
theorem un_land : Un (fun _ => True) :=
  ⟨fun _ _ _ _ => trivial,
   fun s w _ h => (clean_any s w h).mono fun _ _ ⟨he, hw⟩ => ⟨he, hw ▸ Below.refl _ _⟩,
   fun s w _ h => put_any s w h,
   fun s w _ h => drop_any s w h,
   fun s w _ h => (extra_any s w h).mono fun _ _ ⟨he, hw⟩ => ⟨he, hw ▸ Below.refl _ _⟩⟩
end Go.Proofs.Ytkhajafjieofhaa.un
