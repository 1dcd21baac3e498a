/- The walk of the law WideBack of layer 3. -/
import Derived.Test.YtmogjimiiadmmaaDoorWdWritesW
namespace Go.Proofs.YtmogjimiiadmmaaDoor.wd
open Go.RowKit Go.Lib
set_option linter.unusedVariables false
set_option maxRecDepth 100000 in
theorem back_big (s : ByteArray) (w : World) (hbig : 2000 < s.size) (hs : s.size ≤ 9223372036854775807) (hT : pt.Tabs w) : Calls Tryd.prog 8 #[.string s] w fun e w' => e = .returned (.bool true) ∧ Below w.heap.size w w' := by
  have HA := Lib.hid (awake_any w hT)
  clear hT
  go_enter Tryd.func8, Tryd.ntmps8
  go_wp2_with (go_at_call 19; refine HA.out.mono ?_; rintro e1 w1 ⟨rfl, hb1⟩)
  go_ret
  exact ⟨rfl, hb1⟩
set_option maxRecDepth 100000 in
set_option maxHeartbeats 1000000 in
theorem back_bad (s : ByteArray) (A : Nat) (w : World) (hs : s.size ≤ 2000) (hT : pt.Tabs w) (h : (pt.scan s).2 = some A) : Calls Tryd.prog 8 #[.string s] w fun e w' => e = .returned (.bool true) ∧ Below w.heap.size w w' := by
  have HE := Lib.hid (fun w2 hT2 => WithMark_bad s A w2 (by omega) hT2 h)
  have HP := Lib.hid (fun w2 => pt.refPoints_none s A w2 (by omega) h)
  have HT := Lib.hid hT
  clear hT h
  go_enter Tryd.func8, Tryd.ntmps8
  go_wp2_with (first | (go_at_call 24; refine (HP.out _).mono ?_; rintro e1 w1 ⟨rfl, hb1⟩) | (go_at_call 28; refine (HE.out _ (HT.out.below hb1)).mono ?_; rintro e2 w2 ⟨rfl, hb2⟩; have S2 := Lib.hid (St.new (e := 2) (f := (A : Int)) HT.out (hb1.trans (hb2.mono hb1.size))); clear hb1 hb2))
  have S3 := Lib.hid S2.out.drew
  obtain ⟨_, c0, c1, _, _⟩ := S2.out.f
  obtain ⟨X, hX⟩ : ∃ X, X = w2.heap.size := ⟨_, rfl⟩
  obtain ⟨W, hW⟩ : ∃ W, W = w2.alloc (.cells #[.int .i64 2, .int .i64 (A : Int)] 29) := ⟨_, rfl⟩
  rw [← hW, ← hX] at c0 c1 S3
  rw [← hW, ← hX]
  clear S2 hX hW
  go_region_held3 (fun w' => w'.cell? ⟨X, 0, none⟩ = some (.int .i64 2) ∧ w'.cell? ⟨X, 1, none⟩ = some (.int .i64 A)) (go_keep) (first | (go_at_call 19; refine (awake_any _ S3.out.t).mono ?_; rintro e9 w9 ⟨rfl, hb9⟩; have S9 := Lib.hid (S3.out.below hb9); obtain ⟨_, k0, k1, _, _⟩ := S9.out.f) | (go_at_call 22; refine (fault_at _ _).mono ?_; rintro e4 w4 ⟨rfl, hb4⟩; have S4 := Lib.hid (S9.out.below hb4); obtain ⟨_, k0, k1, _, _⟩ := S4.out.f))
  all_goals go_wp2_with fail
  all_goals
    go_ret
    exact ⟨rfl, S4.out.bel⟩
theorem uss_nums : ∀ zs : List Int, zs.all validRune = true → (uss zs).length ≤ (pt.nums zs).length
  | [], _ => Nat.le_refl _
  | x :: zs, h => by
    simp only [List.all_cons, Bool.and_eq_true] at h
    have ih := uss_nums zs h.2
    have hr := valid_range h.1
    have e1 : (uss (x :: zs)).length = (us x).length + (uss zs).length := by simp [uss]
    have e2 : (pt.nums (x :: zs)).length = (encodeRuneZ x).length + (pt.nums zs).length := by simp [pt.nums]
    have h1 := (encodeRuneZ_length x).1
    rw [e1, e2, us_len]
    split
    · omega
    · rw [encodeRuneZ_four (by omega) (by omega)]; simp; omega
theorem mark_of (B : ByteArray) : bigMark (⟨#[255, 254]⟩ ++ B) = false ∧ (bigMark (⟨#[255, 254]⟩ ++ B) || littleMark (⟨#[255, 254]⟩ ++ B)) = true ∧ (⟨#[255, 254]⟩ ++ B : ByteArray).extract 2 (⟨#[255, 254]⟩ ++ B : ByteArray).size = B ∧ (⟨#[255, 254]⟩ ++ B : ByteArray).size = 2 + B.size := by
  have e : (⟨#[255, 254]⟩ ++ B : ByteArray).data.toList = 255 :: 254 :: B.data.toList := by rw [data_app]; rfl
  have h1 : bigMark (⟨#[255, 254]⟩ ++ B) = false := by unfold bigMark Lib.hasPrefix; rw [e]; rfl
  have h2 : littleMark (⟨#[255, 254]⟩ ++ B) = true := by unfold littleMark Lib.hasPrefix; rw [e]; simp
  have h4 : (⟨#[255, 254]⟩ ++ B : ByteArray).size = 2 + B.size := by rw [ByteArray.size_append]; rfl
  refine ⟨h1, by rw [h1, h2]; rfl, ?_, h4⟩
  apply ByteArray.ext
  apply Array.ext'
  have h5 : ((⟨#[255, 254]⟩ ++ B : ByteArray).extract 2 (⟨#[255, 254]⟩ ++ B : ByteArray).size).data.toList = ((⟨#[255, 254]⟩ ++ B : ByteArray).data.toList).drop 2 := by
    rw [ByteArray.data_extract, Array.toList_extract]
    rw [List.extract_eq_take_drop]
    apply List.take_of_length_le
    rw [List.length_drop, Array.length_toList]
    exact Nat.le_refl _
  rw [h5, e]; rfl
set_option maxRecDepth 100000 in
set_option maxHeartbeats 1000000 in
theorem back_good (s : ByteArray) (w : World) (hs : s.size ≤ 2000) (hT : pt.Tabs w) (h : (pt.scan s).2 = none) : Calls Tryd.prog 8 #[.string s] w fun e w' => e = .returned (.bool true) ∧ Below w.heap.size w w' := by
  have hv := pt.zsOf_valid s
  have hln : (pt.zsOf s).length ≤ 2000 := by
    have := pt.sc_len s s.size 0
    rw [pt.zsOf_len]; unfold pt.scan; omega
  obtain ⟨N, hN⟩ : ∃ N, N = (pt.zsOf s).length := ⟨_, rfl⟩
  have HE := Lib.hid (fun w2 hT2 => WithMark_good s w2 (by omega) hT2 h)
  have HP := Lib.hid (fun w2 => pt.refPoints_row s N w2 (by omega) h hN.symm)
  have htb := pt.txt_back s h
  generalize pt.zsOf s = zs at *
  have hul := uss_nums zs hv
  have hsn := pt.txt_size zs
  rw [htb] at hsn
  have hwz := wb_size false zs
  have hmk := mark_of (wb false zs)
  have hd := fun w2 => Marked_yes (⟨#[255, 254]⟩ ++ wb false zs) false w2 (by omega) (by omega) hmk.1 hmk.2.1
  have hw := wscan_wb false zs hv
  have ht : wt (wscan (wb false zs) false) = s := by unfold wt; rw [hw]; exact htb
  rw [hmk.2.2.1, ht, hw] at hd
  simp only [pt.fe, fb] at hd
  obtain ⟨B, hB⟩ : ∃ B, B = (⟨#[255, 254]⟩ : ByteArray) ++ wb false zs := ⟨_, rfl⟩
  have hBz : B.size = 2 + 2 * (uss zs).length := by rw [hB, hmk.2.2.2, hwz]
  rw [← hB] at hd HE
  have HD := Lib.hid hd; have HT := Lib.hid hT; have HBZ := Lib.hid hBz; have HN := Lib.hid hN
  clear hd hT h hw ht hwz hul hsn htb hv hmk hB hBz
  have hn4 : N ≤ 2000 := by omega
  clear hln hN
  go_enter Tryd.func8, Tryd.ntmps8
  go_wp2_with (first | (go_at_call 24; refine (HP.out _).mono ?_; rintro e1 w1 ⟨q, d, rfl, hr1, hb1⟩) | (go_at_call 28; refine (HE.out _ (HT.out.below hb1)).mono ?_; rintro e2 w2 ⟨rfl, hb2⟩; have S2 : Hid (Sr w w2.heap.size 0 0 q N d zs (w2.alloc (.cells #[.int .i64 0, .int .i64 0] 29))) := Lib.hid ⟨St.new (e := 0) (f := 0) HT.out (hb1.trans (hb2.mono hb1.size)), (hr1.below hb2).below ((Below.refl _ _).alloc (Nat.le_refl _) _)⟩; clear hb1 hb2 hr1))
  go_loop [7, 41] (fun t i => ∃ j : Nat, j ≤ N ∧ i = .int .i64 j ∧ t = .int .i64 (2 + 2 * ((uss (zs.take j)).length : Int))) (fun _ i => N - (RowKit.intOf i).toNat)
  case atStart => exact ⟨0, Nat.zero_le _, rfl, by simp [uss]⟩
  case round =>
    obtain ⟨j, hj, rfl, rfl⟩ := hrel
    by_cases hlt : j < N
    · obtain ⟨a, rfl, a1, a2, a3⟩ := S2.out.r.at j hlt
      unfold maxLen at a2
      have hjl : j < zs.length := by have := HN.out; omega
      have htk : Hid (zs.take (j + 1) = zs.take j ++ [zs.getD j 0]) := Lib.hid (by rw [List.take_add_one, List.getElem?_eq_getElem hjl]; simp [List.getD, List.getElem?_eq_getElem hjl])
      have hul : (uss (zs.take j)).length ≤ 4000 := by
        have := uss_len (zs.take j)
        have : (zs.take j).length ≤ j := List.length_take_le _ _
        omega
      have hsu := Lib.hid (us_len (zs.getD j 0))
      have happ : Hid ((uss (zs.take (j + 1))).length = (uss (zs.take j)).length + (us (zs.getD j 0)).length) := Lib.hid (by rw [htk.out, uss_app, uss_one, List.length_append])
      generalize zs.getD j 0 = x at *
      generalize (uss (zs.take j)).length = M at *
      clear hjl
      by_cases hx : x < 65536
      · go_wp2_with fail
        go_round
        case rel => exact ⟨j + 1, by omega, by go_num, by have h1 := happ.out; have h2 := hsu.out; rw [if_pos hx] at h2; rw [h1, h2]; go_num⟩
        case measure => simp [RowKit.intOf]; omega
      · have hx2 : 65536 ≤ x := by omega
        go_wp2_with fail
        go_round
        case rel => exact ⟨j + 1, by omega, by go_num, by have h1 := happ.out; have h2 := hsu.out; rw [if_neg hx] at h2; rw [h1, h2]; go_num⟩
        case measure => simp [RowKit.intOf]; omega
    · obtain rfl : j = N := by omega
      have htk : zs.take j = zs := by rw [HN.out]; exact List.take_length
      rw [htk]
      have hbz : (B.size : Int) = 2 + 2 * ((uss zs).length : Int) := by have := HBZ.out; omega
      rw [← hbz]
      have hBB : B.size ≤ 100000 := by
        have := HBZ.out
        have := uss_len zs
        have := HN.out
        omega
      clear htk hbz hlt
      go_wp2_with (first | (go_at_call 27; refine (HD.out _).mono ?_; rintro e5 w5 ⟨rfl, hb5⟩; have S5 := Lib.hid (S2.out.below hb5); have F5 := Lib.hid (pt.f2_new w5 0 0 29); have S6 := Lib.hid (S5.out.below ((Below.refl _ _).alloc (Nat.le_refl _) (.cells #[.int .i64 0, .int .i64 0] 29))); clear hb5) | (go_at_call 19; refine (awake_any _ S6.out.s.t).mono ?_; rintro e9 w9 ⟨rfl, hb9⟩; have S9 := Lib.hid (S6.out.below hb9); have F9 := Lib.hid (F5.out.below hb9 F5.out.lt); obtain ⟨_, k0, k1, _, _⟩ := S9.out.s.f; clear hb9) | (go_at_call 15; refine (pt.bad_any _ 0 0).mono ?_; rintro e10 w10 ⟨rfl, hb10⟩; have S10 := Lib.hid (S9.out.below hb10); have F10 := Lib.hid (F9.out.below hb10 F9.out.lt); obtain ⟨_, l0, l1, _, _⟩ := F10.out; clear hb10 F9 S9) | (go_at_call 15; refine (pt.bad_any _ 0 0).mono ?_; rintro e11 w11 ⟨rfl, hb11⟩; have S11 := Lib.hid (S10.out.below hb11)))
      go_ret
      exact ⟨rfl, S11.out.s.bel⟩
theorem back_walk (s : ByteArray) (w : World) (hs : s.size ≤ maxLen) (hT : pt.Tabs w) : Calls Tryd.prog 8 #[.string s] w fun e w' => e = .returned (.bool true) ∧ Below w.heap.size w w' := by
  unfold maxLen at hs
  by_cases hbig : 2000 < s.size
  · exact back_big s w hbig (by omega) hT
  · cases h : (pt.scan s).2 with
    | none => exact back_good s w (by omega) hT h
    | some A => exact back_bad s A w (by omega) hT h
end Go.Proofs.YtmogjimiiadmmaaDoor.wd
