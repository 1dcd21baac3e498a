/- Encode, WithMark of layer 3: contracts. -/
import Derived.Test.YtmogjimiiadmmaaDoorWd5
import Derived.Lib.Join
import Derived.Deep.RegionHeld3
namespace Go.Proofs.YtmogjimiiadmmaaDoor.wd
open Go.RowKit Go.Lib
set_option linter.unusedVariables false
set_option maxRecDepth 100000 in
theorem Encode_bad (s : ByteArray) (big : Bool) (A : Nat) (w : World) (hs : s.size ≤ 4000) (hT : pt.Tabs w) (h : (pt.scan s).2 = some A) : Calls Tryd.prog 23 #[.string s, .bool big] w fun e w' => e = .returned (.tuple #[.string ⟨#[]⟩, .agg #[.int .i64 2, .int .i64 A]]) ∧ Below w.heap.size w w' := by
  have HP := Lib.hid (fun w2 hT2 => pt.points_bad s A w2 (by omega) hT2 h)
  have HT := Lib.hid hT
  clear hT h
  go_enter Tryd.func23, Tryd.ntmps23
  go_wp2_with (first | (go_at_call 12; refine (HP.out _ (HT.out.below (by repeat (first | (with_reducible exact Below.refl _ _) | (with_reducible refine Below.setCell ?_ (by simp) _) | (with_reducible refine Below.alloc ?_ (by simp) _))))).mono ?_; rintro e1 w1 ⟨rfl, hb1⟩; have q0 : w.heap.size < w1.heap.size := (by have := hb1.size; simp at this; omega); have FB := Lib.hid ((pt.f2_new w 0 0 29).below hb1 (by simp)); have B1 := Lib.hid (((Below.refl w.heap.size w).alloc (Nat.le_refl _) (.cells #[.int .i64 0, .int .i64 0] 29)).trans (hb1.mono (by simp)))) | (go_at_call 15; refine (pt.bad_any _ _ _).mono ?_; rintro e2 w2 ⟨rfl, hb2⟩; obtain ⟨_, a0, a1, g0, g1⟩ := (pt.f2_new w1 2 A 29).below hb2 (by simp); obtain ⟨_, b0, b1, h0, h1⟩ := (FB.out.below ((Below.refl w1.heap.size w1).alloc (Nat.le_refl _) (.cells #[.int .i64 2, .int .i64 A] 29)) q0).below hb2 (by simp; omega)))
  have n0 : ¬ w.heap.size = w1.heap.size := by omega
  have n1 : ¬ w1.heap.size = w.heap.size := by omega
  have HB2 : Below w.heap.size w w2 := (B1.out.alloc (Nat.le_of_lt q0) _).trans (hb2.mono (by simp; omega))
  go_region_held3 (fun w' => w'.cell? ⟨w1.heap.size, 0, none⟩ = some (.int .i64 2) ∧ w'.cell? ⟨w1.heap.size, 1, none⟩ = some (.int .i64 A)) (go_keep) (fail)
  all_goals go_wp2_with fail
  all_goals exact bodyPost_ret (v := .tuple #[.string ⟨#[]⟩, .agg #[.int .i64 2, .int .i64 A]]) (by simp [results, Tryd.results23, go_sem, b0, b1]) rfl ⟨rfl, by refine Below.drew ?_; repeat (first | (with_reducible exact HB2) | (with_reducible exact Below.refl _ _) | (with_reducible refine Below.setCell ?_ (by simp) _) | (with_reducible refine Below.alloc ?_ (by simp; omega) _))⟩
theorem mk_units (n : Nat) (h : n ≤ 8000) (w : World) : (Instr.makeSlice 59 (.int .i64 0) (.int .i64 (n : Int))).run Tryd.prog w = .ok (.slice (some ⟨w.heap.size, 0, none⟩) 0 n) (w.alloc (.cells (madeCells #[.int .u16 0] n) 80)) := by
  obtain ⟨i, hi, hzz⟩ := Option.map_eq_some_iff.1 u16_info
  simp only [Prod.mk.injEq] at hzz
  obtain ⟨hz, hs, hb⟩ := hzz
  have hr := run_make (P := Tryd.prog) w 59 80 i (.int .u16 0) Tryd.underlying59 hi hz .i64 .i64 0 (n : Int) (Int.le_refl _) (by omega) (by rw [hb]; omega) (by omega)
  simp only [Int.toNat_natCast, hs, Nat.mul_one] at hr
  exact hr
theorem uss_app (a b : List Int) : uss (a ++ b) = uss a ++ uss b := by simp [uss]
theorem uss_one (p : Int) : uss [p] = us p := by simp [uss]
set_option maxRecDepth 100000 in
set_option maxHeartbeats 2000000 in
theorem Encode_good (s : ByteArray) (big : Bool) (w : World) (hs : s.size ≤ 4000) (hT : pt.Tabs w) (h : (pt.scan s).2 = none) : Calls Tryd.prog 23 #[.string s, .bool big] w fun e w' => e = .returned (.tuple #[.string (wb big (pt.zsOf s)), .agg #[.int .i64 0, .int .i64 0]]) ∧ Below w.heap.size w w' := by
  have hv := pt.zsOf_valid s
  have hln : (pt.zsOf s).length ≤ 4000 := by
    have := pt.sc_len s s.size 0
    rw [pt.zsOf_len]; unfold pt.scan; omega
  obtain ⟨N, hN⟩ : ∃ N, N = (pt.zsOf s).length := ⟨_, rfl⟩
  have hP := fun w2 hT2 => pt.points_row s N w2 (by omega) hT2 h hN.symm
  rw [← hN] at hln
  generalize pt.zsOf s = zs at *
  obtain ⟨T, hTT⟩ : ∃ T, T = wb big zs := ⟨_, rfl⟩
  rw [← hTT]
  have hmk := fun w2 => mk_units N (by omega) w2
  have HP := Lib.hid hP; have HT := Lib.hid hT; have HV := Lib.hid hv; have HN := Lib.hid hN; have HTT := Lib.hid hTT
  clear hv hN hP hT h hTT
  go_enter Tryd.func23, Tryd.ntmps23
  go_wp2_with (first | (go_at_call 12; refine (HP.out _ (HT.out.below (by repeat (first | (with_reducible exact Below.refl _ _) | (with_reducible refine Below.setCell ?_ (by simp) _) | (with_reducible refine Below.alloc ?_ (by simp) _))))).mono ?_; rintro e1 w1 ⟨q, d, rfl, hr1, hb1⟩; have q0 : w.heap.size < w1.heap.size := (by have := hb1.size; simp at this; omega); have FB := Lib.hid ((pt.f2_new w 0 0 29).below hb1 (by simp)); have B1 := Lib.hid (((Below.refl w.heap.size w).alloc (Nat.le_refl _) (.cells #[.int .i64 0, .int .i64 0] 29)).trans (hb1.mono (by simp))); have RR1 := Lib.hid (hr1.below ((Below.refl w1.heap.size w1).alloc (Nat.le_refl _) (.cells #[.int .i64 0, .int .i64 0] 29))); have FB1 := Lib.hid (FB.out.below ((Below.refl w1.heap.size w1).alloc (Nat.le_refl _) (.cells #[.int .i64 0, .int .i64 0] 29)) q0); clear hr1) | (go_at_call 15; refine (pt.bad_any _ _ _).mono ?_; rintro e2 w2 ⟨rfl, hb2⟩; have F2 := Lib.hid (FB1.out.below hb2 (by simp; omega)); have RR2 := Lib.hid (RR1.out.below hb2); have B2 := Lib.hid ((B1.out.alloc (Nat.le_of_lt q0) (.cells #[.int .i64 0, .int .i64 0] 29)).trans (hb2.mono (by simp; omega))); have q2 : w.heap.size + 1 ≤ w2.heap.size := (by have := hb2.size; simp at this; omega)))
  clear hb1 hb2
  clear hmk FB FB1 RR1 B1
  go_loopw [8, 24] (fun v i wr => ∃ j : Nat, j ≤ N ∧ i = .int .i64 j ∧ wr.ownsRow w2.heap.size 80 1 v (uss (zs.take j)).length (c16 (uss (zs.take j))) ∧ Below w2.heap.size w2 wr) (fun _ i _ => N - (RowKit.intOf i).toNat)
  case atStart => exact ⟨0, Nat.zero_le _, rfl, World.ownsRow_made w2 _ N (Nat.le_refl _) (by unfold maxLen; omega) (by simp [madeCells]), (Below.refl _ _).alloc (Nat.le_refl _) _⟩
  case round =>
    obtain ⟨j, hj, rfl, hown, hB⟩ := hrel
    have HOW := Lib.hid hown; have HB := Lib.hid hB; have hRj := RR2.out.below hB; have hz1 := hB.size
    clear hown hB
    by_cases hlt : j < N
    · obtain ⟨a, rfl, a1, a2, a3⟩ := hRj.at j hlt
      unfold maxLen at a2
      have hjl : j < zs.length := by have := HN.out; omega
      have htk : Hid (zs.take (j + 1) = zs.take j ++ [zs.getD j 0]) := Lib.hid (by rw [List.take_add_one, List.getElem?_eq_getElem hjl]; simp [List.getD, List.getElem?_eq_getElem hjl])
      have hvj : validRune (zs.getD j 0) = true := List.all_eq_true.1 HV.out _ (by simp [List.getD, List.getElem?_eq_getElem hjl])
      have hul := uss_len (zs.take j)
      have htl : (zs.take j).length ≤ j := List.length_take_le _ _
      generalize zs.getD j 0 = x at *
      have HAP := Lib.hid (fun w3 h3 h4 => units_any w2.heap.size u8 (uss (zs.take j)).length (uss (zs.take j)) x w3 h3 (by omega) h4 hvj)
      clear hvj hul htl hjl hRj
      go_wp2_with (go_at_call 40; refine (HAP.out _ HOW.out hz1).mono ?_; rintro e3 w3 ⟨v3, rfl, ho3, hb3⟩; have HO3 := Lib.hid ho3; have HB3 := Lib.hid (HB.out.trans hb3); clear ho3 hb3)
      go_roundw
      case rel => exact ⟨j + 1, by omega, by go_num, by rw [htk.out, uss_app, uss_one, List.length_append]; exact HO3.out, HB3.out⟩
      case measure => simp [RowKit.intOf]; omega
    · obtain rfl : j = N := by omega
      have htk : zs.take j = zs := by rw [HN.out]; exact List.take_length
      rw [htk] at HOW
      obtain ⟨p, c, rfl, hrow⟩ := rowU_of HOW.out rfl
      have hul := uss_len zs
      have hjn : (uss zs).length ≤ 16000 := by have := HN.out; omega
      have hju := uss_lt zs HV.out
      have HRW := Lib.hid hrow
      have HJ := Lib.hid (fun w3 h3 => join_any big p (uss zs).length c (uss zs) w3 h3 hjn hju)
      obtain ⟨_, c0, c1, f0, f1⟩ := F2.out.below HB.out F2.out.lt
      have F3 := Lib.hid (F2.out.below HB.out F2.out.lt)
      have et : (⟨(ubs big (uss zs)).toArray⟩ : ByteArray) = T := HTT.out.symm
      rw [et] at HJ
      have B3 := Lib.hid (B2.out.trans (HB.out.mono (by omega)))
      clear htk hrow hul hjn hju et hlt hRj
      generalize (uss zs).length = M at *
      go_wp2_with (go_at_call 41; refine (HJ.out _ HRW.out).mono ?_; rintro e3 w3 ⟨rfl, hb3⟩; obtain ⟨_, d0, d1, i0, i1⟩ := F3.out.below hb3 F3.out.lt; have B4 := Lib.hid (B3.out.trans (hb3.mono (by omega))))
      have HB4 := B4.out
      exact bodyPost_ret (v := .tuple #[.string T, .agg #[.int .i64 0, .int .i64 0]]) (by simp [results, Tryd.results23, go_sem, d0, d1]) rfl ⟨rfl, by repeat (first | (with_reducible exact HB4) | (with_reducible exact Below.refl _ _) | (with_reducible refine Below.setCell ?_ (by simp) _) | (with_reducible refine Below.alloc ?_ (by simp; omega) _))⟩
set_option maxRecDepth 100000 in
theorem WithMark_bad (s : ByteArray) (A : Nat) (w : World) (hs : s.size ≤ 4000) (hT : pt.Tabs w) (h : (pt.scan s).2 = some A) : Calls Tryd.prog 28 #[.string s] w fun e w' => e = .returned (.tuple #[.string ⟨#[]⟩, .agg #[.int .i64 2, .int .i64 A]]) ∧ Below w.heap.size w w' := by
  have HP := Lib.hid (fun w2 hT2 => Encode_bad s false A w2 hs hT2 h)
  have HT := Lib.hid hT
  clear hT h
  go_enter Tryd.func28, Tryd.ntmps28
  go_wp2_with (first | (go_at_call 23; refine (HP.out _ (HT.out.below (by repeat (first | (with_reducible exact Below.refl _ _) | (with_reducible refine Below.setCell ?_ (by simp) _) | (with_reducible refine Below.alloc ?_ (by simp) _))))).mono ?_; rintro e1 w1 ⟨rfl, hb1⟩; have q0 : w.heap.size < w1.heap.size := (by have := hb1.size; simp at this; omega); have FB := Lib.hid ((pt.f2_new w 0 0 29).below hb1 (by simp)); have B1 := Lib.hid (((Below.refl w.heap.size w).alloc (Nat.le_refl _) (.cells #[.int .i64 0, .int .i64 0] 29)).trans (hb1.mono (by simp)))) | (go_at_call 15; refine (pt.bad_any _ _ _).mono ?_; rintro e2 w2 ⟨rfl, hb2⟩; obtain ⟨_, a0, a1, g0, g1⟩ := (pt.f2_new w1 2 A 29).below hb2 (by simp); obtain ⟨_, b0, b1, h0, h1⟩ := (FB.out.below ((Below.refl w1.heap.size w1).alloc (Nat.le_refl _) (.cells #[.int .i64 2, .int .i64 A] 29)) q0).below hb2 (by simp; omega)))
  have n0 : ¬ w.heap.size = w1.heap.size := by omega
  have n1 : ¬ w1.heap.size = w.heap.size := by omega
  have HB2 : Below w.heap.size w w2 := (B1.out.alloc (Nat.le_of_lt q0) _).trans (hb2.mono (by simp; omega))
  go_region_held3 (fun w' => w'.cell? ⟨w1.heap.size, 0, none⟩ = some (.int .i64 2) ∧ w'.cell? ⟨w1.heap.size, 1, none⟩ = some (.int .i64 A)) (go_keep) (fail)
  all_goals go_wp2_with fail
  all_goals exact bodyPost_ret (v := .tuple #[.string ⟨#[]⟩, .agg #[.int .i64 2, .int .i64 A]]) (by simp [results, Tryd.results28, go_sem, b0, b1]) rfl ⟨rfl, by refine Below.drew ?_; repeat (first | (with_reducible exact HB2) | (with_reducible exact Below.refl _ _) | (with_reducible refine Below.setCell ?_ (by simp) _) | (with_reducible refine Below.alloc ?_ (by simp; omega) _))⟩
theorem join_two (g : Nat) (x y : ByteArray) (w : World) (hx : w.cell? ⟨g, 0, none⟩ = some (.string x)) (hy : w.cell? ⟨g, 1, none⟩ = some (.string y)) (hsz : x.size + y.size ≤ 100000) :
    Calls Tryd.prog 47 #[.slice (some ⟨g, 0, none⟩) 2 2] w fun e w' => e = .returned (.string (x ++ y)) ∧ Below w.heap.size w w' := by
  have hl : (Lib.join ([x, y].map (·.data.toList)) (⟨#[]⟩ : ByteArray).data.toList) = (x ++ y).data.toList := by
    show Lib.join [x.data.toList, y.data.toList] [] = _
    rw [Lib.join_cons]; simp [Lib.joinTail]
  have e : (⟨(Lib.join ([x, y].map (·.data.toList)) (⟨#[]⟩ : ByteArray).data.toList).toArray⟩ : ByteArray) = x ++ y := by rw [hl]
  have hj := Tryd.strings_Join g 0 2 [x, y] ⟨#[]⟩ w (fun j u hu => by
    match j, hu with
    | 0, hu => simp at hu; subst hu; exact hx
    | 1, hu => simp at hu; subst hu; exact hy
    | (j + 2), hu => simp at hu) (World.block_lt_of_cell? w _ hx) (by simp) (by simp) (by
    have h2 : (x ++ y).data.toList.length = x.size + y.size := by rw [Array.length_toList]; exact ByteArray.size_append
    have h3 := congrArg List.length hl
    omega)
  rw [e] at hj
  have HJ := Lib.hid hj
  clear hj e hl hx hy hsz
  go_enter Tryd.func47, Tryd.ntmps47
  go_wp2_with (go_at_call 59; refine HJ.out.mono ?_; rintro e1 w1 ⟨rfl, hb1⟩)
  go_ret
  exact ⟨rfl, hb1⟩
set_option maxRecDepth 100000 in
theorem WithMark_good (s : ByteArray) (w : World) (hs : s.size ≤ 4000) (hT : pt.Tabs w) (h : (pt.scan s).2 = none) : Calls Tryd.prog 28 #[.string s] w fun e w' => e = .returned (.tuple #[.string (⟨#[255, 254]⟩ ++ wb false (pt.zsOf s)), .agg #[.int .i64 0, .int .i64 0]]) ∧ Below w.heap.size w w' := by
  have hln : (pt.zsOf s).length ≤ 4000 := by
    have := pt.sc_len s s.size 0
    rw [pt.zsOf_len]; unfold pt.scan; omega
  have hsz := wb_size false (pt.zsOf s)
  have hul := uss_len (pt.zsOf s)
  have hP := fun w2 hT2 => Encode_good s false w2 hs hT2 h
  have htz : (wb false (pt.zsOf s)).size ≤ 16000 := by omega
  generalize wb false (pt.zsOf s) = U at *
  have HJ := Lib.hid (fun w3 g h1 h2 => join_two g ⟨#[255, 254]⟩ U w3 h1 h2 (by have : (⟨#[255, 254]⟩ : ByteArray).size = 2 := rfl; omega))
  obtain ⟨T, hTT⟩ : ∃ T, T = (⟨#[255, 254]⟩ : ByteArray) ++ U := ⟨_, rfl⟩
  rw [← hTT] at HJ ⊢
  have HP := Lib.hid hP; have HT := Lib.hid hT
  clear hP hT h hTT hln hsz hul htz
  go_enter Tryd.func28, Tryd.ntmps28
  go_wp2_with (first | (go_at_call 23; refine (HP.out _ (HT.out.below (by repeat (first | (with_reducible exact Below.refl _ _) | (with_reducible refine Below.setCell ?_ (by simp) _) | (with_reducible refine Below.alloc ?_ (by simp) _))))).mono ?_; rintro e1 w1 ⟨rfl, hb1⟩; have q0 : w.heap.size < w1.heap.size := (by have := hb1.size; simp at this; omega); have FB := Lib.hid ((pt.f2_new w 0 0 29).below hb1 (by simp)); have B1 := Lib.hid (((Below.refl w.heap.size w).alloc (Nat.le_refl _) (.cells #[.int .i64 0, .int .i64 0] 29)).trans (hb1.mono (by simp))); have FB1 := Lib.hid (FB.out.below ((Below.refl w1.heap.size w1).alloc (Nat.le_refl _) (.cells #[.int .i64 0, .int .i64 0] 29)) q0)) | (go_at_call 15; refine (pt.bad_any _ _ _).mono ?_; rintro e2 w2 ⟨rfl, hb2⟩; have F2 := Lib.hid (FB1.out.below hb2 (by simp; omega)); have B2 := Lib.hid ((B1.out.alloc (Nat.le_of_lt q0) (.cells #[.int .i64 0, .int .i64 0] 29)).trans (hb2.mono (by simp; omega))); have q2 : w.heap.size + 1 ≤ w2.heap.size := (by have := hb2.size; simp at this; omega)) | (go_at_call 47; refine (HJ.out _ _ (by rw [World.cell?_alloc_mark]; rfl) (by rw [World.cell?_alloc_mark]; rfl)).mono ?_; rintro e3 w3 ⟨rfl, hb3⟩; obtain ⟨_, d0, d1, i0, i1⟩ := (F2.out.below ((Below.refl w2.heap.size w2).alloc (Nat.le_refl _) (.cells #[.string ⟨#[255, 254]⟩, .string U] 9)) F2.out.lt).below hb3 (by simp; omega); have B3 := Lib.hid ((B2.out.alloc (by omega) (.cells #[.string ⟨#[255, 254]⟩, .string U] 9)).trans (hb3.mono (by simp; omega)))))
  have HB3 := B3.out
  exact bodyPost_ret (v := .tuple #[.string T, .agg #[.int .i64 0, .int .i64 0]]) (by simp [results, Tryd.results28, go_sem, d0, d1]) rfl ⟨rfl, by repeat (first | (with_reducible exact HB3) | (with_reducible exact Below.refl _ _) | (with_reducible refine Below.setCell ?_ (by simp) _) | (with_reducible refine Below.alloc ?_ (by simp; omega) _))⟩
end Go.Proofs.YtmogjimiiadmmaaDoor.wd
