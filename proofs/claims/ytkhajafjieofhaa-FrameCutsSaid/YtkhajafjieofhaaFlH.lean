/- The landed frame: what reads its data: a contract. -/
import Derived.Test.YtkhajafjieofhaaFlG
import Derived.Test.YtkhajafjieofhaaUnL
namespace Go.Proofs.Ytkhajafjieofhaa.fl
open Go.RowKit Go.Lib
open Go.Proofs.Ytkhajafjieofhaa.un (bs bs_list bs_size bs_app bs_back size_list wrap64)
open Go.Proofs.Ytkhajafjieofhaa.fr Go.Proofs.Ytkhajafjieofhaa.bk
open Go.Proofs.Ytkhajafjieofhaa.oct (Rd Upd num num7)
set_option linter.unusedVariables false
/-- The Group, the Body, where the reader is, of data. -/
def datG (v : Int) (fm : Nat) (t : ByteArray) (q : Int) : Nat × RS := if grpd v fm = true then bigS t q 1 (.on 0) else (0, .on 0)
def datM (v : Int) (fm : Nat) (t : ByteArray) (q : Int) (st : RS) : Nat × RS := if msrd v fm = true then safS t q st else (0, st)
def datB (v : Int) (fm : Nat) (x : ByteArray) : ByteArray := if sprd v fm = true then bs (un.drpL x.data.toList) else x
def datF (v : Int) (fm : Nat) (n m : Nat) (a : Int) (st : RS) : RS := if msrd v fm = true ∧ ¬ n = m then faiS 1 a st else st
theorem resS_le (t : ByteArray) (st : RS) : (resS t st).1.size ≤ t.size := by
  cases st with
  | on k => show (t.extract k t.size).size ≤ _; rw [ByteArray.size_extract]; omega
  | off k a => exact Nat.zero_le _
set_option maxRecDepth 100000 in
set_option maxHeartbeats 2000000 in
theorem data_gmsc {t : ByteArray} {q : Int} (hz : Sz t q) (ht : t.size ≤ 4000) (I : ByteArray) (s a : Int) (v : Int) (m : Nat) (hm : m < 256) (p d : Nat) (hpd : p ≠ d) (w : World) (hq : Bk w p [.string I, .int .u8 s, .int .u8 (m : Int), .int .u8 0, .string ⟨#[]⟩, .int .i64 a]) (h : Rs w d t q (.on 0))
    (hG : grpd v m = true) (hE : msrd v m = true) (hS : sprd v m = true) (st1 st2 st3 stf : RS) (gr ms : Nat) (x y : ByteArray) (h1 : datG v m t q = (gr, st1)) (h2 : datM v m t q st1 = (ms, st2)) (h3 : resS t st2 = (x, st3)) (h4 : datB v m x = y) (h5 : datF v m ms y.size (plS q st1) st3 = stf) (hC : ¬ ms = y.size) :
    Calls Try.prog 50 #[.pointer (some ⟨p, 0, none⟩), .int .i64 v, .pointer (some ⟨d, 0, none⟩)] w fun e w' => e = .returned (.tuple #[]) ∧ Bk w' p [.string I, .int .u8 s, .int .u8 (m : Int), .int .u8 (gr : Int), .string y, .int .i64 a] ∧ Rs w' d t q stf ∧ Up2 p d w w' := by
  have hdp : d ≠ p := Ne.symm hpd
  have HG := Lib.hid (fun W => grouped_any v I s m W hm)
  have HM := Lib.hid (fun W => measured_any v I s m W hm)
  have HS := Lib.hid (fun W => spread_any v I s m W hm)
  have HA := Lib.hid (fun W h => at_rs hz st1 W d h)
  have HR := Lib.hid (fun W h => rest_rs hz st2 W d h)
  have hxl := resS_le t st2
  rw [h3] at HR hxl
  rw [hG] at HG
  rw [hE] at HM
  rw [hS] at HS
  unfold datG at h1
  unfold datM at h2
  unfold datB at h4
  unfold datF at h5
  rw [hG] at h1
  rw [hE] at h2 h5
  rw [hS] at h4
  rw [if_pos rfl] at h1
  have HB := Lib.hid (fun W h => big_rs hz 1 (by omega) (.on 0) W d h)
  have hl := bigS_lt t q 1 (.on 0)
  rw [h1] at HB hl
  have u8 : IntKind.u8.wrap (gr : Int) = (gr : Int) := wrap8 (by omega) (by simp only at hl; omega)
  clear hl
  rw [if_pos rfl] at h2
  have HF := Lib.hid (fun W h => safe_rs hz st1 W d h)
  rw [h2] at HF
  rw [if_pos ⟨rfl, hC⟩] at h5
  have HX := Lib.hid (fun W h => fail_rs (t := t) (q := q) 1 (plS q st1) (.inr rfl) st3 W d h)
  rw [h5] at HX
  have n1 : ((ms : Int) != (y.size : Int)) = true := (nb (by omega)).2
  rw [if_pos rfl] at h4
  have HD := Lib.hid (fun W => un.drop_any x W (by simp only at hxl; omega))
  rw [h4] at HD
  have Q0 := Lib.hid hq
  have R0 := Lib.hid h
  have U0 := Lib.hid (Up2.refl p d w)
  have y0 := hq.c 0 _ rfl
  have y1 := hq.c 1 _ rfl
  have y2 := hq.c 2 _ rfl
  have y3 := hq.c 3 _ rfl
  have y4 := hq.c 4 _ rfl
  have y5 := hq.c 5 _ rfl
  have yf := hq.f
  try clear hC
  clear hxl hq h hG hE hS hz ht hm
  generalize plS q st1 = PL at *
  go_enter Try.func50, Try.ntmps50
  go_wp2_with (first
    | (go_at_call 10; refine (HG.out _).mono ?_; rintro e1 w1 ⟨rfl, hb1⟩; have Q1 := Lib.hid (Q0.out.below hb1); have R1 := Lib.hid (Rs.below R0.out hb1); have U1 := Lib.hid (U0.out.trans (Up2.of p d hb1)); have y0 := Q1.out.c 0 _ rfl; have y1 := Q1.out.c 1 _ rfl; have y2 := Q1.out.c 2 _ rfl; have y3 := Q1.out.c 3 _ rfl; have y4 := Q1.out.c 4 _ rfl; have y5 := Q1.out.c 5 _ rfl; have yf := Q1.out.f; clear hb1 Q0 R0 U0)
    | (go_at_call 65; refine (HB.out _ R1.out).mono ?_; rintro e2 w2 ⟨rfl, hr2, hu2⟩; have Q2' := upd_bk Q1.out hu2 hpd; have z2 := Q2'.c 3 _ rfl; have zf2 := Q2'.f; have Q2 : Hid (Bk (w2.setCell ⟨p, 3, none⟩ (.int .u8 (gr : Int))) p [.string I, .int .u8 s, .int .u8 (m : Int), .int .u8 (gr : Int), .string ⟨#[]⟩, .int .i64 a]) := Lib.hid (Q2'.set 3 (.int .u8 (gr : Int)) (by simp)); have R2 : Hid (Rs (w2.setCell ⟨p, 3, none⟩ (.int .u8 (gr : Int))) d t q _) := Lib.hid (Rs.upd hr2 ((Upd.refl p _).setCell 3 _) hdp); have U2 : Hid (Up2 p d w (w2.setCell ⟨p, 3, none⟩ (.int .u8 (gr : Int)))) := Lib.hid ((U1.out.trans (Up2.ofr p hu2)).setp 3 _); have y0 := Q2.out.c 0 _ rfl; have y1 := Q2.out.c 1 _ rfl; have y2 := Q2.out.c 2 _ rfl; have y3 := Q2.out.c 3 _ rfl; have y4 := Q2.out.c 4 _ rfl; have y5 := Q2.out.c 5 _ rfl; have yf := Q2.out.f; clear Q2' hr2 hu2 Q1 R1 U1)
    | (go_at_call 45; refine (HA.out _ R2.out).mono ?_; rintro e99 w99 ⟨rfl, rfl⟩)
    | (go_at_call 12; refine (HM.out _).mono ?_; rintro e3 w3 ⟨rfl, hb3⟩; have Q3 := Lib.hid (Q2.out.below hb3); have R3 := Lib.hid (Rs.below R2.out hb3); have U3 := Lib.hid (U2.out.trans (Up2.of p d hb3)); have y0 := Q3.out.c 0 _ rfl; have y1 := Q3.out.c 1 _ rfl; have y2 := Q3.out.c 2 _ rfl; have y3 := Q3.out.c 3 _ rfl; have y4 := Q3.out.c 4 _ rfl; have y5 := Q3.out.c 5 _ rfl; have yf := Q3.out.f; clear hb3 Q2 R2 U2)
    | (go_at_call 66; refine (HF.out _ R3.out).mono ?_; rintro e4 w4 ⟨rfl, hr4, hu4⟩; have Q4 := Lib.hid (upd_bk Q3.out hu4 hpd); have R4 := Lib.hid hr4; have U4 := Lib.hid (U3.out.trans (Up2.ofr p hu4)); have y0 := Q4.out.c 0 _ rfl; have y1 := Q4.out.c 1 _ rfl; have y2 := Q4.out.c 2 _ rfl; have y3 := Q4.out.c 3 _ rfl; have y4 := Q4.out.c 4 _ rfl; have y5 := Q4.out.c 5 _ rfl; have yf := Q4.out.f; clear hr4 hu4 Q3 R3 U3)
    | (go_at_call 27; refine (HR.out _ R4.out).mono ?_; rintro e5 w5 ⟨rfl, hr5, hu5⟩; have Q5' := upd_bk Q4.out hu5 hpd; have z5 := Q5'.c 4 _ rfl; have zf5 := Q5'.f; have Q5 : Hid (Bk (w5.setCell ⟨p, 4, none⟩ (.string x)) p [.string I, .int .u8 s, .int .u8 (m : Int), .int .u8 (gr : Int), .string x, .int .i64 a]) := Lib.hid (Q5'.set 4 (.string x) (by simp)); have R5 : Hid (Rs (w5.setCell ⟨p, 4, none⟩ (.string x)) d t q _) := Lib.hid (Rs.upd hr5 ((Upd.refl p _).setCell 4 _) hdp); have U5 : Hid (Up2 p d w (w5.setCell ⟨p, 4, none⟩ (.string x))) := Lib.hid ((U4.out.trans (Up2.ofr p hu5)).setp 4 _); have y0 := Q5.out.c 0 _ rfl; have y1 := Q5.out.c 1 _ rfl; have y2 := Q5.out.c 2 _ rfl; have y3 := Q5.out.c 3 _ rfl; have y4 := Q5.out.c 4 _ rfl; have y5 := Q5.out.c 5 _ rfl; have yf := Q5.out.f; clear Q5' hr5 hu5 Q4 R4 U4)
    | (go_at_call 14; refine (HS.out _).mono ?_; rintro e6 w6 ⟨rfl, hb6⟩; have Q6 := Lib.hid (Q5.out.below hb6); have R6 := Lib.hid (Rs.below R5.out hb6); have U6 := Lib.hid (U5.out.trans (Up2.of p d hb6)); have y0 := Q6.out.c 0 _ rfl; have y1 := Q6.out.c 1 _ rfl; have y2 := Q6.out.c 2 _ rfl; have y3 := Q6.out.c 3 _ rfl; have y4 := Q6.out.c 4 _ rfl; have y5 := Q6.out.c 5 _ rfl; have yf := Q6.out.f; clear hb6 Q5 R5 U5)
    | (go_at_call 68; refine (HD.out _).mono ?_; rintro e7 w7 ⟨rfl, hb7⟩; have Q7' := Q6.out.below hb7; have z7 := Q7'.c 4 _ rfl; have zf7 := Q7'.f; have Q7 : Hid (Bk (w7.setCell ⟨p, 4, none⟩ (.string y)) p [.string I, .int .u8 s, .int .u8 (m : Int), .int .u8 (gr : Int), .string y, .int .i64 a]) := Lib.hid (Q7'.set 4 (.string y) (by simp)); have R7 : Hid (Rs (w7.setCell ⟨p, 4, none⟩ (.string y)) d t q _) := Lib.hid (Rs.upd (Rs.below R6.out hb7) ((Upd.refl p _).setCell 4 _) hdp); have U7 : Hid (Up2 p d w (w7.setCell ⟨p, 4, none⟩ (.string y))) := Lib.hid ((U6.out.trans (Up2.of p d hb7)).setp 4 _); have y0 := Q7.out.c 0 _ rfl; have y1 := Q7.out.c 1 _ rfl; have y2 := Q7.out.c 2 _ rfl; have y3 := Q7.out.c 3 _ rfl; have y4 := Q7.out.c 4 _ rfl; have y5 := Q7.out.c 5 _ rfl; have yf := Q7.out.f; clear Q7' hb7 Q6 R6 U6)
    | (go_at_call 12; refine (HM.out _).mono ?_; rintro e8 w8 ⟨rfl, hb8⟩; have Q8 := Lib.hid (Q7.out.below hb8); have R8 := Lib.hid (Rs.below R7.out hb8); have U8 := Lib.hid (U7.out.trans (Up2.of p d hb8)); have y0 := Q8.out.c 0 _ rfl; have y1 := Q8.out.c 1 _ rfl; have y2 := Q8.out.c 2 _ rfl; have y3 := Q8.out.c 3 _ rfl; have y4 := Q8.out.c 4 _ rfl; have y5 := Q8.out.c 5 _ rfl; have yf := Q8.out.f; clear hb8 Q7 R7 U7)
    | (go_at_call 51; refine (HX.out _ R8.out).mono ?_; rintro e9 w9 ⟨rfl, hr9, hu9⟩; have Q9 := Lib.hid (upd_bk Q8.out hu9 hpd); have R9 := Lib.hid hr9; have U9 := Lib.hid (U8.out.trans (Up2.ofr p hu9)); have y0 := Q9.out.c 0 _ rfl; have y1 := Q9.out.c 1 _ rfl; have y2 := Q9.out.c 2 _ rfl; have y3 := Q9.out.c 3 _ rfl; have y4 := Q9.out.c 4 _ rfl; have y5 := Q9.out.c 5 _ rfl; have yf := Q9.out.f; clear hr9 hu9 Q8 R8 U8))
  go_end0
  exact ⟨rfl, Q9.out, R9.out, U9.out⟩
set_option maxRecDepth 100000 in
set_option maxHeartbeats 2000000 in
theorem data_gms {t : ByteArray} {q : Int} (hz : Sz t q) (ht : t.size ≤ 4000) (I : ByteArray) (s a : Int) (v : Int) (m : Nat) (hm : m < 256) (p d : Nat) (hpd : p ≠ d) (w : World) (hq : Bk w p [.string I, .int .u8 s, .int .u8 (m : Int), .int .u8 0, .string ⟨#[]⟩, .int .i64 a]) (h : Rs w d t q (.on 0))
    (hG : grpd v m = true) (hE : msrd v m = true) (hS : sprd v m = true) (st1 st2 st3 stf : RS) (gr ms : Nat) (x y : ByteArray) (h1 : datG v m t q = (gr, st1)) (h2 : datM v m t q st1 = (ms, st2)) (h3 : resS t st2 = (x, st3)) (h4 : datB v m x = y) (h5 : datF v m ms y.size (plS q st1) st3 = stf) (hC : ms = y.size) :
    Calls Try.prog 50 #[.pointer (some ⟨p, 0, none⟩), .int .i64 v, .pointer (some ⟨d, 0, none⟩)] w fun e w' => e = .returned (.tuple #[]) ∧ Bk w' p [.string I, .int .u8 s, .int .u8 (m : Int), .int .u8 (gr : Int), .string y, .int .i64 a] ∧ Rs w' d t q stf ∧ Up2 p d w w' := by
  have hdp : d ≠ p := Ne.symm hpd
  have HG := Lib.hid (fun W => grouped_any v I s m W hm)
  have HM := Lib.hid (fun W => measured_any v I s m W hm)
  have HS := Lib.hid (fun W => spread_any v I s m W hm)
  have HA := Lib.hid (fun W h => at_rs hz st1 W d h)
  have HR := Lib.hid (fun W h => rest_rs hz st2 W d h)
  have hxl := resS_le t st2
  rw [h3] at HR hxl
  rw [hG] at HG
  rw [hE] at HM
  rw [hS] at HS
  unfold datG at h1
  unfold datM at h2
  unfold datB at h4
  unfold datF at h5
  rw [hG] at h1
  rw [hE] at h2 h5
  rw [hS] at h4
  rw [if_pos rfl] at h1
  have HB := Lib.hid (fun W h => big_rs hz 1 (by omega) (.on 0) W d h)
  have hl := bigS_lt t q 1 (.on 0)
  rw [h1] at HB hl
  have u8 : IntKind.u8.wrap (gr : Int) = (gr : Int) := wrap8 (by omega) (by simp only at hl; omega)
  clear hl
  rw [if_pos rfl] at h2
  have HF := Lib.hid (fun W h => safe_rs hz st1 W d h)
  rw [h2] at HF
  rw [if_neg (fun h => h.2 hC)] at h5
  subst h5
  have n1 : ((ms : Int) != (y.size : Int)) = false := by rw [hC]; simp
  rw [if_pos rfl] at h4
  have HD := Lib.hid (fun W => un.drop_any x W (by simp only at hxl; omega))
  rw [h4] at HD
  have Q0 := Lib.hid hq
  have R0 := Lib.hid h
  have U0 := Lib.hid (Up2.refl p d w)
  have y0 := hq.c 0 _ rfl
  have y1 := hq.c 1 _ rfl
  have y2 := hq.c 2 _ rfl
  have y3 := hq.c 3 _ rfl
  have y4 := hq.c 4 _ rfl
  have y5 := hq.c 5 _ rfl
  have yf := hq.f
  try clear hC
  clear hxl hq h hG hE hS hz ht hm
  generalize plS q st1 = PL at *
  go_enter Try.func50, Try.ntmps50
  go_wp2_with (first
    | (go_at_call 10; refine (HG.out _).mono ?_; rintro e1 w1 ⟨rfl, hb1⟩; have Q1 := Lib.hid (Q0.out.below hb1); have R1 := Lib.hid (Rs.below R0.out hb1); have U1 := Lib.hid (U0.out.trans (Up2.of p d hb1)); have y0 := Q1.out.c 0 _ rfl; have y1 := Q1.out.c 1 _ rfl; have y2 := Q1.out.c 2 _ rfl; have y3 := Q1.out.c 3 _ rfl; have y4 := Q1.out.c 4 _ rfl; have y5 := Q1.out.c 5 _ rfl; have yf := Q1.out.f; clear hb1 Q0 R0 U0)
    | (go_at_call 65; refine (HB.out _ R1.out).mono ?_; rintro e2 w2 ⟨rfl, hr2, hu2⟩; have Q2' := upd_bk Q1.out hu2 hpd; have z2 := Q2'.c 3 _ rfl; have zf2 := Q2'.f; have Q2 : Hid (Bk (w2.setCell ⟨p, 3, none⟩ (.int .u8 (gr : Int))) p [.string I, .int .u8 s, .int .u8 (m : Int), .int .u8 (gr : Int), .string ⟨#[]⟩, .int .i64 a]) := Lib.hid (Q2'.set 3 (.int .u8 (gr : Int)) (by simp)); have R2 : Hid (Rs (w2.setCell ⟨p, 3, none⟩ (.int .u8 (gr : Int))) d t q _) := Lib.hid (Rs.upd hr2 ((Upd.refl p _).setCell 3 _) hdp); have U2 : Hid (Up2 p d w (w2.setCell ⟨p, 3, none⟩ (.int .u8 (gr : Int)))) := Lib.hid ((U1.out.trans (Up2.ofr p hu2)).setp 3 _); have y0 := Q2.out.c 0 _ rfl; have y1 := Q2.out.c 1 _ rfl; have y2 := Q2.out.c 2 _ rfl; have y3 := Q2.out.c 3 _ rfl; have y4 := Q2.out.c 4 _ rfl; have y5 := Q2.out.c 5 _ rfl; have yf := Q2.out.f; clear Q2' hr2 hu2 Q1 R1 U1)
    | (go_at_call 45; refine (HA.out _ R2.out).mono ?_; rintro e99 w99 ⟨rfl, rfl⟩)
    | (go_at_call 12; refine (HM.out _).mono ?_; rintro e3 w3 ⟨rfl, hb3⟩; have Q3 := Lib.hid (Q2.out.below hb3); have R3 := Lib.hid (Rs.below R2.out hb3); have U3 := Lib.hid (U2.out.trans (Up2.of p d hb3)); have y0 := Q3.out.c 0 _ rfl; have y1 := Q3.out.c 1 _ rfl; have y2 := Q3.out.c 2 _ rfl; have y3 := Q3.out.c 3 _ rfl; have y4 := Q3.out.c 4 _ rfl; have y5 := Q3.out.c 5 _ rfl; have yf := Q3.out.f; clear hb3 Q2 R2 U2)
    | (go_at_call 66; refine (HF.out _ R3.out).mono ?_; rintro e4 w4 ⟨rfl, hr4, hu4⟩; have Q4 := Lib.hid (upd_bk Q3.out hu4 hpd); have R4 := Lib.hid hr4; have U4 := Lib.hid (U3.out.trans (Up2.ofr p hu4)); have y0 := Q4.out.c 0 _ rfl; have y1 := Q4.out.c 1 _ rfl; have y2 := Q4.out.c 2 _ rfl; have y3 := Q4.out.c 3 _ rfl; have y4 := Q4.out.c 4 _ rfl; have y5 := Q4.out.c 5 _ rfl; have yf := Q4.out.f; clear hr4 hu4 Q3 R3 U3)
    | (go_at_call 27; refine (HR.out _ R4.out).mono ?_; rintro e5 w5 ⟨rfl, hr5, hu5⟩; have Q5' := upd_bk Q4.out hu5 hpd; have z5 := Q5'.c 4 _ rfl; have zf5 := Q5'.f; have Q5 : Hid (Bk (w5.setCell ⟨p, 4, none⟩ (.string x)) p [.string I, .int .u8 s, .int .u8 (m : Int), .int .u8 (gr : Int), .string x, .int .i64 a]) := Lib.hid (Q5'.set 4 (.string x) (by simp)); have R5 : Hid (Rs (w5.setCell ⟨p, 4, none⟩ (.string x)) d t q _) := Lib.hid (Rs.upd hr5 ((Upd.refl p _).setCell 4 _) hdp); have U5 : Hid (Up2 p d w (w5.setCell ⟨p, 4, none⟩ (.string x))) := Lib.hid ((U4.out.trans (Up2.ofr p hu5)).setp 4 _); have y0 := Q5.out.c 0 _ rfl; have y1 := Q5.out.c 1 _ rfl; have y2 := Q5.out.c 2 _ rfl; have y3 := Q5.out.c 3 _ rfl; have y4 := Q5.out.c 4 _ rfl; have y5 := Q5.out.c 5 _ rfl; have yf := Q5.out.f; clear Q5' hr5 hu5 Q4 R4 U4)
    | (go_at_call 14; refine (HS.out _).mono ?_; rintro e6 w6 ⟨rfl, hb6⟩; have Q6 := Lib.hid (Q5.out.below hb6); have R6 := Lib.hid (Rs.below R5.out hb6); have U6 := Lib.hid (U5.out.trans (Up2.of p d hb6)); have y0 := Q6.out.c 0 _ rfl; have y1 := Q6.out.c 1 _ rfl; have y2 := Q6.out.c 2 _ rfl; have y3 := Q6.out.c 3 _ rfl; have y4 := Q6.out.c 4 _ rfl; have y5 := Q6.out.c 5 _ rfl; have yf := Q6.out.f; clear hb6 Q5 R5 U5)
    | (go_at_call 68; refine (HD.out _).mono ?_; rintro e7 w7 ⟨rfl, hb7⟩; have Q7' := Q6.out.below hb7; have z7 := Q7'.c 4 _ rfl; have zf7 := Q7'.f; have Q7 : Hid (Bk (w7.setCell ⟨p, 4, none⟩ (.string y)) p [.string I, .int .u8 s, .int .u8 (m : Int), .int .u8 (gr : Int), .string y, .int .i64 a]) := Lib.hid (Q7'.set 4 (.string y) (by simp)); have R7 : Hid (Rs (w7.setCell ⟨p, 4, none⟩ (.string y)) d t q _) := Lib.hid (Rs.upd (Rs.below R6.out hb7) ((Upd.refl p _).setCell 4 _) hdp); have U7 : Hid (Up2 p d w (w7.setCell ⟨p, 4, none⟩ (.string y))) := Lib.hid ((U6.out.trans (Up2.of p d hb7)).setp 4 _); have y0 := Q7.out.c 0 _ rfl; have y1 := Q7.out.c 1 _ rfl; have y2 := Q7.out.c 2 _ rfl; have y3 := Q7.out.c 3 _ rfl; have y4 := Q7.out.c 4 _ rfl; have y5 := Q7.out.c 5 _ rfl; have yf := Q7.out.f; clear Q7' hb7 Q6 R6 U6)
    | (go_at_call 12; refine (HM.out _).mono ?_; rintro e8 w8 ⟨rfl, hb8⟩; have Q8 := Lib.hid (Q7.out.below hb8); have R8 := Lib.hid (Rs.below R7.out hb8); have U8 := Lib.hid (U7.out.trans (Up2.of p d hb8)); have y0 := Q8.out.c 0 _ rfl; have y1 := Q8.out.c 1 _ rfl; have y2 := Q8.out.c 2 _ rfl; have y3 := Q8.out.c 3 _ rfl; have y4 := Q8.out.c 4 _ rfl; have y5 := Q8.out.c 5 _ rfl; have yf := Q8.out.f; clear hb8 Q7 R7 U7))
  go_end0
  exact ⟨rfl, Q8.out, R8.out, U8.out⟩
set_option maxRecDepth 100000 in
set_option maxHeartbeats 2000000 in
theorem data_gmnc {t : ByteArray} {q : Int} (hz : Sz t q) (ht : t.size ≤ 4000) (I : ByteArray) (s a : Int) (v : Int) (m : Nat) (hm : m < 256) (p d : Nat) (hpd : p ≠ d) (w : World) (hq : Bk w p [.string I, .int .u8 s, .int .u8 (m : Int), .int .u8 0, .string ⟨#[]⟩, .int .i64 a]) (h : Rs w d t q (.on 0))
    (hG : grpd v m = true) (hE : msrd v m = true) (hS : sprd v m = false) (st1 st2 st3 stf : RS) (gr ms : Nat) (x y : ByteArray) (h1 : datG v m t q = (gr, st1)) (h2 : datM v m t q st1 = (ms, st2)) (h3 : resS t st2 = (x, st3)) (h4 : datB v m x = y) (h5 : datF v m ms y.size (plS q st1) st3 = stf) (hC : ¬ ms = y.size) :
    Calls Try.prog 50 #[.pointer (some ⟨p, 0, none⟩), .int .i64 v, .pointer (some ⟨d, 0, none⟩)] w fun e w' => e = .returned (.tuple #[]) ∧ Bk w' p [.string I, .int .u8 s, .int .u8 (m : Int), .int .u8 (gr : Int), .string y, .int .i64 a] ∧ Rs w' d t q stf ∧ Up2 p d w w' := by
  have hdp : d ≠ p := Ne.symm hpd
  have HG := Lib.hid (fun W => grouped_any v I s m W hm)
  have HM := Lib.hid (fun W => measured_any v I s m W hm)
  have HS := Lib.hid (fun W => spread_any v I s m W hm)
  have HA := Lib.hid (fun W h => at_rs hz st1 W d h)
  have HR := Lib.hid (fun W h => rest_rs hz st2 W d h)
  have hxl := resS_le t st2
  rw [h3] at HR hxl
  rw [hG] at HG
  rw [hE] at HM
  rw [hS] at HS
  unfold datG at h1
  unfold datM at h2
  unfold datB at h4
  unfold datF at h5
  rw [hG] at h1
  rw [hE] at h2 h5
  rw [hS] at h4
  rw [if_pos rfl] at h1
  have HB := Lib.hid (fun W h => big_rs hz 1 (by omega) (.on 0) W d h)
  have hl := bigS_lt t q 1 (.on 0)
  rw [h1] at HB hl
  have u8 : IntKind.u8.wrap (gr : Int) = (gr : Int) := wrap8 (by omega) (by simp only at hl; omega)
  clear hl
  rw [if_pos rfl] at h2
  have HF := Lib.hid (fun W h => safe_rs hz st1 W d h)
  rw [h2] at HF
  rw [if_pos ⟨rfl, hC⟩] at h5
  have HX := Lib.hid (fun W h => fail_rs (t := t) (q := q) 1 (plS q st1) (.inr rfl) st3 W d h)
  rw [h5] at HX
  have n1 : ((ms : Int) != (y.size : Int)) = true := (nb (by omega)).2
  rw [if_neg (by simp)] at h4
  subst h4
  have Q0 := Lib.hid hq
  have R0 := Lib.hid h
  have U0 := Lib.hid (Up2.refl p d w)
  have y0 := hq.c 0 _ rfl
  have y1 := hq.c 1 _ rfl
  have y2 := hq.c 2 _ rfl
  have y3 := hq.c 3 _ rfl
  have y4 := hq.c 4 _ rfl
  have y5 := hq.c 5 _ rfl
  have yf := hq.f
  try clear hC
  clear hxl hq h hG hE hS hz ht hm
  generalize plS q st1 = PL at *
  go_enter Try.func50, Try.ntmps50
  go_wp2_with (first
    | (go_at_call 10; refine (HG.out _).mono ?_; rintro e1 w1 ⟨rfl, hb1⟩; have Q1 := Lib.hid (Q0.out.below hb1); have R1 := Lib.hid (Rs.below R0.out hb1); have U1 := Lib.hid (U0.out.trans (Up2.of p d hb1)); have y0 := Q1.out.c 0 _ rfl; have y1 := Q1.out.c 1 _ rfl; have y2 := Q1.out.c 2 _ rfl; have y3 := Q1.out.c 3 _ rfl; have y4 := Q1.out.c 4 _ rfl; have y5 := Q1.out.c 5 _ rfl; have yf := Q1.out.f; clear hb1 Q0 R0 U0)
    | (go_at_call 65; refine (HB.out _ R1.out).mono ?_; rintro e2 w2 ⟨rfl, hr2, hu2⟩; have Q2' := upd_bk Q1.out hu2 hpd; have z2 := Q2'.c 3 _ rfl; have zf2 := Q2'.f; have Q2 : Hid (Bk (w2.setCell ⟨p, 3, none⟩ (.int .u8 (gr : Int))) p [.string I, .int .u8 s, .int .u8 (m : Int), .int .u8 (gr : Int), .string ⟨#[]⟩, .int .i64 a]) := Lib.hid (Q2'.set 3 (.int .u8 (gr : Int)) (by simp)); have R2 : Hid (Rs (w2.setCell ⟨p, 3, none⟩ (.int .u8 (gr : Int))) d t q _) := Lib.hid (Rs.upd hr2 ((Upd.refl p _).setCell 3 _) hdp); have U2 : Hid (Up2 p d w (w2.setCell ⟨p, 3, none⟩ (.int .u8 (gr : Int)))) := Lib.hid ((U1.out.trans (Up2.ofr p hu2)).setp 3 _); have y0 := Q2.out.c 0 _ rfl; have y1 := Q2.out.c 1 _ rfl; have y2 := Q2.out.c 2 _ rfl; have y3 := Q2.out.c 3 _ rfl; have y4 := Q2.out.c 4 _ rfl; have y5 := Q2.out.c 5 _ rfl; have yf := Q2.out.f; clear Q2' hr2 hu2 Q1 R1 U1)
    | (go_at_call 45; refine (HA.out _ R2.out).mono ?_; rintro e99 w99 ⟨rfl, rfl⟩)
    | (go_at_call 12; refine (HM.out _).mono ?_; rintro e3 w3 ⟨rfl, hb3⟩; have Q3 := Lib.hid (Q2.out.below hb3); have R3 := Lib.hid (Rs.below R2.out hb3); have U3 := Lib.hid (U2.out.trans (Up2.of p d hb3)); have y0 := Q3.out.c 0 _ rfl; have y1 := Q3.out.c 1 _ rfl; have y2 := Q3.out.c 2 _ rfl; have y3 := Q3.out.c 3 _ rfl; have y4 := Q3.out.c 4 _ rfl; have y5 := Q3.out.c 5 _ rfl; have yf := Q3.out.f; clear hb3 Q2 R2 U2)
    | (go_at_call 66; refine (HF.out _ R3.out).mono ?_; rintro e4 w4 ⟨rfl, hr4, hu4⟩; have Q4 := Lib.hid (upd_bk Q3.out hu4 hpd); have R4 := Lib.hid hr4; have U4 := Lib.hid (U3.out.trans (Up2.ofr p hu4)); have y0 := Q4.out.c 0 _ rfl; have y1 := Q4.out.c 1 _ rfl; have y2 := Q4.out.c 2 _ rfl; have y3 := Q4.out.c 3 _ rfl; have y4 := Q4.out.c 4 _ rfl; have y5 := Q4.out.c 5 _ rfl; have yf := Q4.out.f; clear hr4 hu4 Q3 R3 U3)
    | (go_at_call 27; refine (HR.out _ R4.out).mono ?_; rintro e5 w5 ⟨rfl, hr5, hu5⟩; have Q5' := upd_bk Q4.out hu5 hpd; have z5 := Q5'.c 4 _ rfl; have zf5 := Q5'.f; have Q5 : Hid (Bk (w5.setCell ⟨p, 4, none⟩ (.string x)) p [.string I, .int .u8 s, .int .u8 (m : Int), .int .u8 (gr : Int), .string x, .int .i64 a]) := Lib.hid (Q5'.set 4 (.string x) (by simp)); have R5 : Hid (Rs (w5.setCell ⟨p, 4, none⟩ (.string x)) d t q _) := Lib.hid (Rs.upd hr5 ((Upd.refl p _).setCell 4 _) hdp); have U5 : Hid (Up2 p d w (w5.setCell ⟨p, 4, none⟩ (.string x))) := Lib.hid ((U4.out.trans (Up2.ofr p hu5)).setp 4 _); have y0 := Q5.out.c 0 _ rfl; have y1 := Q5.out.c 1 _ rfl; have y2 := Q5.out.c 2 _ rfl; have y3 := Q5.out.c 3 _ rfl; have y4 := Q5.out.c 4 _ rfl; have y5 := Q5.out.c 5 _ rfl; have yf := Q5.out.f; clear Q5' hr5 hu5 Q4 R4 U4)
    | (go_at_call 14; refine (HS.out _).mono ?_; rintro e6 w6 ⟨rfl, hb6⟩; have Q6 := Lib.hid (Q5.out.below hb6); have R6 := Lib.hid (Rs.below R5.out hb6); have U6 := Lib.hid (U5.out.trans (Up2.of p d hb6)); have y0 := Q6.out.c 0 _ rfl; have y1 := Q6.out.c 1 _ rfl; have y2 := Q6.out.c 2 _ rfl; have y3 := Q6.out.c 3 _ rfl; have y4 := Q6.out.c 4 _ rfl; have y5 := Q6.out.c 5 _ rfl; have yf := Q6.out.f; clear hb6 Q5 R5 U5)
    | (go_at_call 12; refine (HM.out _).mono ?_; rintro e7 w7 ⟨rfl, hb7⟩; have Q7 := Lib.hid (Q6.out.below hb7); have R7 := Lib.hid (Rs.below R6.out hb7); have U7 := Lib.hid (U6.out.trans (Up2.of p d hb7)); have y0 := Q7.out.c 0 _ rfl; have y1 := Q7.out.c 1 _ rfl; have y2 := Q7.out.c 2 _ rfl; have y3 := Q7.out.c 3 _ rfl; have y4 := Q7.out.c 4 _ rfl; have y5 := Q7.out.c 5 _ rfl; have yf := Q7.out.f; clear hb7 Q6 R6 U6)
    | (go_at_call 51; refine (HX.out _ R7.out).mono ?_; rintro e8 w8 ⟨rfl, hr8, hu8⟩; have Q8 := Lib.hid (upd_bk Q7.out hu8 hpd); have R8 := Lib.hid hr8; have U8 := Lib.hid (U7.out.trans (Up2.ofr p hu8)); have y0 := Q8.out.c 0 _ rfl; have y1 := Q8.out.c 1 _ rfl; have y2 := Q8.out.c 2 _ rfl; have y3 := Q8.out.c 3 _ rfl; have y4 := Q8.out.c 4 _ rfl; have y5 := Q8.out.c 5 _ rfl; have yf := Q8.out.f; clear hr8 hu8 Q7 R7 U7))
  go_end0
  exact ⟨rfl, Q8.out, R8.out, U8.out⟩
set_option maxRecDepth 100000 in
set_option maxHeartbeats 2000000 in
theorem data_gmn {t : ByteArray} {q : Int} (hz : Sz t q) (ht : t.size ≤ 4000) (I : ByteArray) (s a : Int) (v : Int) (m : Nat) (hm : m < 256) (p d : Nat) (hpd : p ≠ d) (w : World) (hq : Bk w p [.string I, .int .u8 s, .int .u8 (m : Int), .int .u8 0, .string ⟨#[]⟩, .int .i64 a]) (h : Rs w d t q (.on 0))
    (hG : grpd v m = true) (hE : msrd v m = true) (hS : sprd v m = false) (st1 st2 st3 stf : RS) (gr ms : Nat) (x y : ByteArray) (h1 : datG v m t q = (gr, st1)) (h2 : datM v m t q st1 = (ms, st2)) (h3 : resS t st2 = (x, st3)) (h4 : datB v m x = y) (h5 : datF v m ms y.size (plS q st1) st3 = stf) (hC : ms = y.size) :
    Calls Try.prog 50 #[.pointer (some ⟨p, 0, none⟩), .int .i64 v, .pointer (some ⟨d, 0, none⟩)] w fun e w' => e = .returned (.tuple #[]) ∧ Bk w' p [.string I, .int .u8 s, .int .u8 (m : Int), .int .u8 (gr : Int), .string y, .int .i64 a] ∧ Rs w' d t q stf ∧ Up2 p d w w' := by
  have hdp : d ≠ p := Ne.symm hpd
  have HG := Lib.hid (fun W => grouped_any v I s m W hm)
  have HM := Lib.hid (fun W => measured_any v I s m W hm)
  have HS := Lib.hid (fun W => spread_any v I s m W hm)
  have HA := Lib.hid (fun W h => at_rs hz st1 W d h)
  have HR := Lib.hid (fun W h => rest_rs hz st2 W d h)
  have hxl := resS_le t st2
  rw [h3] at HR hxl
  rw [hG] at HG
  rw [hE] at HM
  rw [hS] at HS
  unfold datG at h1
  unfold datM at h2
  unfold datB at h4
  unfold datF at h5
  rw [hG] at h1
  rw [hE] at h2 h5
  rw [hS] at h4
  rw [if_pos rfl] at h1
  have HB := Lib.hid (fun W h => big_rs hz 1 (by omega) (.on 0) W d h)
  have hl := bigS_lt t q 1 (.on 0)
  rw [h1] at HB hl
  have u8 : IntKind.u8.wrap (gr : Int) = (gr : Int) := wrap8 (by omega) (by simp only at hl; omega)
  clear hl
  rw [if_pos rfl] at h2
  have HF := Lib.hid (fun W h => safe_rs hz st1 W d h)
  rw [h2] at HF
  rw [if_neg (fun h => h.2 hC)] at h5
  subst h5
  have n1 : ((ms : Int) != (y.size : Int)) = false := by rw [hC]; simp
  rw [if_neg (by simp)] at h4
  subst h4
  have Q0 := Lib.hid hq
  have R0 := Lib.hid h
  have U0 := Lib.hid (Up2.refl p d w)
  have y0 := hq.c 0 _ rfl
  have y1 := hq.c 1 _ rfl
  have y2 := hq.c 2 _ rfl
  have y3 := hq.c 3 _ rfl
  have y4 := hq.c 4 _ rfl
  have y5 := hq.c 5 _ rfl
  have yf := hq.f
  try clear hC
  clear hxl hq h hG hE hS hz ht hm
  generalize plS q st1 = PL at *
  go_enter Try.func50, Try.ntmps50
  go_wp2_with (first
    | (go_at_call 10; refine (HG.out _).mono ?_; rintro e1 w1 ⟨rfl, hb1⟩; have Q1 := Lib.hid (Q0.out.below hb1); have R1 := Lib.hid (Rs.below R0.out hb1); have U1 := Lib.hid (U0.out.trans (Up2.of p d hb1)); have y0 := Q1.out.c 0 _ rfl; have y1 := Q1.out.c 1 _ rfl; have y2 := Q1.out.c 2 _ rfl; have y3 := Q1.out.c 3 _ rfl; have y4 := Q1.out.c 4 _ rfl; have y5 := Q1.out.c 5 _ rfl; have yf := Q1.out.f; clear hb1 Q0 R0 U0)
    | (go_at_call 65; refine (HB.out _ R1.out).mono ?_; rintro e2 w2 ⟨rfl, hr2, hu2⟩; have Q2' := upd_bk Q1.out hu2 hpd; have z2 := Q2'.c 3 _ rfl; have zf2 := Q2'.f; have Q2 : Hid (Bk (w2.setCell ⟨p, 3, none⟩ (.int .u8 (gr : Int))) p [.string I, .int .u8 s, .int .u8 (m : Int), .int .u8 (gr : Int), .string ⟨#[]⟩, .int .i64 a]) := Lib.hid (Q2'.set 3 (.int .u8 (gr : Int)) (by simp)); have R2 : Hid (Rs (w2.setCell ⟨p, 3, none⟩ (.int .u8 (gr : Int))) d t q _) := Lib.hid (Rs.upd hr2 ((Upd.refl p _).setCell 3 _) hdp); have U2 : Hid (Up2 p d w (w2.setCell ⟨p, 3, none⟩ (.int .u8 (gr : Int)))) := Lib.hid ((U1.out.trans (Up2.ofr p hu2)).setp 3 _); have y0 := Q2.out.c 0 _ rfl; have y1 := Q2.out.c 1 _ rfl; have y2 := Q2.out.c 2 _ rfl; have y3 := Q2.out.c 3 _ rfl; have y4 := Q2.out.c 4 _ rfl; have y5 := Q2.out.c 5 _ rfl; have yf := Q2.out.f; clear Q2' hr2 hu2 Q1 R1 U1)
    | (go_at_call 45; refine (HA.out _ R2.out).mono ?_; rintro e99 w99 ⟨rfl, rfl⟩)
    | (go_at_call 12; refine (HM.out _).mono ?_; rintro e3 w3 ⟨rfl, hb3⟩; have Q3 := Lib.hid (Q2.out.below hb3); have R3 := Lib.hid (Rs.below R2.out hb3); have U3 := Lib.hid (U2.out.trans (Up2.of p d hb3)); have y0 := Q3.out.c 0 _ rfl; have y1 := Q3.out.c 1 _ rfl; have y2 := Q3.out.c 2 _ rfl; have y3 := Q3.out.c 3 _ rfl; have y4 := Q3.out.c 4 _ rfl; have y5 := Q3.out.c 5 _ rfl; have yf := Q3.out.f; clear hb3 Q2 R2 U2)
    | (go_at_call 66; refine (HF.out _ R3.out).mono ?_; rintro e4 w4 ⟨rfl, hr4, hu4⟩; have Q4 := Lib.hid (upd_bk Q3.out hu4 hpd); have R4 := Lib.hid hr4; have U4 := Lib.hid (U3.out.trans (Up2.ofr p hu4)); have y0 := Q4.out.c 0 _ rfl; have y1 := Q4.out.c 1 _ rfl; have y2 := Q4.out.c 2 _ rfl; have y3 := Q4.out.c 3 _ rfl; have y4 := Q4.out.c 4 _ rfl; have y5 := Q4.out.c 5 _ rfl; have yf := Q4.out.f; clear hr4 hu4 Q3 R3 U3)
    | (go_at_call 27; refine (HR.out _ R4.out).mono ?_; rintro e5 w5 ⟨rfl, hr5, hu5⟩; have Q5' := upd_bk Q4.out hu5 hpd; have z5 := Q5'.c 4 _ rfl; have zf5 := Q5'.f; have Q5 : Hid (Bk (w5.setCell ⟨p, 4, none⟩ (.string x)) p [.string I, .int .u8 s, .int .u8 (m : Int), .int .u8 (gr : Int), .string x, .int .i64 a]) := Lib.hid (Q5'.set 4 (.string x) (by simp)); have R5 : Hid (Rs (w5.setCell ⟨p, 4, none⟩ (.string x)) d t q _) := Lib.hid (Rs.upd hr5 ((Upd.refl p _).setCell 4 _) hdp); have U5 : Hid (Up2 p d w (w5.setCell ⟨p, 4, none⟩ (.string x))) := Lib.hid ((U4.out.trans (Up2.ofr p hu5)).setp 4 _); have y0 := Q5.out.c 0 _ rfl; have y1 := Q5.out.c 1 _ rfl; have y2 := Q5.out.c 2 _ rfl; have y3 := Q5.out.c 3 _ rfl; have y4 := Q5.out.c 4 _ rfl; have y5 := Q5.out.c 5 _ rfl; have yf := Q5.out.f; clear Q5' hr5 hu5 Q4 R4 U4)
    | (go_at_call 14; refine (HS.out _).mono ?_; rintro e6 w6 ⟨rfl, hb6⟩; have Q6 := Lib.hid (Q5.out.below hb6); have R6 := Lib.hid (Rs.below R5.out hb6); have U6 := Lib.hid (U5.out.trans (Up2.of p d hb6)); have y0 := Q6.out.c 0 _ rfl; have y1 := Q6.out.c 1 _ rfl; have y2 := Q6.out.c 2 _ rfl; have y3 := Q6.out.c 3 _ rfl; have y4 := Q6.out.c 4 _ rfl; have y5 := Q6.out.c 5 _ rfl; have yf := Q6.out.f; clear hb6 Q5 R5 U5)
    | (go_at_call 12; refine (HM.out _).mono ?_; rintro e7 w7 ⟨rfl, hb7⟩; have Q7 := Lib.hid (Q6.out.below hb7); have R7 := Lib.hid (Rs.below R6.out hb7); have U7 := Lib.hid (U6.out.trans (Up2.of p d hb7)); have y0 := Q7.out.c 0 _ rfl; have y1 := Q7.out.c 1 _ rfl; have y2 := Q7.out.c 2 _ rfl; have y3 := Q7.out.c 3 _ rfl; have y4 := Q7.out.c 4 _ rfl; have y5 := Q7.out.c 5 _ rfl; have yf := Q7.out.f; clear hb7 Q6 R6 U6))
  go_end0
  exact ⟨rfl, Q7.out, R7.out, U7.out⟩
set_option maxRecDepth 100000 in
set_option maxHeartbeats 2000000 in
theorem data_gns {t : ByteArray} {q : Int} (hz : Sz t q) (ht : t.size ≤ 4000) (I : ByteArray) (s a : Int) (v : Int) (m : Nat) (hm : m < 256) (p d : Nat) (hpd : p ≠ d) (w : World) (hq : Bk w p [.string I, .int .u8 s, .int .u8 (m : Int), .int .u8 0, .string ⟨#[]⟩, .int .i64 a]) (h : Rs w d t q (.on 0))
    (hG : grpd v m = true) (hE : msrd v m = false) (hS : sprd v m = true) (st1 st2 st3 stf : RS) (gr ms : Nat) (x y : ByteArray) (h1 : datG v m t q = (gr, st1)) (h2 : datM v m t q st1 = (ms, st2)) (h3 : resS t st2 = (x, st3)) (h4 : datB v m x = y) (h5 : datF v m ms y.size (plS q st1) st3 = stf) :
    Calls Try.prog 50 #[.pointer (some ⟨p, 0, none⟩), .int .i64 v, .pointer (some ⟨d, 0, none⟩)] w fun e w' => e = .returned (.tuple #[]) ∧ Bk w' p [.string I, .int .u8 s, .int .u8 (m : Int), .int .u8 (gr : Int), .string y, .int .i64 a] ∧ Rs w' d t q stf ∧ Up2 p d w w' := by
  have hdp : d ≠ p := Ne.symm hpd
  have HG := Lib.hid (fun W => grouped_any v I s m W hm)
  have HM := Lib.hid (fun W => measured_any v I s m W hm)
  have HS := Lib.hid (fun W => spread_any v I s m W hm)
  have HA := Lib.hid (fun W h => at_rs hz st1 W d h)
  have HR := Lib.hid (fun W h => rest_rs hz st2 W d h)
  have hxl := resS_le t st2
  rw [h3] at HR hxl
  rw [hG] at HG
  rw [hE] at HM
  rw [hS] at HS
  unfold datG at h1
  unfold datM at h2
  unfold datB at h4
  unfold datF at h5
  rw [hG] at h1
  rw [hE] at h2 h5
  rw [hS] at h4
  rw [if_pos rfl] at h1
  have HB := Lib.hid (fun W h => big_rs hz 1 (by omega) (.on 0) W d h)
  have hl := bigS_lt t q 1 (.on 0)
  rw [h1] at HB hl
  have u8 : IntKind.u8.wrap (gr : Int) = (gr : Int) := wrap8 (by omega) (by simp only at hl; omega)
  clear hl
  rw [if_neg (by simp)] at h2 h5
  obtain ⟨hms, hs2⟩ := Prod.mk.inj h2
  subst hms
  subst hs2
  subst h5
  rw [if_pos rfl] at h4
  have HD := Lib.hid (fun W => un.drop_any x W (by simp only at hxl; omega))
  rw [h4] at HD
  have Q0 := Lib.hid hq
  have R0 := Lib.hid h
  have U0 := Lib.hid (Up2.refl p d w)
  have y0 := hq.c 0 _ rfl
  have y1 := hq.c 1 _ rfl
  have y2 := hq.c 2 _ rfl
  have y3 := hq.c 3 _ rfl
  have y4 := hq.c 4 _ rfl
  have y5 := hq.c 5 _ rfl
  have yf := hq.f
  try clear hC
  clear hxl hq h hG hE hS hz ht hm
  generalize plS q st1 = PL at *
  go_enter Try.func50, Try.ntmps50
  go_wp2_with (first
    | (go_at_call 10; refine (HG.out _).mono ?_; rintro e1 w1 ⟨rfl, hb1⟩; have Q1 := Lib.hid (Q0.out.below hb1); have R1 := Lib.hid (Rs.below R0.out hb1); have U1 := Lib.hid (U0.out.trans (Up2.of p d hb1)); have y0 := Q1.out.c 0 _ rfl; have y1 := Q1.out.c 1 _ rfl; have y2 := Q1.out.c 2 _ rfl; have y3 := Q1.out.c 3 _ rfl; have y4 := Q1.out.c 4 _ rfl; have y5 := Q1.out.c 5 _ rfl; have yf := Q1.out.f; clear hb1 Q0 R0 U0)
    | (go_at_call 65; refine (HB.out _ R1.out).mono ?_; rintro e2 w2 ⟨rfl, hr2, hu2⟩; have Q2' := upd_bk Q1.out hu2 hpd; have z2 := Q2'.c 3 _ rfl; have zf2 := Q2'.f; have Q2 : Hid (Bk (w2.setCell ⟨p, 3, none⟩ (.int .u8 (gr : Int))) p [.string I, .int .u8 s, .int .u8 (m : Int), .int .u8 (gr : Int), .string ⟨#[]⟩, .int .i64 a]) := Lib.hid (Q2'.set 3 (.int .u8 (gr : Int)) (by simp)); have R2 : Hid (Rs (w2.setCell ⟨p, 3, none⟩ (.int .u8 (gr : Int))) d t q _) := Lib.hid (Rs.upd hr2 ((Upd.refl p _).setCell 3 _) hdp); have U2 : Hid (Up2 p d w (w2.setCell ⟨p, 3, none⟩ (.int .u8 (gr : Int)))) := Lib.hid ((U1.out.trans (Up2.ofr p hu2)).setp 3 _); have y0 := Q2.out.c 0 _ rfl; have y1 := Q2.out.c 1 _ rfl; have y2 := Q2.out.c 2 _ rfl; have y3 := Q2.out.c 3 _ rfl; have y4 := Q2.out.c 4 _ rfl; have y5 := Q2.out.c 5 _ rfl; have yf := Q2.out.f; clear Q2' hr2 hu2 Q1 R1 U1)
    | (go_at_call 45; refine (HA.out _ R2.out).mono ?_; rintro e99 w99 ⟨rfl, rfl⟩)
    | (go_at_call 12; refine (HM.out _).mono ?_; rintro e3 w3 ⟨rfl, hb3⟩; have Q3 := Lib.hid (Q2.out.below hb3); have R3 := Lib.hid (Rs.below R2.out hb3); have U3 := Lib.hid (U2.out.trans (Up2.of p d hb3)); have y0 := Q3.out.c 0 _ rfl; have y1 := Q3.out.c 1 _ rfl; have y2 := Q3.out.c 2 _ rfl; have y3 := Q3.out.c 3 _ rfl; have y4 := Q3.out.c 4 _ rfl; have y5 := Q3.out.c 5 _ rfl; have yf := Q3.out.f; clear hb3 Q2 R2 U2)
    | (go_at_call 27; refine (HR.out _ R3.out).mono ?_; rintro e4 w4 ⟨rfl, hr4, hu4⟩; have Q4' := upd_bk Q3.out hu4 hpd; have z4 := Q4'.c 4 _ rfl; have zf4 := Q4'.f; have Q4 : Hid (Bk (w4.setCell ⟨p, 4, none⟩ (.string x)) p [.string I, .int .u8 s, .int .u8 (m : Int), .int .u8 (gr : Int), .string x, .int .i64 a]) := Lib.hid (Q4'.set 4 (.string x) (by simp)); have R4 : Hid (Rs (w4.setCell ⟨p, 4, none⟩ (.string x)) d t q _) := Lib.hid (Rs.upd hr4 ((Upd.refl p _).setCell 4 _) hdp); have U4 : Hid (Up2 p d w (w4.setCell ⟨p, 4, none⟩ (.string x))) := Lib.hid ((U3.out.trans (Up2.ofr p hu4)).setp 4 _); have y0 := Q4.out.c 0 _ rfl; have y1 := Q4.out.c 1 _ rfl; have y2 := Q4.out.c 2 _ rfl; have y3 := Q4.out.c 3 _ rfl; have y4 := Q4.out.c 4 _ rfl; have y5 := Q4.out.c 5 _ rfl; have yf := Q4.out.f; clear Q4' hr4 hu4 Q3 R3 U3)
    | (go_at_call 14; refine (HS.out _).mono ?_; rintro e5 w5 ⟨rfl, hb5⟩; have Q5 := Lib.hid (Q4.out.below hb5); have R5 := Lib.hid (Rs.below R4.out hb5); have U5 := Lib.hid (U4.out.trans (Up2.of p d hb5)); have y0 := Q5.out.c 0 _ rfl; have y1 := Q5.out.c 1 _ rfl; have y2 := Q5.out.c 2 _ rfl; have y3 := Q5.out.c 3 _ rfl; have y4 := Q5.out.c 4 _ rfl; have y5 := Q5.out.c 5 _ rfl; have yf := Q5.out.f; clear hb5 Q4 R4 U4)
    | (go_at_call 68; refine (HD.out _).mono ?_; rintro e6 w6 ⟨rfl, hb6⟩; have Q6' := Q5.out.below hb6; have z6 := Q6'.c 4 _ rfl; have zf6 := Q6'.f; have Q6 : Hid (Bk (w6.setCell ⟨p, 4, none⟩ (.string y)) p [.string I, .int .u8 s, .int .u8 (m : Int), .int .u8 (gr : Int), .string y, .int .i64 a]) := Lib.hid (Q6'.set 4 (.string y) (by simp)); have R6 : Hid (Rs (w6.setCell ⟨p, 4, none⟩ (.string y)) d t q _) := Lib.hid (Rs.upd (Rs.below R5.out hb6) ((Upd.refl p _).setCell 4 _) hdp); have U6 : Hid (Up2 p d w (w6.setCell ⟨p, 4, none⟩ (.string y))) := Lib.hid ((U5.out.trans (Up2.of p d hb6)).setp 4 _); have y0 := Q6.out.c 0 _ rfl; have y1 := Q6.out.c 1 _ rfl; have y2 := Q6.out.c 2 _ rfl; have y3 := Q6.out.c 3 _ rfl; have y4 := Q6.out.c 4 _ rfl; have y5 := Q6.out.c 5 _ rfl; have yf := Q6.out.f; clear Q6' hb6 Q5 R5 U5)
    | (go_at_call 12; refine (HM.out _).mono ?_; rintro e7 w7 ⟨rfl, hb7⟩; have Q7 := Lib.hid (Q6.out.below hb7); have R7 := Lib.hid (Rs.below R6.out hb7); have U7 := Lib.hid (U6.out.trans (Up2.of p d hb7)); have y0 := Q7.out.c 0 _ rfl; have y1 := Q7.out.c 1 _ rfl; have y2 := Q7.out.c 2 _ rfl; have y3 := Q7.out.c 3 _ rfl; have y4 := Q7.out.c 4 _ rfl; have y5 := Q7.out.c 5 _ rfl; have yf := Q7.out.f; clear hb7 Q6 R6 U6))
  go_end0
  exact ⟨rfl, Q7.out, R7.out, U7.out⟩
set_option maxRecDepth 100000 in
set_option maxHeartbeats 2000000 in
theorem data_gnn {t : ByteArray} {q : Int} (hz : Sz t q) (ht : t.size ≤ 4000) (I : ByteArray) (s a : Int) (v : Int) (m : Nat) (hm : m < 256) (p d : Nat) (hpd : p ≠ d) (w : World) (hq : Bk w p [.string I, .int .u8 s, .int .u8 (m : Int), .int .u8 0, .string ⟨#[]⟩, .int .i64 a]) (h : Rs w d t q (.on 0))
    (hG : grpd v m = true) (hE : msrd v m = false) (hS : sprd v m = false) (st1 st2 st3 stf : RS) (gr ms : Nat) (x y : ByteArray) (h1 : datG v m t q = (gr, st1)) (h2 : datM v m t q st1 = (ms, st2)) (h3 : resS t st2 = (x, st3)) (h4 : datB v m x = y) (h5 : datF v m ms y.size (plS q st1) st3 = stf) :
    Calls Try.prog 50 #[.pointer (some ⟨p, 0, none⟩), .int .i64 v, .pointer (some ⟨d, 0, none⟩)] w fun e w' => e = .returned (.tuple #[]) ∧ Bk w' p [.string I, .int .u8 s, .int .u8 (m : Int), .int .u8 (gr : Int), .string y, .int .i64 a] ∧ Rs w' d t q stf ∧ Up2 p d w w' := by
  have hdp : d ≠ p := Ne.symm hpd
  have HG := Lib.hid (fun W => grouped_any v I s m W hm)
  have HM := Lib.hid (fun W => measured_any v I s m W hm)
  have HS := Lib.hid (fun W => spread_any v I s m W hm)
  have HA := Lib.hid (fun W h => at_rs hz st1 W d h)
  have HR := Lib.hid (fun W h => rest_rs hz st2 W d h)
  have hxl := resS_le t st2
  rw [h3] at HR hxl
  rw [hG] at HG
  rw [hE] at HM
  rw [hS] at HS
  unfold datG at h1
  unfold datM at h2
  unfold datB at h4
  unfold datF at h5
  rw [hG] at h1
  rw [hE] at h2 h5
  rw [hS] at h4
  rw [if_pos rfl] at h1
  have HB := Lib.hid (fun W h => big_rs hz 1 (by omega) (.on 0) W d h)
  have hl := bigS_lt t q 1 (.on 0)
  rw [h1] at HB hl
  have u8 : IntKind.u8.wrap (gr : Int) = (gr : Int) := wrap8 (by omega) (by simp only at hl; omega)
  clear hl
  rw [if_neg (by simp)] at h2 h5
  obtain ⟨hms, hs2⟩ := Prod.mk.inj h2
  subst hms
  subst hs2
  subst h5
  rw [if_neg (by simp)] at h4
  subst h4
  have Q0 := Lib.hid hq
  have R0 := Lib.hid h
  have U0 := Lib.hid (Up2.refl p d w)
  have y0 := hq.c 0 _ rfl
  have y1 := hq.c 1 _ rfl
  have y2 := hq.c 2 _ rfl
  have y3 := hq.c 3 _ rfl
  have y4 := hq.c 4 _ rfl
  have y5 := hq.c 5 _ rfl
  have yf := hq.f
  try clear hC
  clear hxl hq h hG hE hS hz ht hm
  generalize plS q st1 = PL at *
  go_enter Try.func50, Try.ntmps50
  go_wp2_with (first
    | (go_at_call 10; refine (HG.out _).mono ?_; rintro e1 w1 ⟨rfl, hb1⟩; have Q1 := Lib.hid (Q0.out.below hb1); have R1 := Lib.hid (Rs.below R0.out hb1); have U1 := Lib.hid (U0.out.trans (Up2.of p d hb1)); have y0 := Q1.out.c 0 _ rfl; have y1 := Q1.out.c 1 _ rfl; have y2 := Q1.out.c 2 _ rfl; have y3 := Q1.out.c 3 _ rfl; have y4 := Q1.out.c 4 _ rfl; have y5 := Q1.out.c 5 _ rfl; have yf := Q1.out.f; clear hb1 Q0 R0 U0)
    | (go_at_call 65; refine (HB.out _ R1.out).mono ?_; rintro e2 w2 ⟨rfl, hr2, hu2⟩; have Q2' := upd_bk Q1.out hu2 hpd; have z2 := Q2'.c 3 _ rfl; have zf2 := Q2'.f; have Q2 : Hid (Bk (w2.setCell ⟨p, 3, none⟩ (.int .u8 (gr : Int))) p [.string I, .int .u8 s, .int .u8 (m : Int), .int .u8 (gr : Int), .string ⟨#[]⟩, .int .i64 a]) := Lib.hid (Q2'.set 3 (.int .u8 (gr : Int)) (by simp)); have R2 : Hid (Rs (w2.setCell ⟨p, 3, none⟩ (.int .u8 (gr : Int))) d t q _) := Lib.hid (Rs.upd hr2 ((Upd.refl p _).setCell 3 _) hdp); have U2 : Hid (Up2 p d w (w2.setCell ⟨p, 3, none⟩ (.int .u8 (gr : Int)))) := Lib.hid ((U1.out.trans (Up2.ofr p hu2)).setp 3 _); have y0 := Q2.out.c 0 _ rfl; have y1 := Q2.out.c 1 _ rfl; have y2 := Q2.out.c 2 _ rfl; have y3 := Q2.out.c 3 _ rfl; have y4 := Q2.out.c 4 _ rfl; have y5 := Q2.out.c 5 _ rfl; have yf := Q2.out.f; clear Q2' hr2 hu2 Q1 R1 U1)
    | (go_at_call 45; refine (HA.out _ R2.out).mono ?_; rintro e99 w99 ⟨rfl, rfl⟩)
    | (go_at_call 12; refine (HM.out _).mono ?_; rintro e3 w3 ⟨rfl, hb3⟩; have Q3 := Lib.hid (Q2.out.below hb3); have R3 := Lib.hid (Rs.below R2.out hb3); have U3 := Lib.hid (U2.out.trans (Up2.of p d hb3)); have y0 := Q3.out.c 0 _ rfl; have y1 := Q3.out.c 1 _ rfl; have y2 := Q3.out.c 2 _ rfl; have y3 := Q3.out.c 3 _ rfl; have y4 := Q3.out.c 4 _ rfl; have y5 := Q3.out.c 5 _ rfl; have yf := Q3.out.f; clear hb3 Q2 R2 U2)
    | (go_at_call 27; refine (HR.out _ R3.out).mono ?_; rintro e4 w4 ⟨rfl, hr4, hu4⟩; have Q4' := upd_bk Q3.out hu4 hpd; have z4 := Q4'.c 4 _ rfl; have zf4 := Q4'.f; have Q4 : Hid (Bk (w4.setCell ⟨p, 4, none⟩ (.string x)) p [.string I, .int .u8 s, .int .u8 (m : Int), .int .u8 (gr : Int), .string x, .int .i64 a]) := Lib.hid (Q4'.set 4 (.string x) (by simp)); have R4 : Hid (Rs (w4.setCell ⟨p, 4, none⟩ (.string x)) d t q _) := Lib.hid (Rs.upd hr4 ((Upd.refl p _).setCell 4 _) hdp); have U4 : Hid (Up2 p d w (w4.setCell ⟨p, 4, none⟩ (.string x))) := Lib.hid ((U3.out.trans (Up2.ofr p hu4)).setp 4 _); have y0 := Q4.out.c 0 _ rfl; have y1 := Q4.out.c 1 _ rfl; have y2 := Q4.out.c 2 _ rfl; have y3 := Q4.out.c 3 _ rfl; have y4 := Q4.out.c 4 _ rfl; have y5 := Q4.out.c 5 _ rfl; have yf := Q4.out.f; clear Q4' hr4 hu4 Q3 R3 U3)
    | (go_at_call 14; refine (HS.out _).mono ?_; rintro e5 w5 ⟨rfl, hb5⟩; have Q5 := Lib.hid (Q4.out.below hb5); have R5 := Lib.hid (Rs.below R4.out hb5); have U5 := Lib.hid (U4.out.trans (Up2.of p d hb5)); have y0 := Q5.out.c 0 _ rfl; have y1 := Q5.out.c 1 _ rfl; have y2 := Q5.out.c 2 _ rfl; have y3 := Q5.out.c 3 _ rfl; have y4 := Q5.out.c 4 _ rfl; have y5 := Q5.out.c 5 _ rfl; have yf := Q5.out.f; clear hb5 Q4 R4 U4)
    | (go_at_call 12; refine (HM.out _).mono ?_; rintro e6 w6 ⟨rfl, hb6⟩; have Q6 := Lib.hid (Q5.out.below hb6); have R6 := Lib.hid (Rs.below R5.out hb6); have U6 := Lib.hid (U5.out.trans (Up2.of p d hb6)); have y0 := Q6.out.c 0 _ rfl; have y1 := Q6.out.c 1 _ rfl; have y2 := Q6.out.c 2 _ rfl; have y3 := Q6.out.c 3 _ rfl; have y4 := Q6.out.c 4 _ rfl; have y5 := Q6.out.c 5 _ rfl; have yf := Q6.out.f; clear hb6 Q5 R5 U5))
  go_end0
  exact ⟨rfl, Q6.out, R6.out, U6.out⟩
set_option maxRecDepth 100000 in
set_option maxHeartbeats 2000000 in
theorem data_nmsc {t : ByteArray} {q : Int} (hz : Sz t q) (ht : t.size ≤ 4000) (I : ByteArray) (s a : Int) (v : Int) (m : Nat) (hm : m < 256) (p d : Nat) (hpd : p ≠ d) (w : World) (hq : Bk w p [.string I, .int .u8 s, .int .u8 (m : Int), .int .u8 0, .string ⟨#[]⟩, .int .i64 a]) (h : Rs w d t q (.on 0))
    (hG : grpd v m = false) (hE : msrd v m = true) (hS : sprd v m = true) (st1 st2 st3 stf : RS) (gr ms : Nat) (x y : ByteArray) (h1 : datG v m t q = (gr, st1)) (h2 : datM v m t q st1 = (ms, st2)) (h3 : resS t st2 = (x, st3)) (h4 : datB v m x = y) (h5 : datF v m ms y.size (plS q st1) st3 = stf) (hC : ¬ ms = y.size) :
    Calls Try.prog 50 #[.pointer (some ⟨p, 0, none⟩), .int .i64 v, .pointer (some ⟨d, 0, none⟩)] w fun e w' => e = .returned (.tuple #[]) ∧ Bk w' p [.string I, .int .u8 s, .int .u8 (m : Int), .int .u8 (gr : Int), .string y, .int .i64 a] ∧ Rs w' d t q stf ∧ Up2 p d w w' := by
  have hdp : d ≠ p := Ne.symm hpd
  have HG := Lib.hid (fun W => grouped_any v I s m W hm)
  have HM := Lib.hid (fun W => measured_any v I s m W hm)
  have HS := Lib.hid (fun W => spread_any v I s m W hm)
  have HA := Lib.hid (fun W h => at_rs hz st1 W d h)
  have HR := Lib.hid (fun W h => rest_rs hz st2 W d h)
  have hxl := resS_le t st2
  rw [h3] at HR hxl
  rw [hG] at HG
  rw [hE] at HM
  rw [hS] at HS
  unfold datG at h1
  unfold datM at h2
  unfold datB at h4
  unfold datF at h5
  rw [hG] at h1
  rw [hE] at h2 h5
  rw [hS] at h4
  rw [if_neg (by simp)] at h1
  obtain ⟨hgr, hs1⟩ := Prod.mk.inj h1
  subst hgr
  rw [hs1] at h
  rw [if_pos rfl] at h2
  have HF := Lib.hid (fun W h => safe_rs hz st1 W d h)
  rw [h2] at HF
  rw [if_pos ⟨rfl, hC⟩] at h5
  have HX := Lib.hid (fun W h => fail_rs (t := t) (q := q) 1 (plS q st1) (.inr rfl) st3 W d h)
  rw [h5] at HX
  have n1 : ((ms : Int) != (y.size : Int)) = true := (nb (by omega)).2
  rw [if_pos rfl] at h4
  have HD := Lib.hid (fun W => un.drop_any x W (by simp only at hxl; omega))
  rw [h4] at HD
  have Q0 := Lib.hid hq
  have R0 := Lib.hid h
  have U0 := Lib.hid (Up2.refl p d w)
  have y0 := hq.c 0 _ rfl
  have y1 := hq.c 1 _ rfl
  have y2 := hq.c 2 _ rfl
  have y3 := hq.c 3 _ rfl
  have y4 := hq.c 4 _ rfl
  have y5 := hq.c 5 _ rfl
  have yf := hq.f
  try clear hC
  clear hxl hq h hG hE hS hz ht hm
  generalize plS q st1 = PL at *
  go_enter Try.func50, Try.ntmps50
  go_wp2_with (first
    | (go_at_call 10; refine (HG.out _).mono ?_; rintro e1 w1 ⟨rfl, hb1⟩; have Q1 := Lib.hid (Q0.out.below hb1); have R1 := Lib.hid (Rs.below R0.out hb1); have U1 := Lib.hid (U0.out.trans (Up2.of p d hb1)); have y0 := Q1.out.c 0 _ rfl; have y1 := Q1.out.c 1 _ rfl; have y2 := Q1.out.c 2 _ rfl; have y3 := Q1.out.c 3 _ rfl; have y4 := Q1.out.c 4 _ rfl; have y5 := Q1.out.c 5 _ rfl; have yf := Q1.out.f; clear hb1 Q0 R0 U0)
    | (go_at_call 45; refine (HA.out _ R1.out).mono ?_; rintro e99 w99 ⟨rfl, rfl⟩)
    | (go_at_call 12; refine (HM.out _).mono ?_; rintro e2 w2 ⟨rfl, hb2⟩; have Q2 := Lib.hid (Q1.out.below hb2); have R2 := Lib.hid (Rs.below R1.out hb2); have U2 := Lib.hid (U1.out.trans (Up2.of p d hb2)); have y0 := Q2.out.c 0 _ rfl; have y1 := Q2.out.c 1 _ rfl; have y2 := Q2.out.c 2 _ rfl; have y3 := Q2.out.c 3 _ rfl; have y4 := Q2.out.c 4 _ rfl; have y5 := Q2.out.c 5 _ rfl; have yf := Q2.out.f; clear hb2 Q1 R1 U1)
    | (go_at_call 66; refine (HF.out _ R2.out).mono ?_; rintro e3 w3 ⟨rfl, hr3, hu3⟩; have Q3 := Lib.hid (upd_bk Q2.out hu3 hpd); have R3 := Lib.hid hr3; have U3 := Lib.hid (U2.out.trans (Up2.ofr p hu3)); have y0 := Q3.out.c 0 _ rfl; have y1 := Q3.out.c 1 _ rfl; have y2 := Q3.out.c 2 _ rfl; have y3 := Q3.out.c 3 _ rfl; have y4 := Q3.out.c 4 _ rfl; have y5 := Q3.out.c 5 _ rfl; have yf := Q3.out.f; clear hr3 hu3 Q2 R2 U2)
    | (go_at_call 27; refine (HR.out _ R3.out).mono ?_; rintro e4 w4 ⟨rfl, hr4, hu4⟩; have Q4' := upd_bk Q3.out hu4 hpd; have z4 := Q4'.c 4 _ rfl; have zf4 := Q4'.f; have Q4 : Hid (Bk (w4.setCell ⟨p, 4, none⟩ (.string x)) p [.string I, .int .u8 s, .int .u8 (m : Int), .int .u8 ((0 : Nat) : Int), .string x, .int .i64 a]) := Lib.hid (Q4'.set 4 (.string x) (by simp)); have R4 : Hid (Rs (w4.setCell ⟨p, 4, none⟩ (.string x)) d t q _) := Lib.hid (Rs.upd hr4 ((Upd.refl p _).setCell 4 _) hdp); have U4 : Hid (Up2 p d w (w4.setCell ⟨p, 4, none⟩ (.string x))) := Lib.hid ((U3.out.trans (Up2.ofr p hu4)).setp 4 _); have y0 := Q4.out.c 0 _ rfl; have y1 := Q4.out.c 1 _ rfl; have y2 := Q4.out.c 2 _ rfl; have y3 := Q4.out.c 3 _ rfl; have y4 := Q4.out.c 4 _ rfl; have y5 := Q4.out.c 5 _ rfl; have yf := Q4.out.f; clear Q4' hr4 hu4 Q3 R3 U3)
    | (go_at_call 14; refine (HS.out _).mono ?_; rintro e5 w5 ⟨rfl, hb5⟩; have Q5 := Lib.hid (Q4.out.below hb5); have R5 := Lib.hid (Rs.below R4.out hb5); have U5 := Lib.hid (U4.out.trans (Up2.of p d hb5)); have y0 := Q5.out.c 0 _ rfl; have y1 := Q5.out.c 1 _ rfl; have y2 := Q5.out.c 2 _ rfl; have y3 := Q5.out.c 3 _ rfl; have y4 := Q5.out.c 4 _ rfl; have y5 := Q5.out.c 5 _ rfl; have yf := Q5.out.f; clear hb5 Q4 R4 U4)
    | (go_at_call 68; refine (HD.out _).mono ?_; rintro e6 w6 ⟨rfl, hb6⟩; have Q6' := Q5.out.below hb6; have z6 := Q6'.c 4 _ rfl; have zf6 := Q6'.f; have Q6 : Hid (Bk (w6.setCell ⟨p, 4, none⟩ (.string y)) p [.string I, .int .u8 s, .int .u8 (m : Int), .int .u8 ((0 : Nat) : Int), .string y, .int .i64 a]) := Lib.hid (Q6'.set 4 (.string y) (by simp)); have R6 : Hid (Rs (w6.setCell ⟨p, 4, none⟩ (.string y)) d t q _) := Lib.hid (Rs.upd (Rs.below R5.out hb6) ((Upd.refl p _).setCell 4 _) hdp); have U6 : Hid (Up2 p d w (w6.setCell ⟨p, 4, none⟩ (.string y))) := Lib.hid ((U5.out.trans (Up2.of p d hb6)).setp 4 _); have y0 := Q6.out.c 0 _ rfl; have y1 := Q6.out.c 1 _ rfl; have y2 := Q6.out.c 2 _ rfl; have y3 := Q6.out.c 3 _ rfl; have y4 := Q6.out.c 4 _ rfl; have y5 := Q6.out.c 5 _ rfl; have yf := Q6.out.f; clear Q6' hb6 Q5 R5 U5)
    | (go_at_call 12; refine (HM.out _).mono ?_; rintro e7 w7 ⟨rfl, hb7⟩; have Q7 := Lib.hid (Q6.out.below hb7); have R7 := Lib.hid (Rs.below R6.out hb7); have U7 := Lib.hid (U6.out.trans (Up2.of p d hb7)); have y0 := Q7.out.c 0 _ rfl; have y1 := Q7.out.c 1 _ rfl; have y2 := Q7.out.c 2 _ rfl; have y3 := Q7.out.c 3 _ rfl; have y4 := Q7.out.c 4 _ rfl; have y5 := Q7.out.c 5 _ rfl; have yf := Q7.out.f; clear hb7 Q6 R6 U6)
    | (go_at_call 51; refine (HX.out _ R7.out).mono ?_; rintro e8 w8 ⟨rfl, hr8, hu8⟩; have Q8 := Lib.hid (upd_bk Q7.out hu8 hpd); have R8 := Lib.hid hr8; have U8 := Lib.hid (U7.out.trans (Up2.ofr p hu8)); have y0 := Q8.out.c 0 _ rfl; have y1 := Q8.out.c 1 _ rfl; have y2 := Q8.out.c 2 _ rfl; have y3 := Q8.out.c 3 _ rfl; have y4 := Q8.out.c 4 _ rfl; have y5 := Q8.out.c 5 _ rfl; have yf := Q8.out.f; clear hr8 hu8 Q7 R7 U7))
  go_end0
  exact ⟨rfl, Q8.out, R8.out, U8.out⟩
set_option maxRecDepth 100000 in
set_option maxHeartbeats 2000000 in
theorem data_nms {t : ByteArray} {q : Int} (hz : Sz t q) (ht : t.size ≤ 4000) (I : ByteArray) (s a : Int) (v : Int) (m : Nat) (hm : m < 256) (p d : Nat) (hpd : p ≠ d) (w : World) (hq : Bk w p [.string I, .int .u8 s, .int .u8 (m : Int), .int .u8 0, .string ⟨#[]⟩, .int .i64 a]) (h : Rs w d t q (.on 0))
    (hG : grpd v m = false) (hE : msrd v m = true) (hS : sprd v m = true) (st1 st2 st3 stf : RS) (gr ms : Nat) (x y : ByteArray) (h1 : datG v m t q = (gr, st1)) (h2 : datM v m t q st1 = (ms, st2)) (h3 : resS t st2 = (x, st3)) (h4 : datB v m x = y) (h5 : datF v m ms y.size (plS q st1) st3 = stf) (hC : ms = y.size) :
    Calls Try.prog 50 #[.pointer (some ⟨p, 0, none⟩), .int .i64 v, .pointer (some ⟨d, 0, none⟩)] w fun e w' => e = .returned (.tuple #[]) ∧ Bk w' p [.string I, .int .u8 s, .int .u8 (m : Int), .int .u8 (gr : Int), .string y, .int .i64 a] ∧ Rs w' d t q stf ∧ Up2 p d w w' := by
  have hdp : d ≠ p := Ne.symm hpd
  have HG := Lib.hid (fun W => grouped_any v I s m W hm)
  have HM := Lib.hid (fun W => measured_any v I s m W hm)
  have HS := Lib.hid (fun W => spread_any v I s m W hm)
  have HA := Lib.hid (fun W h => at_rs hz st1 W d h)
  have HR := Lib.hid (fun W h => rest_rs hz st2 W d h)
  have hxl := resS_le t st2
  rw [h3] at HR hxl
  rw [hG] at HG
  rw [hE] at HM
  rw [hS] at HS
  unfold datG at h1
  unfold datM at h2
  unfold datB at h4
  unfold datF at h5
  rw [hG] at h1
  rw [hE] at h2 h5
  rw [hS] at h4
  rw [if_neg (by simp)] at h1
  obtain ⟨hgr, hs1⟩ := Prod.mk.inj h1
  subst hgr
  rw [hs1] at h
  rw [if_pos rfl] at h2
  have HF := Lib.hid (fun W h => safe_rs hz st1 W d h)
  rw [h2] at HF
  rw [if_neg (fun h => h.2 hC)] at h5
  subst h5
  have n1 : ((ms : Int) != (y.size : Int)) = false := by rw [hC]; simp
  rw [if_pos rfl] at h4
  have HD := Lib.hid (fun W => un.drop_any x W (by simp only at hxl; omega))
  rw [h4] at HD
  have Q0 := Lib.hid hq
  have R0 := Lib.hid h
  have U0 := Lib.hid (Up2.refl p d w)
  have y0 := hq.c 0 _ rfl
  have y1 := hq.c 1 _ rfl
  have y2 := hq.c 2 _ rfl
  have y3 := hq.c 3 _ rfl
  have y4 := hq.c 4 _ rfl
  have y5 := hq.c 5 _ rfl
  have yf := hq.f
  try clear hC
  clear hxl hq h hG hE hS hz ht hm
  generalize plS q st1 = PL at *
  go_enter Try.func50, Try.ntmps50
  go_wp2_with (first
    | (go_at_call 10; refine (HG.out _).mono ?_; rintro e1 w1 ⟨rfl, hb1⟩; have Q1 := Lib.hid (Q0.out.below hb1); have R1 := Lib.hid (Rs.below R0.out hb1); have U1 := Lib.hid (U0.out.trans (Up2.of p d hb1)); have y0 := Q1.out.c 0 _ rfl; have y1 := Q1.out.c 1 _ rfl; have y2 := Q1.out.c 2 _ rfl; have y3 := Q1.out.c 3 _ rfl; have y4 := Q1.out.c 4 _ rfl; have y5 := Q1.out.c 5 _ rfl; have yf := Q1.out.f; clear hb1 Q0 R0 U0)
    | (go_at_call 45; refine (HA.out _ R1.out).mono ?_; rintro e99 w99 ⟨rfl, rfl⟩)
    | (go_at_call 12; refine (HM.out _).mono ?_; rintro e2 w2 ⟨rfl, hb2⟩; have Q2 := Lib.hid (Q1.out.below hb2); have R2 := Lib.hid (Rs.below R1.out hb2); have U2 := Lib.hid (U1.out.trans (Up2.of p d hb2)); have y0 := Q2.out.c 0 _ rfl; have y1 := Q2.out.c 1 _ rfl; have y2 := Q2.out.c 2 _ rfl; have y3 := Q2.out.c 3 _ rfl; have y4 := Q2.out.c 4 _ rfl; have y5 := Q2.out.c 5 _ rfl; have yf := Q2.out.f; clear hb2 Q1 R1 U1)
    | (go_at_call 66; refine (HF.out _ R2.out).mono ?_; rintro e3 w3 ⟨rfl, hr3, hu3⟩; have Q3 := Lib.hid (upd_bk Q2.out hu3 hpd); have R3 := Lib.hid hr3; have U3 := Lib.hid (U2.out.trans (Up2.ofr p hu3)); have y0 := Q3.out.c 0 _ rfl; have y1 := Q3.out.c 1 _ rfl; have y2 := Q3.out.c 2 _ rfl; have y3 := Q3.out.c 3 _ rfl; have y4 := Q3.out.c 4 _ rfl; have y5 := Q3.out.c 5 _ rfl; have yf := Q3.out.f; clear hr3 hu3 Q2 R2 U2)
    | (go_at_call 27; refine (HR.out _ R3.out).mono ?_; rintro e4 w4 ⟨rfl, hr4, hu4⟩; have Q4' := upd_bk Q3.out hu4 hpd; have z4 := Q4'.c 4 _ rfl; have zf4 := Q4'.f; have Q4 : Hid (Bk (w4.setCell ⟨p, 4, none⟩ (.string x)) p [.string I, .int .u8 s, .int .u8 (m : Int), .int .u8 ((0 : Nat) : Int), .string x, .int .i64 a]) := Lib.hid (Q4'.set 4 (.string x) (by simp)); have R4 : Hid (Rs (w4.setCell ⟨p, 4, none⟩ (.string x)) d t q _) := Lib.hid (Rs.upd hr4 ((Upd.refl p _).setCell 4 _) hdp); have U4 : Hid (Up2 p d w (w4.setCell ⟨p, 4, none⟩ (.string x))) := Lib.hid ((U3.out.trans (Up2.ofr p hu4)).setp 4 _); have y0 := Q4.out.c 0 _ rfl; have y1 := Q4.out.c 1 _ rfl; have y2 := Q4.out.c 2 _ rfl; have y3 := Q4.out.c 3 _ rfl; have y4 := Q4.out.c 4 _ rfl; have y5 := Q4.out.c 5 _ rfl; have yf := Q4.out.f; clear Q4' hr4 hu4 Q3 R3 U3)
    | (go_at_call 14; refine (HS.out _).mono ?_; rintro e5 w5 ⟨rfl, hb5⟩; have Q5 := Lib.hid (Q4.out.below hb5); have R5 := Lib.hid (Rs.below R4.out hb5); have U5 := Lib.hid (U4.out.trans (Up2.of p d hb5)); have y0 := Q5.out.c 0 _ rfl; have y1 := Q5.out.c 1 _ rfl; have y2 := Q5.out.c 2 _ rfl; have y3 := Q5.out.c 3 _ rfl; have y4 := Q5.out.c 4 _ rfl; have y5 := Q5.out.c 5 _ rfl; have yf := Q5.out.f; clear hb5 Q4 R4 U4)
    | (go_at_call 68; refine (HD.out _).mono ?_; rintro e6 w6 ⟨rfl, hb6⟩; have Q6' := Q5.out.below hb6; have z6 := Q6'.c 4 _ rfl; have zf6 := Q6'.f; have Q6 : Hid (Bk (w6.setCell ⟨p, 4, none⟩ (.string y)) p [.string I, .int .u8 s, .int .u8 (m : Int), .int .u8 ((0 : Nat) : Int), .string y, .int .i64 a]) := Lib.hid (Q6'.set 4 (.string y) (by simp)); have R6 : Hid (Rs (w6.setCell ⟨p, 4, none⟩ (.string y)) d t q _) := Lib.hid (Rs.upd (Rs.below R5.out hb6) ((Upd.refl p _).setCell 4 _) hdp); have U6 : Hid (Up2 p d w (w6.setCell ⟨p, 4, none⟩ (.string y))) := Lib.hid ((U5.out.trans (Up2.of p d hb6)).setp 4 _); have y0 := Q6.out.c 0 _ rfl; have y1 := Q6.out.c 1 _ rfl; have y2 := Q6.out.c 2 _ rfl; have y3 := Q6.out.c 3 _ rfl; have y4 := Q6.out.c 4 _ rfl; have y5 := Q6.out.c 5 _ rfl; have yf := Q6.out.f; clear Q6' hb6 Q5 R5 U5)
    | (go_at_call 12; refine (HM.out _).mono ?_; rintro e7 w7 ⟨rfl, hb7⟩; have Q7 := Lib.hid (Q6.out.below hb7); have R7 := Lib.hid (Rs.below R6.out hb7); have U7 := Lib.hid (U6.out.trans (Up2.of p d hb7)); have y0 := Q7.out.c 0 _ rfl; have y1 := Q7.out.c 1 _ rfl; have y2 := Q7.out.c 2 _ rfl; have y3 := Q7.out.c 3 _ rfl; have y4 := Q7.out.c 4 _ rfl; have y5 := Q7.out.c 5 _ rfl; have yf := Q7.out.f; clear hb7 Q6 R6 U6))
  go_end0
  exact ⟨rfl, Q7.out, R7.out, U7.out⟩
set_option maxRecDepth 100000 in
set_option maxHeartbeats 2000000 in
theorem data_nmnc {t : ByteArray} {q : Int} (hz : Sz t q) (ht : t.size ≤ 4000) (I : ByteArray) (s a : Int) (v : Int) (m : Nat) (hm : m < 256) (p d : Nat) (hpd : p ≠ d) (w : World) (hq : Bk w p [.string I, .int .u8 s, .int .u8 (m : Int), .int .u8 0, .string ⟨#[]⟩, .int .i64 a]) (h : Rs w d t q (.on 0))
    (hG : grpd v m = false) (hE : msrd v m = true) (hS : sprd v m = false) (st1 st2 st3 stf : RS) (gr ms : Nat) (x y : ByteArray) (h1 : datG v m t q = (gr, st1)) (h2 : datM v m t q st1 = (ms, st2)) (h3 : resS t st2 = (x, st3)) (h4 : datB v m x = y) (h5 : datF v m ms y.size (plS q st1) st3 = stf) (hC : ¬ ms = y.size) :
    Calls Try.prog 50 #[.pointer (some ⟨p, 0, none⟩), .int .i64 v, .pointer (some ⟨d, 0, none⟩)] w fun e w' => e = .returned (.tuple #[]) ∧ Bk w' p [.string I, .int .u8 s, .int .u8 (m : Int), .int .u8 (gr : Int), .string y, .int .i64 a] ∧ Rs w' d t q stf ∧ Up2 p d w w' := by
  have hdp : d ≠ p := Ne.symm hpd
  have HG := Lib.hid (fun W => grouped_any v I s m W hm)
  have HM := Lib.hid (fun W => measured_any v I s m W hm)
  have HS := Lib.hid (fun W => spread_any v I s m W hm)
  have HA := Lib.hid (fun W h => at_rs hz st1 W d h)
  have HR := Lib.hid (fun W h => rest_rs hz st2 W d h)
  have hxl := resS_le t st2
  rw [h3] at HR hxl
  rw [hG] at HG
  rw [hE] at HM
  rw [hS] at HS
  unfold datG at h1
  unfold datM at h2
  unfold datB at h4
  unfold datF at h5
  rw [hG] at h1
  rw [hE] at h2 h5
  rw [hS] at h4
  rw [if_neg (by simp)] at h1
  obtain ⟨hgr, hs1⟩ := Prod.mk.inj h1
  subst hgr
  rw [hs1] at h
  rw [if_pos rfl] at h2
  have HF := Lib.hid (fun W h => safe_rs hz st1 W d h)
  rw [h2] at HF
  rw [if_pos ⟨rfl, hC⟩] at h5
  have HX := Lib.hid (fun W h => fail_rs (t := t) (q := q) 1 (plS q st1) (.inr rfl) st3 W d h)
  rw [h5] at HX
  have n1 : ((ms : Int) != (y.size : Int)) = true := (nb (by omega)).2
  rw [if_neg (by simp)] at h4
  subst h4
  have Q0 := Lib.hid hq
  have R0 := Lib.hid h
  have U0 := Lib.hid (Up2.refl p d w)
  have y0 := hq.c 0 _ rfl
  have y1 := hq.c 1 _ rfl
  have y2 := hq.c 2 _ rfl
  have y3 := hq.c 3 _ rfl
  have y4 := hq.c 4 _ rfl
  have y5 := hq.c 5 _ rfl
  have yf := hq.f
  try clear hC
  clear hxl hq h hG hE hS hz ht hm
  generalize plS q st1 = PL at *
  go_enter Try.func50, Try.ntmps50
  go_wp2_with (first
    | (go_at_call 10; refine (HG.out _).mono ?_; rintro e1 w1 ⟨rfl, hb1⟩; have Q1 := Lib.hid (Q0.out.below hb1); have R1 := Lib.hid (Rs.below R0.out hb1); have U1 := Lib.hid (U0.out.trans (Up2.of p d hb1)); have y0 := Q1.out.c 0 _ rfl; have y1 := Q1.out.c 1 _ rfl; have y2 := Q1.out.c 2 _ rfl; have y3 := Q1.out.c 3 _ rfl; have y4 := Q1.out.c 4 _ rfl; have y5 := Q1.out.c 5 _ rfl; have yf := Q1.out.f; clear hb1 Q0 R0 U0)
    | (go_at_call 45; refine (HA.out _ R1.out).mono ?_; rintro e99 w99 ⟨rfl, rfl⟩)
    | (go_at_call 12; refine (HM.out _).mono ?_; rintro e2 w2 ⟨rfl, hb2⟩; have Q2 := Lib.hid (Q1.out.below hb2); have R2 := Lib.hid (Rs.below R1.out hb2); have U2 := Lib.hid (U1.out.trans (Up2.of p d hb2)); have y0 := Q2.out.c 0 _ rfl; have y1 := Q2.out.c 1 _ rfl; have y2 := Q2.out.c 2 _ rfl; have y3 := Q2.out.c 3 _ rfl; have y4 := Q2.out.c 4 _ rfl; have y5 := Q2.out.c 5 _ rfl; have yf := Q2.out.f; clear hb2 Q1 R1 U1)
    | (go_at_call 66; refine (HF.out _ R2.out).mono ?_; rintro e3 w3 ⟨rfl, hr3, hu3⟩; have Q3 := Lib.hid (upd_bk Q2.out hu3 hpd); have R3 := Lib.hid hr3; have U3 := Lib.hid (U2.out.trans (Up2.ofr p hu3)); have y0 := Q3.out.c 0 _ rfl; have y1 := Q3.out.c 1 _ rfl; have y2 := Q3.out.c 2 _ rfl; have y3 := Q3.out.c 3 _ rfl; have y4 := Q3.out.c 4 _ rfl; have y5 := Q3.out.c 5 _ rfl; have yf := Q3.out.f; clear hr3 hu3 Q2 R2 U2)
    | (go_at_call 27; refine (HR.out _ R3.out).mono ?_; rintro e4 w4 ⟨rfl, hr4, hu4⟩; have Q4' := upd_bk Q3.out hu4 hpd; have z4 := Q4'.c 4 _ rfl; have zf4 := Q4'.f; have Q4 : Hid (Bk (w4.setCell ⟨p, 4, none⟩ (.string x)) p [.string I, .int .u8 s, .int .u8 (m : Int), .int .u8 ((0 : Nat) : Int), .string x, .int .i64 a]) := Lib.hid (Q4'.set 4 (.string x) (by simp)); have R4 : Hid (Rs (w4.setCell ⟨p, 4, none⟩ (.string x)) d t q _) := Lib.hid (Rs.upd hr4 ((Upd.refl p _).setCell 4 _) hdp); have U4 : Hid (Up2 p d w (w4.setCell ⟨p, 4, none⟩ (.string x))) := Lib.hid ((U3.out.trans (Up2.ofr p hu4)).setp 4 _); have y0 := Q4.out.c 0 _ rfl; have y1 := Q4.out.c 1 _ rfl; have y2 := Q4.out.c 2 _ rfl; have y3 := Q4.out.c 3 _ rfl; have y4 := Q4.out.c 4 _ rfl; have y5 := Q4.out.c 5 _ rfl; have yf := Q4.out.f; clear Q4' hr4 hu4 Q3 R3 U3)
    | (go_at_call 14; refine (HS.out _).mono ?_; rintro e5 w5 ⟨rfl, hb5⟩; have Q5 := Lib.hid (Q4.out.below hb5); have R5 := Lib.hid (Rs.below R4.out hb5); have U5 := Lib.hid (U4.out.trans (Up2.of p d hb5)); have y0 := Q5.out.c 0 _ rfl; have y1 := Q5.out.c 1 _ rfl; have y2 := Q5.out.c 2 _ rfl; have y3 := Q5.out.c 3 _ rfl; have y4 := Q5.out.c 4 _ rfl; have y5 := Q5.out.c 5 _ rfl; have yf := Q5.out.f; clear hb5 Q4 R4 U4)
    | (go_at_call 12; refine (HM.out _).mono ?_; rintro e6 w6 ⟨rfl, hb6⟩; have Q6 := Lib.hid (Q5.out.below hb6); have R6 := Lib.hid (Rs.below R5.out hb6); have U6 := Lib.hid (U5.out.trans (Up2.of p d hb6)); have y0 := Q6.out.c 0 _ rfl; have y1 := Q6.out.c 1 _ rfl; have y2 := Q6.out.c 2 _ rfl; have y3 := Q6.out.c 3 _ rfl; have y4 := Q6.out.c 4 _ rfl; have y5 := Q6.out.c 5 _ rfl; have yf := Q6.out.f; clear hb6 Q5 R5 U5)
    | (go_at_call 51; refine (HX.out _ R6.out).mono ?_; rintro e7 w7 ⟨rfl, hr7, hu7⟩; have Q7 := Lib.hid (upd_bk Q6.out hu7 hpd); have R7 := Lib.hid hr7; have U7 := Lib.hid (U6.out.trans (Up2.ofr p hu7)); have y0 := Q7.out.c 0 _ rfl; have y1 := Q7.out.c 1 _ rfl; have y2 := Q7.out.c 2 _ rfl; have y3 := Q7.out.c 3 _ rfl; have y4 := Q7.out.c 4 _ rfl; have y5 := Q7.out.c 5 _ rfl; have yf := Q7.out.f; clear hr7 hu7 Q6 R6 U6))
  go_end0
  exact ⟨rfl, Q7.out, R7.out, U7.out⟩
set_option maxRecDepth 100000 in
set_option maxHeartbeats 2000000 in
theorem data_nmn {t : ByteArray} {q : Int} (hz : Sz t q) (ht : t.size ≤ 4000) (I : ByteArray) (s a : Int) (v : Int) (m : Nat) (hm : m < 256) (p d : Nat) (hpd : p ≠ d) (w : World) (hq : Bk w p [.string I, .int .u8 s, .int .u8 (m : Int), .int .u8 0, .string ⟨#[]⟩, .int .i64 a]) (h : Rs w d t q (.on 0))
    (hG : grpd v m = false) (hE : msrd v m = true) (hS : sprd v m = false) (st1 st2 st3 stf : RS) (gr ms : Nat) (x y : ByteArray) (h1 : datG v m t q = (gr, st1)) (h2 : datM v m t q st1 = (ms, st2)) (h3 : resS t st2 = (x, st3)) (h4 : datB v m x = y) (h5 : datF v m ms y.size (plS q st1) st3 = stf) (hC : ms = y.size) :
    Calls Try.prog 50 #[.pointer (some ⟨p, 0, none⟩), .int .i64 v, .pointer (some ⟨d, 0, none⟩)] w fun e w' => e = .returned (.tuple #[]) ∧ Bk w' p [.string I, .int .u8 s, .int .u8 (m : Int), .int .u8 (gr : Int), .string y, .int .i64 a] ∧ Rs w' d t q stf ∧ Up2 p d w w' := by
  have hdp : d ≠ p := Ne.symm hpd
  have HG := Lib.hid (fun W => grouped_any v I s m W hm)
  have HM := Lib.hid (fun W => measured_any v I s m W hm)
  have HS := Lib.hid (fun W => spread_any v I s m W hm)
  have HA := Lib.hid (fun W h => at_rs hz st1 W d h)
  have HR := Lib.hid (fun W h => rest_rs hz st2 W d h)
  have hxl := resS_le t st2
  rw [h3] at HR hxl
  rw [hG] at HG
  rw [hE] at HM
  rw [hS] at HS
  unfold datG at h1
  unfold datM at h2
  unfold datB at h4
  unfold datF at h5
  rw [hG] at h1
  rw [hE] at h2 h5
  rw [hS] at h4
  rw [if_neg (by simp)] at h1
  obtain ⟨hgr, hs1⟩ := Prod.mk.inj h1
  subst hgr
  rw [hs1] at h
  rw [if_pos rfl] at h2
  have HF := Lib.hid (fun W h => safe_rs hz st1 W d h)
  rw [h2] at HF
  rw [if_neg (fun h => h.2 hC)] at h5
  subst h5
  have n1 : ((ms : Int) != (y.size : Int)) = false := by rw [hC]; simp
  rw [if_neg (by simp)] at h4
  subst h4
  have Q0 := Lib.hid hq
  have R0 := Lib.hid h
  have U0 := Lib.hid (Up2.refl p d w)
  have y0 := hq.c 0 _ rfl
  have y1 := hq.c 1 _ rfl
  have y2 := hq.c 2 _ rfl
  have y3 := hq.c 3 _ rfl
  have y4 := hq.c 4 _ rfl
  have y5 := hq.c 5 _ rfl
  have yf := hq.f
  try clear hC
  clear hxl hq h hG hE hS hz ht hm
  generalize plS q st1 = PL at *
  go_enter Try.func50, Try.ntmps50
  go_wp2_with (first
    | (go_at_call 10; refine (HG.out _).mono ?_; rintro e1 w1 ⟨rfl, hb1⟩; have Q1 := Lib.hid (Q0.out.below hb1); have R1 := Lib.hid (Rs.below R0.out hb1); have U1 := Lib.hid (U0.out.trans (Up2.of p d hb1)); have y0 := Q1.out.c 0 _ rfl; have y1 := Q1.out.c 1 _ rfl; have y2 := Q1.out.c 2 _ rfl; have y3 := Q1.out.c 3 _ rfl; have y4 := Q1.out.c 4 _ rfl; have y5 := Q1.out.c 5 _ rfl; have yf := Q1.out.f; clear hb1 Q0 R0 U0)
    | (go_at_call 45; refine (HA.out _ R1.out).mono ?_; rintro e99 w99 ⟨rfl, rfl⟩)
    | (go_at_call 12; refine (HM.out _).mono ?_; rintro e2 w2 ⟨rfl, hb2⟩; have Q2 := Lib.hid (Q1.out.below hb2); have R2 := Lib.hid (Rs.below R1.out hb2); have U2 := Lib.hid (U1.out.trans (Up2.of p d hb2)); have y0 := Q2.out.c 0 _ rfl; have y1 := Q2.out.c 1 _ rfl; have y2 := Q2.out.c 2 _ rfl; have y3 := Q2.out.c 3 _ rfl; have y4 := Q2.out.c 4 _ rfl; have y5 := Q2.out.c 5 _ rfl; have yf := Q2.out.f; clear hb2 Q1 R1 U1)
    | (go_at_call 66; refine (HF.out _ R2.out).mono ?_; rintro e3 w3 ⟨rfl, hr3, hu3⟩; have Q3 := Lib.hid (upd_bk Q2.out hu3 hpd); have R3 := Lib.hid hr3; have U3 := Lib.hid (U2.out.trans (Up2.ofr p hu3)); have y0 := Q3.out.c 0 _ rfl; have y1 := Q3.out.c 1 _ rfl; have y2 := Q3.out.c 2 _ rfl; have y3 := Q3.out.c 3 _ rfl; have y4 := Q3.out.c 4 _ rfl; have y5 := Q3.out.c 5 _ rfl; have yf := Q3.out.f; clear hr3 hu3 Q2 R2 U2)
    | (go_at_call 27; refine (HR.out _ R3.out).mono ?_; rintro e4 w4 ⟨rfl, hr4, hu4⟩; have Q4' := upd_bk Q3.out hu4 hpd; have z4 := Q4'.c 4 _ rfl; have zf4 := Q4'.f; have Q4 : Hid (Bk (w4.setCell ⟨p, 4, none⟩ (.string x)) p [.string I, .int .u8 s, .int .u8 (m : Int), .int .u8 ((0 : Nat) : Int), .string x, .int .i64 a]) := Lib.hid (Q4'.set 4 (.string x) (by simp)); have R4 : Hid (Rs (w4.setCell ⟨p, 4, none⟩ (.string x)) d t q _) := Lib.hid (Rs.upd hr4 ((Upd.refl p _).setCell 4 _) hdp); have U4 : Hid (Up2 p d w (w4.setCell ⟨p, 4, none⟩ (.string x))) := Lib.hid ((U3.out.trans (Up2.ofr p hu4)).setp 4 _); have y0 := Q4.out.c 0 _ rfl; have y1 := Q4.out.c 1 _ rfl; have y2 := Q4.out.c 2 _ rfl; have y3 := Q4.out.c 3 _ rfl; have y4 := Q4.out.c 4 _ rfl; have y5 := Q4.out.c 5 _ rfl; have yf := Q4.out.f; clear Q4' hr4 hu4 Q3 R3 U3)
    | (go_at_call 14; refine (HS.out _).mono ?_; rintro e5 w5 ⟨rfl, hb5⟩; have Q5 := Lib.hid (Q4.out.below hb5); have R5 := Lib.hid (Rs.below R4.out hb5); have U5 := Lib.hid (U4.out.trans (Up2.of p d hb5)); have y0 := Q5.out.c 0 _ rfl; have y1 := Q5.out.c 1 _ rfl; have y2 := Q5.out.c 2 _ rfl; have y3 := Q5.out.c 3 _ rfl; have y4 := Q5.out.c 4 _ rfl; have y5 := Q5.out.c 5 _ rfl; have yf := Q5.out.f; clear hb5 Q4 R4 U4)
    | (go_at_call 12; refine (HM.out _).mono ?_; rintro e6 w6 ⟨rfl, hb6⟩; have Q6 := Lib.hid (Q5.out.below hb6); have R6 := Lib.hid (Rs.below R5.out hb6); have U6 := Lib.hid (U5.out.trans (Up2.of p d hb6)); have y0 := Q6.out.c 0 _ rfl; have y1 := Q6.out.c 1 _ rfl; have y2 := Q6.out.c 2 _ rfl; have y3 := Q6.out.c 3 _ rfl; have y4 := Q6.out.c 4 _ rfl; have y5 := Q6.out.c 5 _ rfl; have yf := Q6.out.f; clear hb6 Q5 R5 U5))
  go_end0
  exact ⟨rfl, Q6.out, R6.out, U6.out⟩
set_option maxRecDepth 100000 in
set_option maxHeartbeats 2000000 in
theorem data_nns {t : ByteArray} {q : Int} (hz : Sz t q) (ht : t.size ≤ 4000) (I : ByteArray) (s a : Int) (v : Int) (m : Nat) (hm : m < 256) (p d : Nat) (hpd : p ≠ d) (w : World) (hq : Bk w p [.string I, .int .u8 s, .int .u8 (m : Int), .int .u8 0, .string ⟨#[]⟩, .int .i64 a]) (h : Rs w d t q (.on 0))
    (hG : grpd v m = false) (hE : msrd v m = false) (hS : sprd v m = true) (st1 st2 st3 stf : RS) (gr ms : Nat) (x y : ByteArray) (h1 : datG v m t q = (gr, st1)) (h2 : datM v m t q st1 = (ms, st2)) (h3 : resS t st2 = (x, st3)) (h4 : datB v m x = y) (h5 : datF v m ms y.size (plS q st1) st3 = stf) :
    Calls Try.prog 50 #[.pointer (some ⟨p, 0, none⟩), .int .i64 v, .pointer (some ⟨d, 0, none⟩)] w fun e w' => e = .returned (.tuple #[]) ∧ Bk w' p [.string I, .int .u8 s, .int .u8 (m : Int), .int .u8 (gr : Int), .string y, .int .i64 a] ∧ Rs w' d t q stf ∧ Up2 p d w w' := by
  have hdp : d ≠ p := Ne.symm hpd
  have HG := Lib.hid (fun W => grouped_any v I s m W hm)
  have HM := Lib.hid (fun W => measured_any v I s m W hm)
  have HS := Lib.hid (fun W => spread_any v I s m W hm)
  have HA := Lib.hid (fun W h => at_rs hz st1 W d h)
  have HR := Lib.hid (fun W h => rest_rs hz st2 W d h)
  have hxl := resS_le t st2
  rw [h3] at HR hxl
  rw [hG] at HG
  rw [hE] at HM
  rw [hS] at HS
  unfold datG at h1
  unfold datM at h2
  unfold datB at h4
  unfold datF at h5
  rw [hG] at h1
  rw [hE] at h2 h5
  rw [hS] at h4
  rw [if_neg (by simp)] at h1
  obtain ⟨hgr, hs1⟩ := Prod.mk.inj h1
  subst hgr
  rw [hs1] at h
  rw [if_neg (by simp)] at h2 h5
  obtain ⟨hms, hs2⟩ := Prod.mk.inj h2
  subst hms
  subst hs2
  subst h5
  rw [if_pos rfl] at h4
  have HD := Lib.hid (fun W => un.drop_any x W (by simp only at hxl; omega))
  rw [h4] at HD
  have Q0 := Lib.hid hq
  have R0 := Lib.hid h
  have U0 := Lib.hid (Up2.refl p d w)
  have y0 := hq.c 0 _ rfl
  have y1 := hq.c 1 _ rfl
  have y2 := hq.c 2 _ rfl
  have y3 := hq.c 3 _ rfl
  have y4 := hq.c 4 _ rfl
  have y5 := hq.c 5 _ rfl
  have yf := hq.f
  try clear hC
  clear hxl hq h hG hE hS hz ht hm
  generalize plS q st1 = PL at *
  go_enter Try.func50, Try.ntmps50
  go_wp2_with (first
    | (go_at_call 10; refine (HG.out _).mono ?_; rintro e1 w1 ⟨rfl, hb1⟩; have Q1 := Lib.hid (Q0.out.below hb1); have R1 := Lib.hid (Rs.below R0.out hb1); have U1 := Lib.hid (U0.out.trans (Up2.of p d hb1)); have y0 := Q1.out.c 0 _ rfl; have y1 := Q1.out.c 1 _ rfl; have y2 := Q1.out.c 2 _ rfl; have y3 := Q1.out.c 3 _ rfl; have y4 := Q1.out.c 4 _ rfl; have y5 := Q1.out.c 5 _ rfl; have yf := Q1.out.f; clear hb1 Q0 R0 U0)
    | (go_at_call 45; refine (HA.out _ R1.out).mono ?_; rintro e99 w99 ⟨rfl, rfl⟩)
    | (go_at_call 12; refine (HM.out _).mono ?_; rintro e2 w2 ⟨rfl, hb2⟩; have Q2 := Lib.hid (Q1.out.below hb2); have R2 := Lib.hid (Rs.below R1.out hb2); have U2 := Lib.hid (U1.out.trans (Up2.of p d hb2)); have y0 := Q2.out.c 0 _ rfl; have y1 := Q2.out.c 1 _ rfl; have y2 := Q2.out.c 2 _ rfl; have y3 := Q2.out.c 3 _ rfl; have y4 := Q2.out.c 4 _ rfl; have y5 := Q2.out.c 5 _ rfl; have yf := Q2.out.f; clear hb2 Q1 R1 U1)
    | (go_at_call 27; refine (HR.out _ R2.out).mono ?_; rintro e3 w3 ⟨rfl, hr3, hu3⟩; have Q3' := upd_bk Q2.out hu3 hpd; have z3 := Q3'.c 4 _ rfl; have zf3 := Q3'.f; have Q3 : Hid (Bk (w3.setCell ⟨p, 4, none⟩ (.string x)) p [.string I, .int .u8 s, .int .u8 (m : Int), .int .u8 ((0 : Nat) : Int), .string x, .int .i64 a]) := Lib.hid (Q3'.set 4 (.string x) (by simp)); have R3 : Hid (Rs (w3.setCell ⟨p, 4, none⟩ (.string x)) d t q _) := Lib.hid (Rs.upd hr3 ((Upd.refl p _).setCell 4 _) hdp); have U3 : Hid (Up2 p d w (w3.setCell ⟨p, 4, none⟩ (.string x))) := Lib.hid ((U2.out.trans (Up2.ofr p hu3)).setp 4 _); have y0 := Q3.out.c 0 _ rfl; have y1 := Q3.out.c 1 _ rfl; have y2 := Q3.out.c 2 _ rfl; have y3 := Q3.out.c 3 _ rfl; have y4 := Q3.out.c 4 _ rfl; have y5 := Q3.out.c 5 _ rfl; have yf := Q3.out.f; clear Q3' hr3 hu3 Q2 R2 U2)
    | (go_at_call 14; refine (HS.out _).mono ?_; rintro e4 w4 ⟨rfl, hb4⟩; have Q4 := Lib.hid (Q3.out.below hb4); have R4 := Lib.hid (Rs.below R3.out hb4); have U4 := Lib.hid (U3.out.trans (Up2.of p d hb4)); have y0 := Q4.out.c 0 _ rfl; have y1 := Q4.out.c 1 _ rfl; have y2 := Q4.out.c 2 _ rfl; have y3 := Q4.out.c 3 _ rfl; have y4 := Q4.out.c 4 _ rfl; have y5 := Q4.out.c 5 _ rfl; have yf := Q4.out.f; clear hb4 Q3 R3 U3)
    | (go_at_call 68; refine (HD.out _).mono ?_; rintro e5 w5 ⟨rfl, hb5⟩; have Q5' := Q4.out.below hb5; have z5 := Q5'.c 4 _ rfl; have zf5 := Q5'.f; have Q5 : Hid (Bk (w5.setCell ⟨p, 4, none⟩ (.string y)) p [.string I, .int .u8 s, .int .u8 (m : Int), .int .u8 ((0 : Nat) : Int), .string y, .int .i64 a]) := Lib.hid (Q5'.set 4 (.string y) (by simp)); have R5 : Hid (Rs (w5.setCell ⟨p, 4, none⟩ (.string y)) d t q _) := Lib.hid (Rs.upd (Rs.below R4.out hb5) ((Upd.refl p _).setCell 4 _) hdp); have U5 : Hid (Up2 p d w (w5.setCell ⟨p, 4, none⟩ (.string y))) := Lib.hid ((U4.out.trans (Up2.of p d hb5)).setp 4 _); have y0 := Q5.out.c 0 _ rfl; have y1 := Q5.out.c 1 _ rfl; have y2 := Q5.out.c 2 _ rfl; have y3 := Q5.out.c 3 _ rfl; have y4 := Q5.out.c 4 _ rfl; have y5 := Q5.out.c 5 _ rfl; have yf := Q5.out.f; clear Q5' hb5 Q4 R4 U4)
    | (go_at_call 12; refine (HM.out _).mono ?_; rintro e6 w6 ⟨rfl, hb6⟩; have Q6 := Lib.hid (Q5.out.below hb6); have R6 := Lib.hid (Rs.below R5.out hb6); have U6 := Lib.hid (U5.out.trans (Up2.of p d hb6)); have y0 := Q6.out.c 0 _ rfl; have y1 := Q6.out.c 1 _ rfl; have y2 := Q6.out.c 2 _ rfl; have y3 := Q6.out.c 3 _ rfl; have y4 := Q6.out.c 4 _ rfl; have y5 := Q6.out.c 5 _ rfl; have yf := Q6.out.f; clear hb6 Q5 R5 U5))
  go_end0
  exact ⟨rfl, Q6.out, R6.out, U6.out⟩
set_option maxRecDepth 100000 in
set_option maxHeartbeats 2000000 in
theorem data_nnn {t : ByteArray} {q : Int} (hz : Sz t q) (ht : t.size ≤ 4000) (I : ByteArray) (s a : Int) (v : Int) (m : Nat) (hm : m < 256) (p d : Nat) (hpd : p ≠ d) (w : World) (hq : Bk w p [.string I, .int .u8 s, .int .u8 (m : Int), .int .u8 0, .string ⟨#[]⟩, .int .i64 a]) (h : Rs w d t q (.on 0))
    (hG : grpd v m = false) (hE : msrd v m = false) (hS : sprd v m = false) (st1 st2 st3 stf : RS) (gr ms : Nat) (x y : ByteArray) (h1 : datG v m t q = (gr, st1)) (h2 : datM v m t q st1 = (ms, st2)) (h3 : resS t st2 = (x, st3)) (h4 : datB v m x = y) (h5 : datF v m ms y.size (plS q st1) st3 = stf) :
    Calls Try.prog 50 #[.pointer (some ⟨p, 0, none⟩), .int .i64 v, .pointer (some ⟨d, 0, none⟩)] w fun e w' => e = .returned (.tuple #[]) ∧ Bk w' p [.string I, .int .u8 s, .int .u8 (m : Int), .int .u8 (gr : Int), .string y, .int .i64 a] ∧ Rs w' d t q stf ∧ Up2 p d w w' := by
  have hdp : d ≠ p := Ne.symm hpd
  have HG := Lib.hid (fun W => grouped_any v I s m W hm)
  have HM := Lib.hid (fun W => measured_any v I s m W hm)
  have HS := Lib.hid (fun W => spread_any v I s m W hm)
  have HA := Lib.hid (fun W h => at_rs hz st1 W d h)
  have HR := Lib.hid (fun W h => rest_rs hz st2 W d h)
  have hxl := resS_le t st2
  rw [h3] at HR hxl
  rw [hG] at HG
  rw [hE] at HM
  rw [hS] at HS
  unfold datG at h1
  unfold datM at h2
  unfold datB at h4
  unfold datF at h5
  rw [hG] at h1
  rw [hE] at h2 h5
  rw [hS] at h4
  rw [if_neg (by simp)] at h1
  obtain ⟨hgr, hs1⟩ := Prod.mk.inj h1
  subst hgr
  rw [hs1] at h
  rw [if_neg (by simp)] at h2 h5
  obtain ⟨hms, hs2⟩ := Prod.mk.inj h2
  subst hms
  subst hs2
  subst h5
  rw [if_neg (by simp)] at h4
  subst h4
  have Q0 := Lib.hid hq
  have R0 := Lib.hid h
  have U0 := Lib.hid (Up2.refl p d w)
  have y0 := hq.c 0 _ rfl
  have y1 := hq.c 1 _ rfl
  have y2 := hq.c 2 _ rfl
  have y3 := hq.c 3 _ rfl
  have y4 := hq.c 4 _ rfl
  have y5 := hq.c 5 _ rfl
  have yf := hq.f
  try clear hC
  clear hxl hq h hG hE hS hz ht hm
  generalize plS q st1 = PL at *
  go_enter Try.func50, Try.ntmps50
  go_wp2_with (first
    | (go_at_call 10; refine (HG.out _).mono ?_; rintro e1 w1 ⟨rfl, hb1⟩; have Q1 := Lib.hid (Q0.out.below hb1); have R1 := Lib.hid (Rs.below R0.out hb1); have U1 := Lib.hid (U0.out.trans (Up2.of p d hb1)); have y0 := Q1.out.c 0 _ rfl; have y1 := Q1.out.c 1 _ rfl; have y2 := Q1.out.c 2 _ rfl; have y3 := Q1.out.c 3 _ rfl; have y4 := Q1.out.c 4 _ rfl; have y5 := Q1.out.c 5 _ rfl; have yf := Q1.out.f; clear hb1 Q0 R0 U0)
    | (go_at_call 45; refine (HA.out _ R1.out).mono ?_; rintro e99 w99 ⟨rfl, rfl⟩)
    | (go_at_call 12; refine (HM.out _).mono ?_; rintro e2 w2 ⟨rfl, hb2⟩; have Q2 := Lib.hid (Q1.out.below hb2); have R2 := Lib.hid (Rs.below R1.out hb2); have U2 := Lib.hid (U1.out.trans (Up2.of p d hb2)); have y0 := Q2.out.c 0 _ rfl; have y1 := Q2.out.c 1 _ rfl; have y2 := Q2.out.c 2 _ rfl; have y3 := Q2.out.c 3 _ rfl; have y4 := Q2.out.c 4 _ rfl; have y5 := Q2.out.c 5 _ rfl; have yf := Q2.out.f; clear hb2 Q1 R1 U1)
    | (go_at_call 27; refine (HR.out _ R2.out).mono ?_; rintro e3 w3 ⟨rfl, hr3, hu3⟩; have Q3' := upd_bk Q2.out hu3 hpd; have z3 := Q3'.c 4 _ rfl; have zf3 := Q3'.f; have Q3 : Hid (Bk (w3.setCell ⟨p, 4, none⟩ (.string x)) p [.string I, .int .u8 s, .int .u8 (m : Int), .int .u8 ((0 : Nat) : Int), .string x, .int .i64 a]) := Lib.hid (Q3'.set 4 (.string x) (by simp)); have R3 : Hid (Rs (w3.setCell ⟨p, 4, none⟩ (.string x)) d t q _) := Lib.hid (Rs.upd hr3 ((Upd.refl p _).setCell 4 _) hdp); have U3 : Hid (Up2 p d w (w3.setCell ⟨p, 4, none⟩ (.string x))) := Lib.hid ((U2.out.trans (Up2.ofr p hu3)).setp 4 _); have y0 := Q3.out.c 0 _ rfl; have y1 := Q3.out.c 1 _ rfl; have y2 := Q3.out.c 2 _ rfl; have y3 := Q3.out.c 3 _ rfl; have y4 := Q3.out.c 4 _ rfl; have y5 := Q3.out.c 5 _ rfl; have yf := Q3.out.f; clear Q3' hr3 hu3 Q2 R2 U2)
    | (go_at_call 14; refine (HS.out _).mono ?_; rintro e4 w4 ⟨rfl, hb4⟩; have Q4 := Lib.hid (Q3.out.below hb4); have R4 := Lib.hid (Rs.below R3.out hb4); have U4 := Lib.hid (U3.out.trans (Up2.of p d hb4)); have y0 := Q4.out.c 0 _ rfl; have y1 := Q4.out.c 1 _ rfl; have y2 := Q4.out.c 2 _ rfl; have y3 := Q4.out.c 3 _ rfl; have y4 := Q4.out.c 4 _ rfl; have y5 := Q4.out.c 5 _ rfl; have yf := Q4.out.f; clear hb4 Q3 R3 U3)
    | (go_at_call 12; refine (HM.out _).mono ?_; rintro e5 w5 ⟨rfl, hb5⟩; have Q5 := Lib.hid (Q4.out.below hb5); have R5 := Lib.hid (Rs.below R4.out hb5); have U5 := Lib.hid (U4.out.trans (Up2.of p d hb5)); have y0 := Q5.out.c 0 _ rfl; have y1 := Q5.out.c 1 _ rfl; have y2 := Q5.out.c 2 _ rfl; have y3 := Q5.out.c 3 _ rfl; have y4 := Q5.out.c 4 _ rfl; have y5 := Q5.out.c 5 _ rfl; have yf := Q5.out.f; clear hb5 Q4 R4 U4))
  go_end0
  exact ⟨rfl, Q5.out, R5.out, U5.out⟩
theorem data_rs {t : ByteArray} {q : Int} (hz : Sz t q) (ht : t.size ≤ 4000) (I : ByteArray) (s a : Int) (v : Int) (m : Nat) (hm : m < 256) (p d : Nat) (hpd : p ≠ d) (w : World) (hq : Bk w p [.string I, .int .u8 s, .int .u8 (m : Int), .int .u8 0, .string ⟨#[]⟩, .int .i64 a]) (h : Rs w d t q (.on 0)) (st1 st2 st3 stf : RS) (gr ms : Nat) (x y : ByteArray) (h1 : datG v m t q = (gr, st1)) (h2 : datM v m t q st1 = (ms, st2)) (h3 : resS t st2 = (x, st3)) (h4 : datB v m x = y) (h5 : datF v m ms y.size (plS q st1) st3 = stf) :
    Calls Try.prog 50 #[.pointer (some ⟨p, 0, none⟩), .int .i64 v, .pointer (some ⟨d, 0, none⟩)] w fun e w' => e = .returned (.tuple #[]) ∧ Bk w' p [.string I, .int .u8 s, .int .u8 (m : Int), .int .u8 (gr : Int), .string y, .int .i64 a] ∧ Rs w' d t q stf ∧ Up2 p d w w' := by
  by_cases hC : ms = y.size
  · cases hG : grpd v m <;> cases hE : msrd v m <;> cases hS : sprd v m
    · exact data_nnn hz ht I s a v m hm p d hpd w hq h hG hE hS st1 st2 st3 stf gr ms x y h1 h2 h3 h4 h5
    · exact data_nns hz ht I s a v m hm p d hpd w hq h hG hE hS st1 st2 st3 stf gr ms x y h1 h2 h3 h4 h5
    · exact data_nmn hz ht I s a v m hm p d hpd w hq h hG hE hS st1 st2 st3 stf gr ms x y h1 h2 h3 h4 h5 hC
    · exact data_nms hz ht I s a v m hm p d hpd w hq h hG hE hS st1 st2 st3 stf gr ms x y h1 h2 h3 h4 h5 hC
    · exact data_gnn hz ht I s a v m hm p d hpd w hq h hG hE hS st1 st2 st3 stf gr ms x y h1 h2 h3 h4 h5
    · exact data_gns hz ht I s a v m hm p d hpd w hq h hG hE hS st1 st2 st3 stf gr ms x y h1 h2 h3 h4 h5
    · exact data_gmn hz ht I s a v m hm p d hpd w hq h hG hE hS st1 st2 st3 stf gr ms x y h1 h2 h3 h4 h5 hC
    · exact data_gms hz ht I s a v m hm p d hpd w hq h hG hE hS st1 st2 st3 stf gr ms x y h1 h2 h3 h4 h5 hC
  · cases hG : grpd v m <;> cases hE : msrd v m <;> cases hS : sprd v m
    · exact data_nnn hz ht I s a v m hm p d hpd w hq h hG hE hS st1 st2 st3 stf gr ms x y h1 h2 h3 h4 h5
    · exact data_nns hz ht I s a v m hm p d hpd w hq h hG hE hS st1 st2 st3 stf gr ms x y h1 h2 h3 h4 h5
    · exact data_nmnc hz ht I s a v m hm p d hpd w hq h hG hE hS st1 st2 st3 stf gr ms x y h1 h2 h3 h4 h5 hC
    · exact data_nmsc hz ht I s a v m hm p d hpd w hq h hG hE hS st1 st2 st3 stf gr ms x y h1 h2 h3 h4 h5 hC
    · exact data_gnn hz ht I s a v m hm p d hpd w hq h hG hE hS st1 st2 st3 stf gr ms x y h1 h2 h3 h4 h5
    · exact data_gns hz ht I s a v m hm p d hpd w hq h hG hE hS st1 st2 st3 stf gr ms x y h1 h2 h3 h4 h5
    · exact data_gmnc hz ht I s a v m hm p d hpd w hq h hG hE hS st1 st2 st3 stf gr ms x y h1 h2 h3 h4 h5 hC
    · exact data_gmsc hz ht I s a v m hm p d hpd w hq h hG hE hS st1 st2 st3 stf gr ms x y h1 h2 h3 h4 h5 hC
end Go.Proofs.Ytkhajafjieofhaa.fl
