/- The landed frame: Parse, where there is one: a contract. -/
import Derived.Test.YtkhajafjieofhaaFlH
import Derived.Test.YtkhajafjieofhaaFlI
import Derived.Test.YtkhajafjieofhaaFlE
namespace Go.Proofs.Ytkhajafjieofhaa.fl
open Go.RowKit Go.Lib
open Go.Proofs.Ytkhajafjieofhaa.un (bs bs_list bs_size bs_app bs_back size_list wrap64)
open Go.Proofs.Ytkhajafjieofhaa.fr Go.Proofs.Ytkhajafjieofhaa.bk
open Go.Proofs.Ytkhajafjieofhaa.oct (Rd Upd num num7)
set_option linter.unusedVariables false
/-- What Parse keeps: what it answers, its frame, its reader. -/
structure Pz (w : World) (b : Nat) (t : ByteArray) (q : Int) (p : Nat) (fc : List Value) (st : RS) (W : World) : Prop where
  z : Bk W w.heap.size [.string ⟨#[]⟩, .int .u8 0, .int .u8 0, .int .u8 0, .string ⟨#[]⟩, .int .i64 0]
  f : Bk W p fc
  r : Rs W b t q st
  u : Upd b w W
  hp : w.heap.size < p
  hb : b < w.heap.size
section
variable {w W W' : World} {b : Nat} {t : ByteArray} {q : Int} {p : Nat} {fc : List Value} {st : RS}
theorem Pz.below (h : Pz w b t q p fc st W) (hb : Below W.heap.size W W') : Pz w b t q p fc st W' :=
  ⟨h.z.below hb, h.f.below hb, h.r.below hb, h.u.trans (upd_of b hb), h.hp, h.hb⟩
theorem Pz.alloc (h : Pz w b t q p fc st W) (o : Obj) : Pz w b t q p fc st (W.alloc o) := h.below ((Below.refl _ _).alloc (Nat.le_refl _) _)
theorem Pz.upd {st' : RS} (h : Pz w b t q p fc st W) (hr : Rs W' b t q st') (hu : Upd b W W') : Pz w b t q p fc st' W' :=
  have h1 := h.hp
  have h2 := h.hb
  ⟨upd_bk h.z hu (by omega), upd_bk h.f hu (by omega), hr, h.u.trans hu, h1, h2⟩
theorem Pz.up2 {st' : RS} {fc' : List Value} (h : Pz w b t q p fc st W) (hf : Bk W' p fc') (hr : Rs W' b t q st') (hu : Up2 p b W W') : Pz w b t q p fc' st' W' :=
  have h1 := h.hp
  have h2 := h.hb
  ⟨hu.bk h.z (by omega) (by omega), hf, hr, Up2.from h.u hu (by omega), h1, h2⟩
theorem Pz.up2d {d : Nat} {fc' : List Value} (h : Pz w b t q p fc st W) (hd : w.heap.size < d) (hf : Bk W' p fc') (hu : Up2 p d W W') : Pz w b t q p fc' st W' :=
  have h1 := h.hp
  have h2 := h.hb
  ⟨hu.bk h.z (by omega) (by omega), hf, hu.rs h.r (by omega) (by omega), ⟨hu.os.trans h.u.os, hu.tape.trans h.u.tape, hu.output.trans h.u.output, Nat.le_trans h.u.size hu.size, fun i hi hb => (hu.block i (Nat.lt_of_lt_of_le hi h.u.size) (by omega) (by omega)).trans (h.u.block i hi hb)⟩, h1, h2⟩
theorem Pz.put (h : Pz w b t q p fc st W) (i : Nat) (u : Value) (hi : i < fc.length) : Pz w b t q p (fc.set i u) st (W.setCell ⟨p, i, none⟩ u) :=
  have h1 := h.hp
  have h2 := h.hb
  h.up2 (h.f.set i u hi) (h.r.upd ((Upd.refl p _).setCell i _) (by omega)) ((Up2.refl p b W).setp i u)
theorem pz_new {h0 : b < w.heap.size} (hw : Below w.heap.size (w.alloc (.cells #[.string ⟨#[]⟩, .int .u8 0, .int .u8 0, .int .u8 0, .string ⟨#[]⟩, .int .i64 0] 31)) W) (hw2 : w.heap.size < W.heap.size) (hr : Rs W b t q st) (hz : Bk W w.heap.size [.string ⟨#[]⟩, .int .u8 0, .int .u8 0, .int .u8 0, .string ⟨#[]⟩, .int .i64 0]) (tt : TypeId) : Pz w b t q W.heap.size fc st (W.alloc (.cells fc.toArray tt)) :=
  have hbel : Below w.heap.size w W := ((Below.refl _ _).alloc (Nat.le_refl _) _).trans hw
  ⟨hz.alloc _, Bk.new W tt fc, hr.below ((Below.refl _ _).alloc (Nat.le_refl _) _), (upd_of b hbel).trans (upd_of b ((Below.refl _ _).alloc (Nat.le_refl _) _)), hw2, h0⟩
end
/-- What the flags come to. -/
def flgS (v : Int) (t : ByteArray) (q : Int) (st : RS) : Nat × Nat × RS :=
  if v = 2 then (0, 0, st) else ((bigS t q 1 st).1, (bigS t q 1 (bigS t q 1 st).2).1, (bigS t q 1 (bigS t q 1 st).2).2)
theorem flag_rs {t : ByteArray} {q : Int} (hz : Sz t q) (I B : ByteArray) (g a : Int) (v : Int) (p b : Nat) (hpb : p ≠ b) (st st' : RS) (s m : Nat) (w : World) (hq : Bk w p [.string I, .int .u8 0, .int .u8 0, .int .u8 g, .string B, .int .i64 a]) (h : Rs w b t q st) (hf : flgS v t q st = (s, m, st')) : Calls Try.prog 48 #[.pointer (some ⟨p, 0, none⟩), .int .i64 v, .pointer (some ⟨b, 0, none⟩)] w fun e w' => e = .returned (.tuple #[]) ∧ Bk w' p [.string I, .int .u8 (s : Int), .int .u8 (m : Int), .int .u8 g, .string B, .int .i64 a] ∧ Rs w' b t q st' ∧ Up2 p b w w' := by
  unfold flgS at hf
  by_cases h2 : v = 2
  · subst h2
    rw [if_pos rfl] at hf
    obtain ⟨hs, hm, hst⟩ := (show 0 = s ∧ 0 = m ∧ st = st' by simpa using hf)
    subst hs
    subst hm
    subst hst
    refine (flags2_rs I B g a 0 0 t q p b st w hq h).mono ?_
    rintro e w' ⟨rfl, rfl⟩
    exact ⟨rfl, hq, h, Up2.refl _ _ _⟩
  · rw [if_neg h2] at hf
    obtain ⟨hs, hm, hst⟩ := (show (bigS t q 1 st).1 = s ∧ (bigS t q 1 (bigS t q 1 st).2).1 = m ∧ (bigS t q 1 (bigS t q 1 st).2).2 = st' by simpa using hf)
    rw [← hs, ← hm, ← hst]
    exact flags_rs hz I B g a 0 0 v h2 p b hpb st w hq h
theorem upd_end {b : Nat} {w W W' : World} (h : Upd b w W) (k : Upd w.heap.size W W') : Upd b w W' :=
  ⟨k.os.trans h.os, k.tape.trans h.tape, k.output.trans h.output, Nat.le_trans h.size k.size, fun i hi hb => (k.block i (Nat.lt_of_lt_of_le hi h.size) (by omega)).trans (h.block i hi hb)⟩
def fmtS (v : Int) (sp : Bool) (m : Nat) : Nat := if v = 4 ∧ sp = true then (if bit m 2 = true then m else m + 2) else m
set_option maxRecDepth 100000 in
set_option maxHeartbeats 4000000 in
theorem parse_fy {t : ByteArray} {q : Int} (hz : Sz t q) (v : Int) (sp : Bool) (k b : Nat) (w : World) (h : Rs w b t q (.on k)) (hL : ltrs v ≠ 0) (hk : k < t.size) (h0 : un.bt t k ≠ 0)
    (I x y D : ByteArray) (s1 s2 s3 s4 e1 e2 e3 stf s5 : RS) (n s m m' gr ms : Nat) (hm : m' < 256) (h1 : namS v t q k = (I, s1)) (h2 : sizS v t q s1 = (n, s2)) (h3 : flgS v t q s2 = (s, m, s3)) (h4 : fmtS v sp m = m') (h5 : takS t q n s3 = (D, s4)) (hzD : Sz D (plS q s3)) (hDs : D.size ≤ 4000)
    (h6 : datG v m' D (plS q s3) = (gr, e1)) (h7 : datM v m' D (plS q s3) e1 = (ms, e2)) (h8 : resS D e2 = (x, e3)) (h9 : datB v m' x = y) (h10 : datF v m' ms y.size (plS (plS q s3) e1) e3 = stf) (h11 : faiS (faS stf).1 (faS stf).2 s4 = s5)
    (hsp : sp = false) (hfin : (faS s5).1 = 0) :
    Calls Try.prog 25 #[.int .i64 v, .pointer (some ⟨b, 0, none⟩), .bool sp] w fun e w' => e = .returned (.tuple #[.agg #[.string I, .int .u8 (s : Int), .int .u8 (m' : Int), .int .u8 (gr : Int), .string y, .int .i64 (q + k)], .bool true]) ∧ Rs w' b t q s5 ∧ Upd b w w' := by
  subst hsp
  have hmm : m = m' := by
    unfold fmtS at h4
    rw [if_neg (by rintro ⟨u1, u2⟩; first | exact absurd u1 hv | cases u2)] at h4
    exact h4
  subst hmm
  have HL := Lib.hid (fun W => letters_any v W)
  have n1 : ((ltrs v : Int) == 0) = false := (nb (by omega)).1
  have HPK := Lib.hid (fun W hW => peek_1 hz k b W hk hW)
  have hol := one_list t k hk
  have m1 : ¬ (t.extract k (k + 1)).toList = [] := by rw [hol]; simp
  have m2 : (t.extract k (k + 1)).toList.isEmpty = false := by rw [hol]; rfl
  have m3 : ((t.extract k (k + 1)).toList == [0]) = false := by
    rw [hol, Bool.eq_false_iff]
    intro hh
    rw [beq_iff_eq] at hh
    apply h0
    unfold un.bt
    have := (List.cons.inj hh).1
    rw [this]; rfl
  have m4 : ¬ (t.extract k (k + 1)).toList = [0] := by
    intro hh
    rw [hh] at m3
    cases m3
  have HA1 := Lib.hid (fun W h => at_rs hz (.on k) W b h)
  have HNM := Lib.hid (fun W h => name_rs hz v k b W h)
  rw [h1] at HNM
  have HSZ := Lib.hid (fun W h => size_rs hz v s1 b W h)
  rw [h2] at HSZ
  have HFG := Lib.hid (fun W p (hp : p ≠ b) (hq : Bk W p [.string I, .int .u8 0, .int .u8 0, .int .u8 0, .string ⟨#[]⟩, .int .i64 (q + k)]) h => flag_rs hz I ⟨#[]⟩ 0 (q + k) v p b hp s2 s3 s m W hq h h3)
  have HA2 := Lib.hid (fun W h => at_rs hz s3 W b h)
  have HTK := Lib.hid (fun W h => take_rs hz n s3 W b h)
  rw [h5] at HTK
  have HIN := Lib.hid (fun W => oct.inner_any D (plS q s3) W)
  have hmax : max (plS q s3) 0 = plS q s3 := by have := hzD.z; omega
  rw [hmax] at HIN
  have HDT := Lib.hid (fun W p d (hpd : p ≠ d) (hq : Bk W p [.string I, .int .u8 (s : Int), .int .u8 (m : Int), .int .u8 0, .string ⟨#[]⟩, .int .i64 (q + k)]) (h : Rs W d D (plS q s3) (.on 0)) => data_rs hzD hDs I (s : Int) (q + k) v m hm p d hpd W hq h e1 e2 e3 stf gr ms x y h6 h7 h8 h9 h10)
  have HF1 := Lib.hid (fun W d h => fault_rs (t := D) (q := plS q s3) stf W d h)
  have HFL := Lib.hid (fun W h => fail_rs (t := t) (q := q) (faS stf).1 (faS stf).2 (by cases stf; exact .inl rfl; exact .inr rfl) s4 W b h)
  rw [h11] at HFL
  have HF2 := Lib.hid (fun W h => fault_rs (t := t) (q := q) s5 W b h)
  have HBD := Lib.hid (fun W => bad_gen W (faS s5).1 (faS s5).2 false (by rw [hfin]; rfl))
  have HLT := Lib.hid h.lt
  have Z0 := Lib.hid (Bk.new w 31 [.string ⟨#[]⟩, .int .u8 0, .int .u8 0, .int .u8 0, .string ⟨#[]⟩, .int .i64 0])
  have R0 := Lib.hid (Rs.below h ((Below.refl _ _).alloc (Nat.le_refl _) (.cells #[.string ⟨#[]⟩, .int .u8 0, .int .u8 0, .int .u8 0, .string ⟨#[]⟩, .int .i64 0] 31)))
  have hPL1 : plS q (.on k) = q + k := rfl
  rw [hPL1] at HA1
  clear hPL1 hmax hol hz hL hk h0 h h1 h2 h3 h4 h5 hzD hDs h6 h7 h8 h9 h10 h11 hm hfin
  try clear hv
  generalize plS q s3 = PL3 at *
  generalize (q + (k : Int)) = PL at *
  generalize RS.on k = s0 at *
  generalize t.extract k (k + 1) = NX at *
  generalize ((ltrs v : Nat) : Int) = L at *
  generalize (n : Int) = nI at *
  generalize (faS stf).1 = fe at *
  generalize (faS stf).2 = fa at *
  generalize (faS s5).1 = ge at *
  generalize (faS s5).2 = ga at *
  generalize (gr : Int) = gI at *
  generalize (s : Int) = sI at *
  generalize (m : Int) = mI at *
  go_enter Try.func25, Try.ntmps25
  go_wp2_with (first
    | (go_at_call 44; refine (HPK.out _ R0.out).mono ?_; rintro e1 w1 ⟨rfl, hb1⟩; have Z1 := Lib.hid (Z0.out.below hb1); have R1 := Lib.hid (Rs.below R0.out hb1); have B1 := Lib.hid (hb1.mono (show w.heap.size ≤ _ by rw [World.size_alloc]; omega)); have G1 : Hid (w.heap.size < w1.heap.size) := Lib.hid Z1.out.lt; clear hb1 Z0 R0 HPK)
    | (go_at_call 16; refine (HL.out _).mono ?_; rintro e2 w2 ⟨rfl, rfl⟩)
    | (go_at_call 45; refine (HA1.out _ R1.out).mono ?_; rintro e3 w3 ⟨rfl, rfl⟩; have P3 : Hid (Pz w b t q w1.heap.size [.string ⟨#[]⟩, .int .u8 0, .int .u8 0, .int .u8 0, .string ⟨#[]⟩, .int .i64 PL] s0 (w1.alloc (.cells #[.string ⟨#[]⟩, .int .u8 0, .int .u8 0, .int .u8 0, .string ⟨#[]⟩, .int .i64 PL] 31))) := Lib.hid (pz_new (h0 := HLT.out) B1.out G1.out R1.out Z1.out 31); clear Z1 R1 B1 HA1)
    | (go_at_call 46; refine (HNM.out _ P3.out.r).mono ?_; rintro e4 w4 ⟨rfl, hr4, hu4⟩; have P4' := P3.out.upd hr4 hu4; have z4 := P4'.f.c 0 _ rfl; have zf4 := P4'.f.f; have P4 : Hid (Pz w b t q w1.heap.size [.string I, .int .u8 0, .int .u8 0, .int .u8 0, .string ⟨#[]⟩, .int .i64 PL] s1 (w4.setCell ⟨w1.heap.size, 0, none⟩ (.string I))) := Lib.hid (P4'.put 0 (.string I) (by simp)); clear hr4 hu4 P4' P3 HNM)
    | (go_at_call 47; refine (HSZ.out _ P4.out.r).mono ?_; rintro e5 w5 ⟨rfl, hr5, hu5⟩; have P5 := Lib.hid (P4.out.upd hr5 hu5); clear hr5 hu5 P4 z4 zf4 HSZ)
    | (go_at_call 48; refine (HFG.out _ _ (by have := G1.out; have := HLT.out; omega) P5.out.f P5.out.r).mono ?_; rintro e6 w6 ⟨rfl, hf6, hr6, hu6⟩; have P6 := Lib.hid (P5.out.up2 hf6 hr6 hu6); clear hf6 hr6 hu6 P5 HFG)
    | (go_at_call 45; refine (HA2.out _ P6.out.r).mono ?_; rintro e7 w7 ⟨rfl, rfl⟩)
    | (go_at_call 49; refine (HTK.out _ P6.out.r).mono ?_; rintro e8 w8 ⟨rfl, hr8, hu8⟩; have P8 := Lib.hid (P6.out.upd hr8 hu8); clear hr8 hu8 P6 HTK)
    | (go_at_call 29; refine (HIN.out _).mono ?_; rintro e9 w9 ⟨rfl, hd9, hb9⟩; have P9 := Lib.hid (P8.out.below hb9); have D9 : Hid (Rs w9 w8.heap.size D PL3 (.on 0)) := Lib.hid ⟨hd9, Nat.zero_le _⟩; have G9 : Hid (w1.heap.size < w8.heap.size) := Lib.hid P8.out.f.lt; clear hd9 hb9 P8 HIN)
    | (go_at_call 50; refine (HDT.out _ _ _ (by have := G9.out; omega) P9.out.f D9.out).mono ?_; rintro e10 w10 ⟨rfl, hf10, hd10, hu10⟩; have P10 := Lib.hid (P9.out.up2d (by have := G9.out; have := G1.out; omega) hf10 hu10); have D10 := Lib.hid hd10; clear hf10 hd10 hu10 P9 D9 HDT)
    | (go_at_call 30; refine (HF1.out _ _ D10.out).mono ?_; rintro e11 w11 ⟨rfl, hb11⟩; have P11 := Lib.hid ((P10.out.below hb11).alloc (.cells #[.int .i64 fe, .int .i64 fa] 34)); have F11 := Lib.hid (Bk.new w11 34 [.int .i64 fe, .int .i64 fa]); have f0 := F11.out.c 0 _ rfl; have f1 := F11.out.c 1 _ rfl; clear hb11 P10 D10 HF1)
    | (go_at_call 51; refine (HFL.out _ P11.out.r).mono ?_; rintro e12 w12 ⟨rfl, hr12, hu12⟩; have P12 := Lib.hid (P11.out.upd hr12 hu12); clear hr12 hu12 P11 HFL f0 f1)
    | (go_at_call 30; refine (HF2.out _ P12.out.r).mono ?_; rintro e13 w13 ⟨rfl, hb13⟩; have P13 := Lib.hid (P12.out.below hb13); clear hb13 P12 HF2)
    | (go_at_call 28; refine (HBD.out _).mono ?_; rintro e14 w14 ⟨rfl, hb14⟩; have P14 := Lib.hid (P13.out.below hb14); have y0 := P14.out.f.c 0 _ rfl; have y1 := P14.out.f.c 1 _ rfl; have y2 := P14.out.f.c 2 _ rfl; have y3 := P14.out.f.c 3 _ rfl; have y4 := P14.out.f.c 4 _ rfl; have y5 := P14.out.f.c 5 _ rfl; have yf := P14.out.f.f; have r0 := P14.out.z.c 0 _ rfl; have r1 := P14.out.z.c 1 _ rfl; have r2 := P14.out.z.c 2 _ rfl; have r3 := P14.out.z.c 3 _ rfl; have r4 := P14.out.z.c 4 _ rfl; have r5 := P14.out.z.c 5 _ rfl; have rf := P14.out.z.f; clear hb14 P13 HBD))
  (try simp only [Exit.inBlock, Exit.then])
  refine bodyPost_ret (v := .tuple #[.agg #[.string I, .int .u8 sI, .int .u8 mI, .int .u8 gI, .string y, .int .i64 PL], .bool true]) (by simp [results, Try.results25, go_sem, r0, r1, r2, r3, r4, r5]) rfl ⟨rfl, ?_, ?_⟩
  · exact Rs.upd P14.out.r (((((((Upd.refl w.heap.size _).setCell 0 _).setCell 1 _).setCell 2 _).setCell 3 _).setCell 4 _).setCell 5 _) (by have := HLT.out; omega)
  · exact (upd_end P14.out.u (((((((Upd.refl w.heap.size _).setCell 0 _).setCell 1 _).setCell 2 _).setCell 3 _).setCell 4 _).setCell 5 _))
set_option maxRecDepth 100000 in
set_option maxHeartbeats 4000000 in
theorem parse_fn {t : ByteArray} {q : Int} (hz : Sz t q) (v : Int) (sp : Bool) (k b : Nat) (w : World) (h : Rs w b t q (.on k)) (hL : ltrs v ≠ 0) (hk : k < t.size) (h0 : un.bt t k ≠ 0)
    (I x y D : ByteArray) (s1 s2 s3 s4 e1 e2 e3 stf s5 : RS) (n s m m' gr ms : Nat) (hm : m' < 256) (h1 : namS v t q k = (I, s1)) (h2 : sizS v t q s1 = (n, s2)) (h3 : flgS v t q s2 = (s, m, s3)) (h4 : fmtS v sp m = m') (h5 : takS t q n s3 = (D, s4)) (hzD : Sz D (plS q s3)) (hDs : D.size ≤ 4000)
    (h6 : datG v m' D (plS q s3) = (gr, e1)) (h7 : datM v m' D (plS q s3) e1 = (ms, e2)) (h8 : resS D e2 = (x, e3)) (h9 : datB v m' x = y) (h10 : datF v m' ms y.size (plS (plS q s3) e1) e3 = stf) (h11 : faiS (faS stf).1 (faS stf).2 s4 = s5)
    (hsp : sp = false) (hfin : ¬ (faS s5).1 = 0) :
    Calls Try.prog 25 #[.int .i64 v, .pointer (some ⟨b, 0, none⟩), .bool sp] w fun e w' => e = .returned (.tuple #[zF, .bool false]) ∧ Rs w' b t q s5 ∧ Upd b w w' := by
  subst hsp
  have hmm : m = m' := by
    unfold fmtS at h4
    rw [if_neg (by rintro ⟨u1, u2⟩; first | exact absurd u1 hv | cases u2)] at h4
    exact h4
  subst hmm
  have HL := Lib.hid (fun W => letters_any v W)
  have n1 : ((ltrs v : Int) == 0) = false := (nb (by omega)).1
  have HPK := Lib.hid (fun W hW => peek_1 hz k b W hk hW)
  have hol := one_list t k hk
  have m1 : ¬ (t.extract k (k + 1)).toList = [] := by rw [hol]; simp
  have m2 : (t.extract k (k + 1)).toList.isEmpty = false := by rw [hol]; rfl
  have m3 : ((t.extract k (k + 1)).toList == [0]) = false := by
    rw [hol, Bool.eq_false_iff]
    intro hh
    rw [beq_iff_eq] at hh
    apply h0
    unfold un.bt
    have := (List.cons.inj hh).1
    rw [this]; rfl
  have m4 : ¬ (t.extract k (k + 1)).toList = [0] := by
    intro hh
    rw [hh] at m3
    cases m3
  have HA1 := Lib.hid (fun W h => at_rs hz (.on k) W b h)
  have HNM := Lib.hid (fun W h => name_rs hz v k b W h)
  rw [h1] at HNM
  have HSZ := Lib.hid (fun W h => size_rs hz v s1 b W h)
  rw [h2] at HSZ
  have HFG := Lib.hid (fun W p (hp : p ≠ b) (hq : Bk W p [.string I, .int .u8 0, .int .u8 0, .int .u8 0, .string ⟨#[]⟩, .int .i64 (q + k)]) h => flag_rs hz I ⟨#[]⟩ 0 (q + k) v p b hp s2 s3 s m W hq h h3)
  have HA2 := Lib.hid (fun W h => at_rs hz s3 W b h)
  have HTK := Lib.hid (fun W h => take_rs hz n s3 W b h)
  rw [h5] at HTK
  have HIN := Lib.hid (fun W => oct.inner_any D (plS q s3) W)
  have hmax : max (plS q s3) 0 = plS q s3 := by have := hzD.z; omega
  rw [hmax] at HIN
  have HDT := Lib.hid (fun W p d (hpd : p ≠ d) (hq : Bk W p [.string I, .int .u8 (s : Int), .int .u8 (m : Int), .int .u8 0, .string ⟨#[]⟩, .int .i64 (q + k)]) (h : Rs W d D (plS q s3) (.on 0)) => data_rs hzD hDs I (s : Int) (q + k) v m hm p d hpd W hq h e1 e2 e3 stf gr ms x y h6 h7 h8 h9 h10)
  have HF1 := Lib.hid (fun W d h => fault_rs (t := D) (q := plS q s3) stf W d h)
  have HFL := Lib.hid (fun W h => fail_rs (t := t) (q := q) (faS stf).1 (faS stf).2 (by cases stf; exact .inl rfl; exact .inr rfl) s4 W b h)
  rw [h11] at HFL
  have HF2 := Lib.hid (fun W h => fault_rs (t := t) (q := q) s5 W b h)
  have HBD := Lib.hid (fun W => bad_gen W (faS s5).1 (faS s5).2 true (by exact (nb hfin).2))
  have HLT := Lib.hid h.lt
  have Z0 := Lib.hid (Bk.new w 31 [.string ⟨#[]⟩, .int .u8 0, .int .u8 0, .int .u8 0, .string ⟨#[]⟩, .int .i64 0])
  have R0 := Lib.hid (Rs.below h ((Below.refl _ _).alloc (Nat.le_refl _) (.cells #[.string ⟨#[]⟩, .int .u8 0, .int .u8 0, .int .u8 0, .string ⟨#[]⟩, .int .i64 0] 31)))
  have hPL1 : plS q (.on k) = q + k := rfl
  rw [hPL1] at HA1
  clear hPL1 hmax hol hz hL hk h0 h h1 h2 h3 h4 h5 hzD hDs h6 h7 h8 h9 h10 h11 hm hfin
  try clear hv
  generalize plS q s3 = PL3 at *
  generalize (q + (k : Int)) = PL at *
  generalize RS.on k = s0 at *
  generalize t.extract k (k + 1) = NX at *
  generalize ((ltrs v : Nat) : Int) = L at *
  generalize (n : Int) = nI at *
  generalize (faS stf).1 = fe at *
  generalize (faS stf).2 = fa at *
  generalize (faS s5).1 = ge at *
  generalize (faS s5).2 = ga at *
  generalize (gr : Int) = gI at *
  generalize (s : Int) = sI at *
  generalize (m : Int) = mI at *
  go_enter Try.func25, Try.ntmps25
  go_wp2_with (first
    | (go_at_call 44; refine (HPK.out _ R0.out).mono ?_; rintro e1 w1 ⟨rfl, hb1⟩; have Z1 := Lib.hid (Z0.out.below hb1); have R1 := Lib.hid (Rs.below R0.out hb1); have B1 := Lib.hid (hb1.mono (show w.heap.size ≤ _ by rw [World.size_alloc]; omega)); have G1 : Hid (w.heap.size < w1.heap.size) := Lib.hid Z1.out.lt; clear hb1 Z0 R0 HPK)
    | (go_at_call 16; refine (HL.out _).mono ?_; rintro e2 w2 ⟨rfl, rfl⟩)
    | (go_at_call 45; refine (HA1.out _ R1.out).mono ?_; rintro e3 w3 ⟨rfl, rfl⟩; have P3 : Hid (Pz w b t q w1.heap.size [.string ⟨#[]⟩, .int .u8 0, .int .u8 0, .int .u8 0, .string ⟨#[]⟩, .int .i64 PL] s0 (w1.alloc (.cells #[.string ⟨#[]⟩, .int .u8 0, .int .u8 0, .int .u8 0, .string ⟨#[]⟩, .int .i64 PL] 31))) := Lib.hid (pz_new (h0 := HLT.out) B1.out G1.out R1.out Z1.out 31); clear Z1 R1 B1 HA1)
    | (go_at_call 46; refine (HNM.out _ P3.out.r).mono ?_; rintro e4 w4 ⟨rfl, hr4, hu4⟩; have P4' := P3.out.upd hr4 hu4; have z4 := P4'.f.c 0 _ rfl; have zf4 := P4'.f.f; have P4 : Hid (Pz w b t q w1.heap.size [.string I, .int .u8 0, .int .u8 0, .int .u8 0, .string ⟨#[]⟩, .int .i64 PL] s1 (w4.setCell ⟨w1.heap.size, 0, none⟩ (.string I))) := Lib.hid (P4'.put 0 (.string I) (by simp)); clear hr4 hu4 P4' P3 HNM)
    | (go_at_call 47; refine (HSZ.out _ P4.out.r).mono ?_; rintro e5 w5 ⟨rfl, hr5, hu5⟩; have P5 := Lib.hid (P4.out.upd hr5 hu5); clear hr5 hu5 P4 z4 zf4 HSZ)
    | (go_at_call 48; refine (HFG.out _ _ (by have := G1.out; have := HLT.out; omega) P5.out.f P5.out.r).mono ?_; rintro e6 w6 ⟨rfl, hf6, hr6, hu6⟩; have P6 := Lib.hid (P5.out.up2 hf6 hr6 hu6); clear hf6 hr6 hu6 P5 HFG)
    | (go_at_call 45; refine (HA2.out _ P6.out.r).mono ?_; rintro e7 w7 ⟨rfl, rfl⟩)
    | (go_at_call 49; refine (HTK.out _ P6.out.r).mono ?_; rintro e8 w8 ⟨rfl, hr8, hu8⟩; have P8 := Lib.hid (P6.out.upd hr8 hu8); clear hr8 hu8 P6 HTK)
    | (go_at_call 29; refine (HIN.out _).mono ?_; rintro e9 w9 ⟨rfl, hd9, hb9⟩; have P9 := Lib.hid (P8.out.below hb9); have D9 : Hid (Rs w9 w8.heap.size D PL3 (.on 0)) := Lib.hid ⟨hd9, Nat.zero_le _⟩; have G9 : Hid (w1.heap.size < w8.heap.size) := Lib.hid P8.out.f.lt; clear hd9 hb9 P8 HIN)
    | (go_at_call 50; refine (HDT.out _ _ _ (by have := G9.out; omega) P9.out.f D9.out).mono ?_; rintro e10 w10 ⟨rfl, hf10, hd10, hu10⟩; have P10 := Lib.hid (P9.out.up2d (by have := G9.out; have := G1.out; omega) hf10 hu10); have D10 := Lib.hid hd10; clear hf10 hd10 hu10 P9 D9 HDT)
    | (go_at_call 30; refine (HF1.out _ _ D10.out).mono ?_; rintro e11 w11 ⟨rfl, hb11⟩; have P11 := Lib.hid ((P10.out.below hb11).alloc (.cells #[.int .i64 fe, .int .i64 fa] 34)); have F11 := Lib.hid (Bk.new w11 34 [.int .i64 fe, .int .i64 fa]); have f0 := F11.out.c 0 _ rfl; have f1 := F11.out.c 1 _ rfl; clear hb11 P10 D10 HF1)
    | (go_at_call 51; refine (HFL.out _ P11.out.r).mono ?_; rintro e12 w12 ⟨rfl, hr12, hu12⟩; have P12 := Lib.hid (P11.out.upd hr12 hu12); clear hr12 hu12 P11 HFL f0 f1)
    | (go_at_call 30; refine (HF2.out _ P12.out.r).mono ?_; rintro e13 w13 ⟨rfl, hb13⟩; have P13 := Lib.hid (P12.out.below hb13); clear hb13 P12 HF2)
    | (go_at_call 28; refine (HBD.out _).mono ?_; rintro e14 w14 ⟨rfl, hb14⟩; have P14 := Lib.hid (P13.out.below hb14); have y0 := P14.out.f.c 0 _ rfl; have y1 := P14.out.f.c 1 _ rfl; have y2 := P14.out.f.c 2 _ rfl; have y3 := P14.out.f.c 3 _ rfl; have y4 := P14.out.f.c 4 _ rfl; have y5 := P14.out.f.c 5 _ rfl; have yf := P14.out.f.f; have r0 := P14.out.z.c 0 _ rfl; have r1 := P14.out.z.c 1 _ rfl; have r2 := P14.out.z.c 2 _ rfl; have r3 := P14.out.z.c 3 _ rfl; have r4 := P14.out.z.c 4 _ rfl; have r5 := P14.out.z.c 5 _ rfl; have rf := P14.out.z.f; clear hb14 P13 HBD))
  (try simp only [Exit.inBlock, Exit.then])
  refine bodyPost_ret (v := .tuple #[.agg #[.string ⟨#[]⟩, .int .u8 0, .int .u8 0, .int .u8 0, .string ⟨#[]⟩, .int .i64 0], .bool false]) (by simp [results, Try.results25, go_sem, r0, r1, r2, r3, r4, r5]) rfl ⟨rfl, ?_, ?_⟩
  · exact Rs.upd P14.out.r (((((((Upd.refl w.heap.size _).setCell 0 _).setCell 1 _).setCell 2 _).setCell 3 _).setCell 4 _).setCell 5 _) (by have := HLT.out; omega)
  · exact (upd_end P14.out.u (((((((Upd.refl w.heap.size _).setCell 0 _).setCell 1 _).setCell 2 _).setCell 3 _).setCell 4 _).setCell 5 _))
set_option maxRecDepth 100000 in
set_option maxHeartbeats 4000000 in
theorem parse_t4y {t : ByteArray} {q : Int} (hz : Sz t q) (v : Int) (sp : Bool) (k b : Nat) (w : World) (h : Rs w b t q (.on k)) (hL : ltrs v ≠ 0) (hk : k < t.size) (h0 : un.bt t k ≠ 0)
    (I x y D : ByteArray) (s1 s2 s3 s4 e1 e2 e3 stf s5 : RS) (n s m m' gr ms : Nat) (hm : m' < 256) (h1 : namS v t q k = (I, s1)) (h2 : sizS v t q s1 = (n, s2)) (h3 : flgS v t q s2 = (s, m, s3)) (h4 : fmtS v sp m = m') (h5 : takS t q n s3 = (D, s4)) (hzD : Sz D (plS q s3)) (hDs : D.size ≤ 4000)
    (h6 : datG v m' D (plS q s3) = (gr, e1)) (h7 : datM v m' D (plS q s3) e1 = (ms, e2)) (h8 : resS D e2 = (x, e3)) (h9 : datB v m' x = y) (h10 : datF v m' ms y.size (plS (plS q s3) e1) e3 = stf) (h11 : faiS (faS stf).1 (faS stf).2 s4 = s5)
    (hsp : sp = true) (hv : v = 4) (hfin : (faS s5).1 = 0) :
    Calls Try.prog 25 #[.int .i64 v, .pointer (some ⟨b, 0, none⟩), .bool sp] w fun e w' => e = .returned (.tuple #[.agg #[.string I, .int .u8 (s : Int), .int .u8 (m' : Int), .int .u8 (gr : Int), .string y, .int .i64 (q + k)], .bool true]) ∧ Rs w' b t q s5 ∧ Upd b w w' := by
  subst hsp
  have q4 : (v == 4) = true := by rw [hv]; rfl
  have o2 : bits BinOp.or IntKind.u8 (m : Int) 2 = (m' : Int) := by
    have hm9 : m < 256 := by
      unfold flgS at h3
      rw [if_neg (by omega)] at h3
      have e : (bigS t q 1 (bigS t q 1 s2).2).1 = m := by have := congrArg (fun z => z.2.1) h3; simpa using this
      have := bigS_lt t q 1 (bigS t q 1 s2).2
      omega
    rw [or2 ⟨m, hm9⟩]
    unfold fmtS at h4
    rw [if_pos ⟨hv, rfl⟩] at h4
    rw [← h4]
  have HL := Lib.hid (fun W => letters_any v W)
  have n1 : ((ltrs v : Int) == 0) = false := (nb (by omega)).1
  have HPK := Lib.hid (fun W hW => peek_1 hz k b W hk hW)
  have hol := one_list t k hk
  have m1 : ¬ (t.extract k (k + 1)).toList = [] := by rw [hol]; simp
  have m2 : (t.extract k (k + 1)).toList.isEmpty = false := by rw [hol]; rfl
  have m3 : ((t.extract k (k + 1)).toList == [0]) = false := by
    rw [hol, Bool.eq_false_iff]
    intro hh
    rw [beq_iff_eq] at hh
    apply h0
    unfold un.bt
    have := (List.cons.inj hh).1
    rw [this]; rfl
  have m4 : ¬ (t.extract k (k + 1)).toList = [0] := by
    intro hh
    rw [hh] at m3
    cases m3
  have HA1 := Lib.hid (fun W h => at_rs hz (.on k) W b h)
  have HNM := Lib.hid (fun W h => name_rs hz v k b W h)
  rw [h1] at HNM
  have HSZ := Lib.hid (fun W h => size_rs hz v s1 b W h)
  rw [h2] at HSZ
  have HFG := Lib.hid (fun W p (hp : p ≠ b) (hq : Bk W p [.string I, .int .u8 0, .int .u8 0, .int .u8 0, .string ⟨#[]⟩, .int .i64 (q + k)]) h => flag_rs hz I ⟨#[]⟩ 0 (q + k) v p b hp s2 s3 s m W hq h h3)
  have HA2 := Lib.hid (fun W h => at_rs hz s3 W b h)
  have HTK := Lib.hid (fun W h => take_rs hz n s3 W b h)
  rw [h5] at HTK
  have HIN := Lib.hid (fun W => oct.inner_any D (plS q s3) W)
  have hmax : max (plS q s3) 0 = plS q s3 := by have := hzD.z; omega
  rw [hmax] at HIN
  have HDT := Lib.hid (fun W p d (hpd : p ≠ d) (hq : Bk W p [.string I, .int .u8 (s : Int), .int .u8 (m' : Int), .int .u8 0, .string ⟨#[]⟩, .int .i64 (q + k)]) (h : Rs W d D (plS q s3) (.on 0)) => data_rs hzD hDs I (s : Int) (q + k) v m' hm p d hpd W hq h e1 e2 e3 stf gr ms x y h6 h7 h8 h9 h10)
  have HF1 := Lib.hid (fun W d h => fault_rs (t := D) (q := plS q s3) stf W d h)
  have HFL := Lib.hid (fun W h => fail_rs (t := t) (q := q) (faS stf).1 (faS stf).2 (by cases stf; exact .inl rfl; exact .inr rfl) s4 W b h)
  rw [h11] at HFL
  have HF2 := Lib.hid (fun W h => fault_rs (t := t) (q := q) s5 W b h)
  have HBD := Lib.hid (fun W => bad_gen W (faS s5).1 (faS s5).2 false (by rw [hfin]; rfl))
  have HLT := Lib.hid h.lt
  have Z0 := Lib.hid (Bk.new w 31 [.string ⟨#[]⟩, .int .u8 0, .int .u8 0, .int .u8 0, .string ⟨#[]⟩, .int .i64 0])
  have R0 := Lib.hid (Rs.below h ((Below.refl _ _).alloc (Nat.le_refl _) (.cells #[.string ⟨#[]⟩, .int .u8 0, .int .u8 0, .int .u8 0, .string ⟨#[]⟩, .int .i64 0] 31)))
  have hPL1 : plS q (.on k) = q + k := rfl
  rw [hPL1] at HA1
  clear hPL1 hmax hol hz hL hk h0 h h1 h2 h3 h4 h5 hzD hDs h6 h7 h8 h9 h10 h11 hm hfin
  try clear hv
  generalize plS q s3 = PL3 at *
  generalize (q + (k : Int)) = PL at *
  generalize RS.on k = s0 at *
  generalize t.extract k (k + 1) = NX at *
  generalize ((ltrs v : Nat) : Int) = L at *
  generalize (n : Int) = nI at *
  generalize (faS stf).1 = fe at *
  generalize (faS stf).2 = fa at *
  generalize (faS s5).1 = ge at *
  generalize (faS s5).2 = ga at *
  generalize (gr : Int) = gI at *
  generalize (s : Int) = sI at *
  generalize (m' : Int) = mJ at *
  generalize (m : Int) = mI at *
  go_enter Try.func25, Try.ntmps25
  go_wp2_with (first
    | (go_at_call 44; refine (HPK.out _ R0.out).mono ?_; rintro e1 w1 ⟨rfl, hb1⟩; have Z1 := Lib.hid (Z0.out.below hb1); have R1 := Lib.hid (Rs.below R0.out hb1); have B1 := Lib.hid (hb1.mono (show w.heap.size ≤ _ by rw [World.size_alloc]; omega)); have G1 : Hid (w.heap.size < w1.heap.size) := Lib.hid Z1.out.lt; clear hb1 Z0 R0 HPK)
    | (go_at_call 16; refine (HL.out _).mono ?_; rintro e2 w2 ⟨rfl, rfl⟩)
    | (go_at_call 45; refine (HA1.out _ R1.out).mono ?_; rintro e3 w3 ⟨rfl, rfl⟩; have P3 : Hid (Pz w b t q w1.heap.size [.string ⟨#[]⟩, .int .u8 0, .int .u8 0, .int .u8 0, .string ⟨#[]⟩, .int .i64 PL] s0 (w1.alloc (.cells #[.string ⟨#[]⟩, .int .u8 0, .int .u8 0, .int .u8 0, .string ⟨#[]⟩, .int .i64 PL] 31))) := Lib.hid (pz_new (h0 := HLT.out) B1.out G1.out R1.out Z1.out 31); clear Z1 R1 B1 HA1)
    | (go_at_call 46; refine (HNM.out _ P3.out.r).mono ?_; rintro e4 w4 ⟨rfl, hr4, hu4⟩; have P4' := P3.out.upd hr4 hu4; have z4 := P4'.f.c 0 _ rfl; have zf4 := P4'.f.f; have P4 : Hid (Pz w b t q w1.heap.size [.string I, .int .u8 0, .int .u8 0, .int .u8 0, .string ⟨#[]⟩, .int .i64 PL] s1 (w4.setCell ⟨w1.heap.size, 0, none⟩ (.string I))) := Lib.hid (P4'.put 0 (.string I) (by simp)); clear hr4 hu4 P4' P3 HNM)
    | (go_at_call 47; refine (HSZ.out _ P4.out.r).mono ?_; rintro e5 w5 ⟨rfl, hr5, hu5⟩; have P5 := Lib.hid (P4.out.upd hr5 hu5); clear hr5 hu5 P4 z4 zf4 HSZ)
    | (go_at_call 48; refine (HFG.out _ _ (by have := G1.out; have := HLT.out; omega) P5.out.f P5.out.r).mono ?_; rintro e6 w6 ⟨rfl, hf6, hr6, hu6⟩; have P6' := P5.out.up2 hf6 hr6 hu6; have z6 := P6'.f.c 2 _ rfl; have zf6 := P6'.f.f; have P6 : Hid (Pz w b t q w1.heap.size [.string I, .int .u8 sI, .int .u8 mJ, .int .u8 0, .string ⟨#[]⟩, .int .i64 PL] s3 (w6.setCell ⟨w1.heap.size, 2, none⟩ (.int .u8 mJ))) := Lib.hid (P6'.put 2 (.int .u8 mJ) (by simp)); clear P6'; clear hf6 hr6 hu6 P5 HFG)
    | (go_at_call 45; refine (HA2.out _ P6.out.r).mono ?_; rintro e7 w7 ⟨rfl, rfl⟩)
    | (go_at_call 49; refine (HTK.out _ P6.out.r).mono ?_; rintro e8 w8 ⟨rfl, hr8, hu8⟩; have P8 := Lib.hid (P6.out.upd hr8 hu8); clear hr8 hu8 P6 HTK)
    | (go_at_call 29; refine (HIN.out _).mono ?_; rintro e9 w9 ⟨rfl, hd9, hb9⟩; have P9 := Lib.hid (P8.out.below hb9); have D9 : Hid (Rs w9 w8.heap.size D PL3 (.on 0)) := Lib.hid ⟨hd9, Nat.zero_le _⟩; have G9 : Hid (w1.heap.size < w8.heap.size) := Lib.hid P8.out.f.lt; clear hd9 hb9 P8 HIN)
    | (go_at_call 50; refine (HDT.out _ _ _ (by have := G9.out; omega) P9.out.f D9.out).mono ?_; rintro e10 w10 ⟨rfl, hf10, hd10, hu10⟩; have P10 := Lib.hid (P9.out.up2d (by have := G9.out; have := G1.out; omega) hf10 hu10); have D10 := Lib.hid hd10; clear hf10 hd10 hu10 P9 D9 HDT)
    | (go_at_call 30; refine (HF1.out _ _ D10.out).mono ?_; rintro e11 w11 ⟨rfl, hb11⟩; have P11 := Lib.hid ((P10.out.below hb11).alloc (.cells #[.int .i64 fe, .int .i64 fa] 34)); have F11 := Lib.hid (Bk.new w11 34 [.int .i64 fe, .int .i64 fa]); have f0 := F11.out.c 0 _ rfl; have f1 := F11.out.c 1 _ rfl; clear hb11 P10 D10 HF1)
    | (go_at_call 51; refine (HFL.out _ P11.out.r).mono ?_; rintro e12 w12 ⟨rfl, hr12, hu12⟩; have P12 := Lib.hid (P11.out.upd hr12 hu12); clear hr12 hu12 P11 HFL f0 f1)
    | (go_at_call 30; refine (HF2.out _ P12.out.r).mono ?_; rintro e13 w13 ⟨rfl, hb13⟩; have P13 := Lib.hid (P12.out.below hb13); clear hb13 P12 HF2)
    | (go_at_call 28; refine (HBD.out _).mono ?_; rintro e14 w14 ⟨rfl, hb14⟩; have P14 := Lib.hid (P13.out.below hb14); have y0 := P14.out.f.c 0 _ rfl; have y1 := P14.out.f.c 1 _ rfl; have y2 := P14.out.f.c 2 _ rfl; have y3 := P14.out.f.c 3 _ rfl; have y4 := P14.out.f.c 4 _ rfl; have y5 := P14.out.f.c 5 _ rfl; have yf := P14.out.f.f; have r0 := P14.out.z.c 0 _ rfl; have r1 := P14.out.z.c 1 _ rfl; have r2 := P14.out.z.c 2 _ rfl; have r3 := P14.out.z.c 3 _ rfl; have r4 := P14.out.z.c 4 _ rfl; have r5 := P14.out.z.c 5 _ rfl; have rf := P14.out.z.f; clear hb14 P13 HBD))
  (try simp only [Exit.inBlock, Exit.then])
  refine bodyPost_ret (v := .tuple #[.agg #[.string I, .int .u8 sI, .int .u8 mJ, .int .u8 gI, .string y, .int .i64 PL], .bool true]) (by simp [results, Try.results25, go_sem, r0, r1, r2, r3, r4, r5]) rfl ⟨rfl, ?_, ?_⟩
  · exact Rs.upd P14.out.r (((((((Upd.refl w.heap.size _).setCell 0 _).setCell 1 _).setCell 2 _).setCell 3 _).setCell 4 _).setCell 5 _) (by have := HLT.out; omega)
  · exact (upd_end P14.out.u (((((((Upd.refl w.heap.size _).setCell 0 _).setCell 1 _).setCell 2 _).setCell 3 _).setCell 4 _).setCell 5 _))
set_option maxRecDepth 100000 in
set_option maxHeartbeats 4000000 in
theorem parse_t4n {t : ByteArray} {q : Int} (hz : Sz t q) (v : Int) (sp : Bool) (k b : Nat) (w : World) (h : Rs w b t q (.on k)) (hL : ltrs v ≠ 0) (hk : k < t.size) (h0 : un.bt t k ≠ 0)
    (I x y D : ByteArray) (s1 s2 s3 s4 e1 e2 e3 stf s5 : RS) (n s m m' gr ms : Nat) (hm : m' < 256) (h1 : namS v t q k = (I, s1)) (h2 : sizS v t q s1 = (n, s2)) (h3 : flgS v t q s2 = (s, m, s3)) (h4 : fmtS v sp m = m') (h5 : takS t q n s3 = (D, s4)) (hzD : Sz D (plS q s3)) (hDs : D.size ≤ 4000)
    (h6 : datG v m' D (plS q s3) = (gr, e1)) (h7 : datM v m' D (plS q s3) e1 = (ms, e2)) (h8 : resS D e2 = (x, e3)) (h9 : datB v m' x = y) (h10 : datF v m' ms y.size (plS (plS q s3) e1) e3 = stf) (h11 : faiS (faS stf).1 (faS stf).2 s4 = s5)
    (hsp : sp = true) (hv : v = 4) (hfin : ¬ (faS s5).1 = 0) :
    Calls Try.prog 25 #[.int .i64 v, .pointer (some ⟨b, 0, none⟩), .bool sp] w fun e w' => e = .returned (.tuple #[zF, .bool false]) ∧ Rs w' b t q s5 ∧ Upd b w w' := by
  subst hsp
  have q4 : (v == 4) = true := by rw [hv]; rfl
  have o2 : bits BinOp.or IntKind.u8 (m : Int) 2 = (m' : Int) := by
    have hm9 : m < 256 := by
      unfold flgS at h3
      rw [if_neg (by omega)] at h3
      have e : (bigS t q 1 (bigS t q 1 s2).2).1 = m := by have := congrArg (fun z => z.2.1) h3; simpa using this
      have := bigS_lt t q 1 (bigS t q 1 s2).2
      omega
    rw [or2 ⟨m, hm9⟩]
    unfold fmtS at h4
    rw [if_pos ⟨hv, rfl⟩] at h4
    rw [← h4]
  have HL := Lib.hid (fun W => letters_any v W)
  have n1 : ((ltrs v : Int) == 0) = false := (nb (by omega)).1
  have HPK := Lib.hid (fun W hW => peek_1 hz k b W hk hW)
  have hol := one_list t k hk
  have m1 : ¬ (t.extract k (k + 1)).toList = [] := by rw [hol]; simp
  have m2 : (t.extract k (k + 1)).toList.isEmpty = false := by rw [hol]; rfl
  have m3 : ((t.extract k (k + 1)).toList == [0]) = false := by
    rw [hol, Bool.eq_false_iff]
    intro hh
    rw [beq_iff_eq] at hh
    apply h0
    unfold un.bt
    have := (List.cons.inj hh).1
    rw [this]; rfl
  have m4 : ¬ (t.extract k (k + 1)).toList = [0] := by
    intro hh
    rw [hh] at m3
    cases m3
  have HA1 := Lib.hid (fun W h => at_rs hz (.on k) W b h)
  have HNM := Lib.hid (fun W h => name_rs hz v k b W h)
  rw [h1] at HNM
  have HSZ := Lib.hid (fun W h => size_rs hz v s1 b W h)
  rw [h2] at HSZ
  have HFG := Lib.hid (fun W p (hp : p ≠ b) (hq : Bk W p [.string I, .int .u8 0, .int .u8 0, .int .u8 0, .string ⟨#[]⟩, .int .i64 (q + k)]) h => flag_rs hz I ⟨#[]⟩ 0 (q + k) v p b hp s2 s3 s m W hq h h3)
  have HA2 := Lib.hid (fun W h => at_rs hz s3 W b h)
  have HTK := Lib.hid (fun W h => take_rs hz n s3 W b h)
  rw [h5] at HTK
  have HIN := Lib.hid (fun W => oct.inner_any D (plS q s3) W)
  have hmax : max (plS q s3) 0 = plS q s3 := by have := hzD.z; omega
  rw [hmax] at HIN
  have HDT := Lib.hid (fun W p d (hpd : p ≠ d) (hq : Bk W p [.string I, .int .u8 (s : Int), .int .u8 (m' : Int), .int .u8 0, .string ⟨#[]⟩, .int .i64 (q + k)]) (h : Rs W d D (plS q s3) (.on 0)) => data_rs hzD hDs I (s : Int) (q + k) v m' hm p d hpd W hq h e1 e2 e3 stf gr ms x y h6 h7 h8 h9 h10)
  have HF1 := Lib.hid (fun W d h => fault_rs (t := D) (q := plS q s3) stf W d h)
  have HFL := Lib.hid (fun W h => fail_rs (t := t) (q := q) (faS stf).1 (faS stf).2 (by cases stf; exact .inl rfl; exact .inr rfl) s4 W b h)
  rw [h11] at HFL
  have HF2 := Lib.hid (fun W h => fault_rs (t := t) (q := q) s5 W b h)
  have HBD := Lib.hid (fun W => bad_gen W (faS s5).1 (faS s5).2 true (by exact (nb hfin).2))
  have HLT := Lib.hid h.lt
  have Z0 := Lib.hid (Bk.new w 31 [.string ⟨#[]⟩, .int .u8 0, .int .u8 0, .int .u8 0, .string ⟨#[]⟩, .int .i64 0])
  have R0 := Lib.hid (Rs.below h ((Below.refl _ _).alloc (Nat.le_refl _) (.cells #[.string ⟨#[]⟩, .int .u8 0, .int .u8 0, .int .u8 0, .string ⟨#[]⟩, .int .i64 0] 31)))
  have hPL1 : plS q (.on k) = q + k := rfl
  rw [hPL1] at HA1
  clear hPL1 hmax hol hz hL hk h0 h h1 h2 h3 h4 h5 hzD hDs h6 h7 h8 h9 h10 h11 hm hfin
  try clear hv
  generalize plS q s3 = PL3 at *
  generalize (q + (k : Int)) = PL at *
  generalize RS.on k = s0 at *
  generalize t.extract k (k + 1) = NX at *
  generalize ((ltrs v : Nat) : Int) = L at *
  generalize (n : Int) = nI at *
  generalize (faS stf).1 = fe at *
  generalize (faS stf).2 = fa at *
  generalize (faS s5).1 = ge at *
  generalize (faS s5).2 = ga at *
  generalize (gr : Int) = gI at *
  generalize (s : Int) = sI at *
  generalize (m' : Int) = mJ at *
  generalize (m : Int) = mI at *
  go_enter Try.func25, Try.ntmps25
  go_wp2_with (first
    | (go_at_call 44; refine (HPK.out _ R0.out).mono ?_; rintro e1 w1 ⟨rfl, hb1⟩; have Z1 := Lib.hid (Z0.out.below hb1); have R1 := Lib.hid (Rs.below R0.out hb1); have B1 := Lib.hid (hb1.mono (show w.heap.size ≤ _ by rw [World.size_alloc]; omega)); have G1 : Hid (w.heap.size < w1.heap.size) := Lib.hid Z1.out.lt; clear hb1 Z0 R0 HPK)
    | (go_at_call 16; refine (HL.out _).mono ?_; rintro e2 w2 ⟨rfl, rfl⟩)
    | (go_at_call 45; refine (HA1.out _ R1.out).mono ?_; rintro e3 w3 ⟨rfl, rfl⟩; have P3 : Hid (Pz w b t q w1.heap.size [.string ⟨#[]⟩, .int .u8 0, .int .u8 0, .int .u8 0, .string ⟨#[]⟩, .int .i64 PL] s0 (w1.alloc (.cells #[.string ⟨#[]⟩, .int .u8 0, .int .u8 0, .int .u8 0, .string ⟨#[]⟩, .int .i64 PL] 31))) := Lib.hid (pz_new (h0 := HLT.out) B1.out G1.out R1.out Z1.out 31); clear Z1 R1 B1 HA1)
    | (go_at_call 46; refine (HNM.out _ P3.out.r).mono ?_; rintro e4 w4 ⟨rfl, hr4, hu4⟩; have P4' := P3.out.upd hr4 hu4; have z4 := P4'.f.c 0 _ rfl; have zf4 := P4'.f.f; have P4 : Hid (Pz w b t q w1.heap.size [.string I, .int .u8 0, .int .u8 0, .int .u8 0, .string ⟨#[]⟩, .int .i64 PL] s1 (w4.setCell ⟨w1.heap.size, 0, none⟩ (.string I))) := Lib.hid (P4'.put 0 (.string I) (by simp)); clear hr4 hu4 P4' P3 HNM)
    | (go_at_call 47; refine (HSZ.out _ P4.out.r).mono ?_; rintro e5 w5 ⟨rfl, hr5, hu5⟩; have P5 := Lib.hid (P4.out.upd hr5 hu5); clear hr5 hu5 P4 z4 zf4 HSZ)
    | (go_at_call 48; refine (HFG.out _ _ (by have := G1.out; have := HLT.out; omega) P5.out.f P5.out.r).mono ?_; rintro e6 w6 ⟨rfl, hf6, hr6, hu6⟩; have P6' := P5.out.up2 hf6 hr6 hu6; have z6 := P6'.f.c 2 _ rfl; have zf6 := P6'.f.f; have P6 : Hid (Pz w b t q w1.heap.size [.string I, .int .u8 sI, .int .u8 mJ, .int .u8 0, .string ⟨#[]⟩, .int .i64 PL] s3 (w6.setCell ⟨w1.heap.size, 2, none⟩ (.int .u8 mJ))) := Lib.hid (P6'.put 2 (.int .u8 mJ) (by simp)); clear P6'; clear hf6 hr6 hu6 P5 HFG)
    | (go_at_call 45; refine (HA2.out _ P6.out.r).mono ?_; rintro e7 w7 ⟨rfl, rfl⟩)
    | (go_at_call 49; refine (HTK.out _ P6.out.r).mono ?_; rintro e8 w8 ⟨rfl, hr8, hu8⟩; have P8 := Lib.hid (P6.out.upd hr8 hu8); clear hr8 hu8 P6 HTK)
    | (go_at_call 29; refine (HIN.out _).mono ?_; rintro e9 w9 ⟨rfl, hd9, hb9⟩; have P9 := Lib.hid (P8.out.below hb9); have D9 : Hid (Rs w9 w8.heap.size D PL3 (.on 0)) := Lib.hid ⟨hd9, Nat.zero_le _⟩; have G9 : Hid (w1.heap.size < w8.heap.size) := Lib.hid P8.out.f.lt; clear hd9 hb9 P8 HIN)
    | (go_at_call 50; refine (HDT.out _ _ _ (by have := G9.out; omega) P9.out.f D9.out).mono ?_; rintro e10 w10 ⟨rfl, hf10, hd10, hu10⟩; have P10 := Lib.hid (P9.out.up2d (by have := G9.out; have := G1.out; omega) hf10 hu10); have D10 := Lib.hid hd10; clear hf10 hd10 hu10 P9 D9 HDT)
    | (go_at_call 30; refine (HF1.out _ _ D10.out).mono ?_; rintro e11 w11 ⟨rfl, hb11⟩; have P11 := Lib.hid ((P10.out.below hb11).alloc (.cells #[.int .i64 fe, .int .i64 fa] 34)); have F11 := Lib.hid (Bk.new w11 34 [.int .i64 fe, .int .i64 fa]); have f0 := F11.out.c 0 _ rfl; have f1 := F11.out.c 1 _ rfl; clear hb11 P10 D10 HF1)
    | (go_at_call 51; refine (HFL.out _ P11.out.r).mono ?_; rintro e12 w12 ⟨rfl, hr12, hu12⟩; have P12 := Lib.hid (P11.out.upd hr12 hu12); clear hr12 hu12 P11 HFL f0 f1)
    | (go_at_call 30; refine (HF2.out _ P12.out.r).mono ?_; rintro e13 w13 ⟨rfl, hb13⟩; have P13 := Lib.hid (P12.out.below hb13); clear hb13 P12 HF2)
    | (go_at_call 28; refine (HBD.out _).mono ?_; rintro e14 w14 ⟨rfl, hb14⟩; have P14 := Lib.hid (P13.out.below hb14); have y0 := P14.out.f.c 0 _ rfl; have y1 := P14.out.f.c 1 _ rfl; have y2 := P14.out.f.c 2 _ rfl; have y3 := P14.out.f.c 3 _ rfl; have y4 := P14.out.f.c 4 _ rfl; have y5 := P14.out.f.c 5 _ rfl; have yf := P14.out.f.f; have r0 := P14.out.z.c 0 _ rfl; have r1 := P14.out.z.c 1 _ rfl; have r2 := P14.out.z.c 2 _ rfl; have r3 := P14.out.z.c 3 _ rfl; have r4 := P14.out.z.c 4 _ rfl; have r5 := P14.out.z.c 5 _ rfl; have rf := P14.out.z.f; clear hb14 P13 HBD))
  (try simp only [Exit.inBlock, Exit.then])
  refine bodyPost_ret (v := .tuple #[.agg #[.string ⟨#[]⟩, .int .u8 0, .int .u8 0, .int .u8 0, .string ⟨#[]⟩, .int .i64 0], .bool false]) (by simp [results, Try.results25, go_sem, r0, r1, r2, r3, r4, r5]) rfl ⟨rfl, ?_, ?_⟩
  · exact Rs.upd P14.out.r (((((((Upd.refl w.heap.size _).setCell 0 _).setCell 1 _).setCell 2 _).setCell 3 _).setCell 4 _).setCell 5 _) (by have := HLT.out; omega)
  · exact (upd_end P14.out.u (((((((Upd.refl w.heap.size _).setCell 0 _).setCell 1 _).setCell 2 _).setCell 3 _).setCell 4 _).setCell 5 _))
set_option maxRecDepth 100000 in
set_option maxHeartbeats 4000000 in
theorem parse_tny {t : ByteArray} {q : Int} (hz : Sz t q) (v : Int) (sp : Bool) (k b : Nat) (w : World) (h : Rs w b t q (.on k)) (hL : ltrs v ≠ 0) (hk : k < t.size) (h0 : un.bt t k ≠ 0)
    (I x y D : ByteArray) (s1 s2 s3 s4 e1 e2 e3 stf s5 : RS) (n s m m' gr ms : Nat) (hm : m' < 256) (h1 : namS v t q k = (I, s1)) (h2 : sizS v t q s1 = (n, s2)) (h3 : flgS v t q s2 = (s, m, s3)) (h4 : fmtS v sp m = m') (h5 : takS t q n s3 = (D, s4)) (hzD : Sz D (plS q s3)) (hDs : D.size ≤ 4000)
    (h6 : datG v m' D (plS q s3) = (gr, e1)) (h7 : datM v m' D (plS q s3) e1 = (ms, e2)) (h8 : resS D e2 = (x, e3)) (h9 : datB v m' x = y) (h10 : datF v m' ms y.size (plS (plS q s3) e1) e3 = stf) (h11 : faiS (faS stf).1 (faS stf).2 s4 = s5)
    (hsp : sp = true) (hv : ¬ v = 4) (hfin : (faS s5).1 = 0) :
    Calls Try.prog 25 #[.int .i64 v, .pointer (some ⟨b, 0, none⟩), .bool sp] w fun e w' => e = .returned (.tuple #[.agg #[.string I, .int .u8 (s : Int), .int .u8 (m' : Int), .int .u8 (gr : Int), .string y, .int .i64 (q + k)], .bool true]) ∧ Rs w' b t q s5 ∧ Upd b w w' := by
  subst hsp
  obtain ⟨q4, _⟩ := nb hv
  have hmm : m = m' := by
    unfold fmtS at h4
    rw [if_neg (by rintro ⟨u1, u2⟩; first | exact absurd u1 hv | cases u2)] at h4
    exact h4
  subst hmm
  have HL := Lib.hid (fun W => letters_any v W)
  have n1 : ((ltrs v : Int) == 0) = false := (nb (by omega)).1
  have HPK := Lib.hid (fun W hW => peek_1 hz k b W hk hW)
  have hol := one_list t k hk
  have m1 : ¬ (t.extract k (k + 1)).toList = [] := by rw [hol]; simp
  have m2 : (t.extract k (k + 1)).toList.isEmpty = false := by rw [hol]; rfl
  have m3 : ((t.extract k (k + 1)).toList == [0]) = false := by
    rw [hol, Bool.eq_false_iff]
    intro hh
    rw [beq_iff_eq] at hh
    apply h0
    unfold un.bt
    have := (List.cons.inj hh).1
    rw [this]; rfl
  have m4 : ¬ (t.extract k (k + 1)).toList = [0] := by
    intro hh
    rw [hh] at m3
    cases m3
  have HA1 := Lib.hid (fun W h => at_rs hz (.on k) W b h)
  have HNM := Lib.hid (fun W h => name_rs hz v k b W h)
  rw [h1] at HNM
  have HSZ := Lib.hid (fun W h => size_rs hz v s1 b W h)
  rw [h2] at HSZ
  have HFG := Lib.hid (fun W p (hp : p ≠ b) (hq : Bk W p [.string I, .int .u8 0, .int .u8 0, .int .u8 0, .string ⟨#[]⟩, .int .i64 (q + k)]) h => flag_rs hz I ⟨#[]⟩ 0 (q + k) v p b hp s2 s3 s m W hq h h3)
  have HA2 := Lib.hid (fun W h => at_rs hz s3 W b h)
  have HTK := Lib.hid (fun W h => take_rs hz n s3 W b h)
  rw [h5] at HTK
  have HIN := Lib.hid (fun W => oct.inner_any D (plS q s3) W)
  have hmax : max (plS q s3) 0 = plS q s3 := by have := hzD.z; omega
  rw [hmax] at HIN
  have HDT := Lib.hid (fun W p d (hpd : p ≠ d) (hq : Bk W p [.string I, .int .u8 (s : Int), .int .u8 (m : Int), .int .u8 0, .string ⟨#[]⟩, .int .i64 (q + k)]) (h : Rs W d D (plS q s3) (.on 0)) => data_rs hzD hDs I (s : Int) (q + k) v m hm p d hpd W hq h e1 e2 e3 stf gr ms x y h6 h7 h8 h9 h10)
  have HF1 := Lib.hid (fun W d h => fault_rs (t := D) (q := plS q s3) stf W d h)
  have HFL := Lib.hid (fun W h => fail_rs (t := t) (q := q) (faS stf).1 (faS stf).2 (by cases stf; exact .inl rfl; exact .inr rfl) s4 W b h)
  rw [h11] at HFL
  have HF2 := Lib.hid (fun W h => fault_rs (t := t) (q := q) s5 W b h)
  have HBD := Lib.hid (fun W => bad_gen W (faS s5).1 (faS s5).2 false (by rw [hfin]; rfl))
  have HLT := Lib.hid h.lt
  have Z0 := Lib.hid (Bk.new w 31 [.string ⟨#[]⟩, .int .u8 0, .int .u8 0, .int .u8 0, .string ⟨#[]⟩, .int .i64 0])
  have R0 := Lib.hid (Rs.below h ((Below.refl _ _).alloc (Nat.le_refl _) (.cells #[.string ⟨#[]⟩, .int .u8 0, .int .u8 0, .int .u8 0, .string ⟨#[]⟩, .int .i64 0] 31)))
  have hPL1 : plS q (.on k) = q + k := rfl
  rw [hPL1] at HA1
  clear hPL1 hmax hol hz hL hk h0 h h1 h2 h3 h4 h5 hzD hDs h6 h7 h8 h9 h10 h11 hm hfin
  try clear hv
  generalize plS q s3 = PL3 at *
  generalize (q + (k : Int)) = PL at *
  generalize RS.on k = s0 at *
  generalize t.extract k (k + 1) = NX at *
  generalize ((ltrs v : Nat) : Int) = L at *
  generalize (n : Int) = nI at *
  generalize (faS stf).1 = fe at *
  generalize (faS stf).2 = fa at *
  generalize (faS s5).1 = ge at *
  generalize (faS s5).2 = ga at *
  generalize (gr : Int) = gI at *
  generalize (s : Int) = sI at *
  generalize (m : Int) = mI at *
  go_enter Try.func25, Try.ntmps25
  go_wp2_with (first
    | (go_at_call 44; refine (HPK.out _ R0.out).mono ?_; rintro e1 w1 ⟨rfl, hb1⟩; have Z1 := Lib.hid (Z0.out.below hb1); have R1 := Lib.hid (Rs.below R0.out hb1); have B1 := Lib.hid (hb1.mono (show w.heap.size ≤ _ by rw [World.size_alloc]; omega)); have G1 : Hid (w.heap.size < w1.heap.size) := Lib.hid Z1.out.lt; clear hb1 Z0 R0 HPK)
    | (go_at_call 16; refine (HL.out _).mono ?_; rintro e2 w2 ⟨rfl, rfl⟩)
    | (go_at_call 45; refine (HA1.out _ R1.out).mono ?_; rintro e3 w3 ⟨rfl, rfl⟩; have P3 : Hid (Pz w b t q w1.heap.size [.string ⟨#[]⟩, .int .u8 0, .int .u8 0, .int .u8 0, .string ⟨#[]⟩, .int .i64 PL] s0 (w1.alloc (.cells #[.string ⟨#[]⟩, .int .u8 0, .int .u8 0, .int .u8 0, .string ⟨#[]⟩, .int .i64 PL] 31))) := Lib.hid (pz_new (h0 := HLT.out) B1.out G1.out R1.out Z1.out 31); clear Z1 R1 B1 HA1)
    | (go_at_call 46; refine (HNM.out _ P3.out.r).mono ?_; rintro e4 w4 ⟨rfl, hr4, hu4⟩; have P4' := P3.out.upd hr4 hu4; have z4 := P4'.f.c 0 _ rfl; have zf4 := P4'.f.f; have P4 : Hid (Pz w b t q w1.heap.size [.string I, .int .u8 0, .int .u8 0, .int .u8 0, .string ⟨#[]⟩, .int .i64 PL] s1 (w4.setCell ⟨w1.heap.size, 0, none⟩ (.string I))) := Lib.hid (P4'.put 0 (.string I) (by simp)); clear hr4 hu4 P4' P3 HNM)
    | (go_at_call 47; refine (HSZ.out _ P4.out.r).mono ?_; rintro e5 w5 ⟨rfl, hr5, hu5⟩; have P5 := Lib.hid (P4.out.upd hr5 hu5); clear hr5 hu5 P4 z4 zf4 HSZ)
    | (go_at_call 48; refine (HFG.out _ _ (by have := G1.out; have := HLT.out; omega) P5.out.f P5.out.r).mono ?_; rintro e6 w6 ⟨rfl, hf6, hr6, hu6⟩; have P6 := Lib.hid (P5.out.up2 hf6 hr6 hu6); clear hf6 hr6 hu6 P5 HFG)
    | (go_at_call 45; refine (HA2.out _ P6.out.r).mono ?_; rintro e7 w7 ⟨rfl, rfl⟩)
    | (go_at_call 49; refine (HTK.out _ P6.out.r).mono ?_; rintro e8 w8 ⟨rfl, hr8, hu8⟩; have P8 := Lib.hid (P6.out.upd hr8 hu8); clear hr8 hu8 P6 HTK)
    | (go_at_call 29; refine (HIN.out _).mono ?_; rintro e9 w9 ⟨rfl, hd9, hb9⟩; have P9 := Lib.hid (P8.out.below hb9); have D9 : Hid (Rs w9 w8.heap.size D PL3 (.on 0)) := Lib.hid ⟨hd9, Nat.zero_le _⟩; have G9 : Hid (w1.heap.size < w8.heap.size) := Lib.hid P8.out.f.lt; clear hd9 hb9 P8 HIN)
    | (go_at_call 50; refine (HDT.out _ _ _ (by have := G9.out; omega) P9.out.f D9.out).mono ?_; rintro e10 w10 ⟨rfl, hf10, hd10, hu10⟩; have P10 := Lib.hid (P9.out.up2d (by have := G9.out; have := G1.out; omega) hf10 hu10); have D10 := Lib.hid hd10; clear hf10 hd10 hu10 P9 D9 HDT)
    | (go_at_call 30; refine (HF1.out _ _ D10.out).mono ?_; rintro e11 w11 ⟨rfl, hb11⟩; have P11 := Lib.hid ((P10.out.below hb11).alloc (.cells #[.int .i64 fe, .int .i64 fa] 34)); have F11 := Lib.hid (Bk.new w11 34 [.int .i64 fe, .int .i64 fa]); have f0 := F11.out.c 0 _ rfl; have f1 := F11.out.c 1 _ rfl; clear hb11 P10 D10 HF1)
    | (go_at_call 51; refine (HFL.out _ P11.out.r).mono ?_; rintro e12 w12 ⟨rfl, hr12, hu12⟩; have P12 := Lib.hid (P11.out.upd hr12 hu12); clear hr12 hu12 P11 HFL f0 f1)
    | (go_at_call 30; refine (HF2.out _ P12.out.r).mono ?_; rintro e13 w13 ⟨rfl, hb13⟩; have P13 := Lib.hid (P12.out.below hb13); clear hb13 P12 HF2)
    | (go_at_call 28; refine (HBD.out _).mono ?_; rintro e14 w14 ⟨rfl, hb14⟩; have P14 := Lib.hid (P13.out.below hb14); have y0 := P14.out.f.c 0 _ rfl; have y1 := P14.out.f.c 1 _ rfl; have y2 := P14.out.f.c 2 _ rfl; have y3 := P14.out.f.c 3 _ rfl; have y4 := P14.out.f.c 4 _ rfl; have y5 := P14.out.f.c 5 _ rfl; have yf := P14.out.f.f; have r0 := P14.out.z.c 0 _ rfl; have r1 := P14.out.z.c 1 _ rfl; have r2 := P14.out.z.c 2 _ rfl; have r3 := P14.out.z.c 3 _ rfl; have r4 := P14.out.z.c 4 _ rfl; have r5 := P14.out.z.c 5 _ rfl; have rf := P14.out.z.f; clear hb14 P13 HBD))
  (try simp only [Exit.inBlock, Exit.then])
  refine bodyPost_ret (v := .tuple #[.agg #[.string I, .int .u8 sI, .int .u8 mI, .int .u8 gI, .string y, .int .i64 PL], .bool true]) (by simp [results, Try.results25, go_sem, r0, r1, r2, r3, r4, r5]) rfl ⟨rfl, ?_, ?_⟩
  · exact Rs.upd P14.out.r (((((((Upd.refl w.heap.size _).setCell 0 _).setCell 1 _).setCell 2 _).setCell 3 _).setCell 4 _).setCell 5 _) (by have := HLT.out; omega)
  · exact (upd_end P14.out.u (((((((Upd.refl w.heap.size _).setCell 0 _).setCell 1 _).setCell 2 _).setCell 3 _).setCell 4 _).setCell 5 _))
set_option maxRecDepth 100000 in
set_option maxHeartbeats 4000000 in
theorem parse_tnn {t : ByteArray} {q : Int} (hz : Sz t q) (v : Int) (sp : Bool) (k b : Nat) (w : World) (h : Rs w b t q (.on k)) (hL : ltrs v ≠ 0) (hk : k < t.size) (h0 : un.bt t k ≠ 0)
    (I x y D : ByteArray) (s1 s2 s3 s4 e1 e2 e3 stf s5 : RS) (n s m m' gr ms : Nat) (hm : m' < 256) (h1 : namS v t q k = (I, s1)) (h2 : sizS v t q s1 = (n, s2)) (h3 : flgS v t q s2 = (s, m, s3)) (h4 : fmtS v sp m = m') (h5 : takS t q n s3 = (D, s4)) (hzD : Sz D (plS q s3)) (hDs : D.size ≤ 4000)
    (h6 : datG v m' D (plS q s3) = (gr, e1)) (h7 : datM v m' D (plS q s3) e1 = (ms, e2)) (h8 : resS D e2 = (x, e3)) (h9 : datB v m' x = y) (h10 : datF v m' ms y.size (plS (plS q s3) e1) e3 = stf) (h11 : faiS (faS stf).1 (faS stf).2 s4 = s5)
    (hsp : sp = true) (hv : ¬ v = 4) (hfin : ¬ (faS s5).1 = 0) :
    Calls Try.prog 25 #[.int .i64 v, .pointer (some ⟨b, 0, none⟩), .bool sp] w fun e w' => e = .returned (.tuple #[zF, .bool false]) ∧ Rs w' b t q s5 ∧ Upd b w w' := by
  subst hsp
  obtain ⟨q4, _⟩ := nb hv
  have hmm : m = m' := by
    unfold fmtS at h4
    rw [if_neg (by rintro ⟨u1, u2⟩; first | exact absurd u1 hv | cases u2)] at h4
    exact h4
  subst hmm
  have HL := Lib.hid (fun W => letters_any v W)
  have n1 : ((ltrs v : Int) == 0) = false := (nb (by omega)).1
  have HPK := Lib.hid (fun W hW => peek_1 hz k b W hk hW)
  have hol := one_list t k hk
  have m1 : ¬ (t.extract k (k + 1)).toList = [] := by rw [hol]; simp
  have m2 : (t.extract k (k + 1)).toList.isEmpty = false := by rw [hol]; rfl
  have m3 : ((t.extract k (k + 1)).toList == [0]) = false := by
    rw [hol, Bool.eq_false_iff]
    intro hh
    rw [beq_iff_eq] at hh
    apply h0
    unfold un.bt
    have := (List.cons.inj hh).1
    rw [this]; rfl
  have m4 : ¬ (t.extract k (k + 1)).toList = [0] := by
    intro hh
    rw [hh] at m3
    cases m3
  have HA1 := Lib.hid (fun W h => at_rs hz (.on k) W b h)
  have HNM := Lib.hid (fun W h => name_rs hz v k b W h)
  rw [h1] at HNM
  have HSZ := Lib.hid (fun W h => size_rs hz v s1 b W h)
  rw [h2] at HSZ
  have HFG := Lib.hid (fun W p (hp : p ≠ b) (hq : Bk W p [.string I, .int .u8 0, .int .u8 0, .int .u8 0, .string ⟨#[]⟩, .int .i64 (q + k)]) h => flag_rs hz I ⟨#[]⟩ 0 (q + k) v p b hp s2 s3 s m W hq h h3)
  have HA2 := Lib.hid (fun W h => at_rs hz s3 W b h)
  have HTK := Lib.hid (fun W h => take_rs hz n s3 W b h)
  rw [h5] at HTK
  have HIN := Lib.hid (fun W => oct.inner_any D (plS q s3) W)
  have hmax : max (plS q s3) 0 = plS q s3 := by have := hzD.z; omega
  rw [hmax] at HIN
  have HDT := Lib.hid (fun W p d (hpd : p ≠ d) (hq : Bk W p [.string I, .int .u8 (s : Int), .int .u8 (m : Int), .int .u8 0, .string ⟨#[]⟩, .int .i64 (q + k)]) (h : Rs W d D (plS q s3) (.on 0)) => data_rs hzD hDs I (s : Int) (q + k) v m hm p d hpd W hq h e1 e2 e3 stf gr ms x y h6 h7 h8 h9 h10)
  have HF1 := Lib.hid (fun W d h => fault_rs (t := D) (q := plS q s3) stf W d h)
  have HFL := Lib.hid (fun W h => fail_rs (t := t) (q := q) (faS stf).1 (faS stf).2 (by cases stf; exact .inl rfl; exact .inr rfl) s4 W b h)
  rw [h11] at HFL
  have HF2 := Lib.hid (fun W h => fault_rs (t := t) (q := q) s5 W b h)
  have HBD := Lib.hid (fun W => bad_gen W (faS s5).1 (faS s5).2 true (by exact (nb hfin).2))
  have HLT := Lib.hid h.lt
  have Z0 := Lib.hid (Bk.new w 31 [.string ⟨#[]⟩, .int .u8 0, .int .u8 0, .int .u8 0, .string ⟨#[]⟩, .int .i64 0])
  have R0 := Lib.hid (Rs.below h ((Below.refl _ _).alloc (Nat.le_refl _) (.cells #[.string ⟨#[]⟩, .int .u8 0, .int .u8 0, .int .u8 0, .string ⟨#[]⟩, .int .i64 0] 31)))
  have hPL1 : plS q (.on k) = q + k := rfl
  rw [hPL1] at HA1
  clear hPL1 hmax hol hz hL hk h0 h h1 h2 h3 h4 h5 hzD hDs h6 h7 h8 h9 h10 h11 hm hfin
  try clear hv
  generalize plS q s3 = PL3 at *
  generalize (q + (k : Int)) = PL at *
  generalize RS.on k = s0 at *
  generalize t.extract k (k + 1) = NX at *
  generalize ((ltrs v : Nat) : Int) = L at *
  generalize (n : Int) = nI at *
  generalize (faS stf).1 = fe at *
  generalize (faS stf).2 = fa at *
  generalize (faS s5).1 = ge at *
  generalize (faS s5).2 = ga at *
  generalize (gr : Int) = gI at *
  generalize (s : Int) = sI at *
  generalize (m : Int) = mI at *
  go_enter Try.func25, Try.ntmps25
  go_wp2_with (first
    | (go_at_call 44; refine (HPK.out _ R0.out).mono ?_; rintro e1 w1 ⟨rfl, hb1⟩; have Z1 := Lib.hid (Z0.out.below hb1); have R1 := Lib.hid (Rs.below R0.out hb1); have B1 := Lib.hid (hb1.mono (show w.heap.size ≤ _ by rw [World.size_alloc]; omega)); have G1 : Hid (w.heap.size < w1.heap.size) := Lib.hid Z1.out.lt; clear hb1 Z0 R0 HPK)
    | (go_at_call 16; refine (HL.out _).mono ?_; rintro e2 w2 ⟨rfl, rfl⟩)
    | (go_at_call 45; refine (HA1.out _ R1.out).mono ?_; rintro e3 w3 ⟨rfl, rfl⟩; have P3 : Hid (Pz w b t q w1.heap.size [.string ⟨#[]⟩, .int .u8 0, .int .u8 0, .int .u8 0, .string ⟨#[]⟩, .int .i64 PL] s0 (w1.alloc (.cells #[.string ⟨#[]⟩, .int .u8 0, .int .u8 0, .int .u8 0, .string ⟨#[]⟩, .int .i64 PL] 31))) := Lib.hid (pz_new (h0 := HLT.out) B1.out G1.out R1.out Z1.out 31); clear Z1 R1 B1 HA1)
    | (go_at_call 46; refine (HNM.out _ P3.out.r).mono ?_; rintro e4 w4 ⟨rfl, hr4, hu4⟩; have P4' := P3.out.upd hr4 hu4; have z4 := P4'.f.c 0 _ rfl; have zf4 := P4'.f.f; have P4 : Hid (Pz w b t q w1.heap.size [.string I, .int .u8 0, .int .u8 0, .int .u8 0, .string ⟨#[]⟩, .int .i64 PL] s1 (w4.setCell ⟨w1.heap.size, 0, none⟩ (.string I))) := Lib.hid (P4'.put 0 (.string I) (by simp)); clear hr4 hu4 P4' P3 HNM)
    | (go_at_call 47; refine (HSZ.out _ P4.out.r).mono ?_; rintro e5 w5 ⟨rfl, hr5, hu5⟩; have P5 := Lib.hid (P4.out.upd hr5 hu5); clear hr5 hu5 P4 z4 zf4 HSZ)
    | (go_at_call 48; refine (HFG.out _ _ (by have := G1.out; have := HLT.out; omega) P5.out.f P5.out.r).mono ?_; rintro e6 w6 ⟨rfl, hf6, hr6, hu6⟩; have P6 := Lib.hid (P5.out.up2 hf6 hr6 hu6); clear hf6 hr6 hu6 P5 HFG)
    | (go_at_call 45; refine (HA2.out _ P6.out.r).mono ?_; rintro e7 w7 ⟨rfl, rfl⟩)
    | (go_at_call 49; refine (HTK.out _ P6.out.r).mono ?_; rintro e8 w8 ⟨rfl, hr8, hu8⟩; have P8 := Lib.hid (P6.out.upd hr8 hu8); clear hr8 hu8 P6 HTK)
    | (go_at_call 29; refine (HIN.out _).mono ?_; rintro e9 w9 ⟨rfl, hd9, hb9⟩; have P9 := Lib.hid (P8.out.below hb9); have D9 : Hid (Rs w9 w8.heap.size D PL3 (.on 0)) := Lib.hid ⟨hd9, Nat.zero_le _⟩; have G9 : Hid (w1.heap.size < w8.heap.size) := Lib.hid P8.out.f.lt; clear hd9 hb9 P8 HIN)
    | (go_at_call 50; refine (HDT.out _ _ _ (by have := G9.out; omega) P9.out.f D9.out).mono ?_; rintro e10 w10 ⟨rfl, hf10, hd10, hu10⟩; have P10 := Lib.hid (P9.out.up2d (by have := G9.out; have := G1.out; omega) hf10 hu10); have D10 := Lib.hid hd10; clear hf10 hd10 hu10 P9 D9 HDT)
    | (go_at_call 30; refine (HF1.out _ _ D10.out).mono ?_; rintro e11 w11 ⟨rfl, hb11⟩; have P11 := Lib.hid ((P10.out.below hb11).alloc (.cells #[.int .i64 fe, .int .i64 fa] 34)); have F11 := Lib.hid (Bk.new w11 34 [.int .i64 fe, .int .i64 fa]); have f0 := F11.out.c 0 _ rfl; have f1 := F11.out.c 1 _ rfl; clear hb11 P10 D10 HF1)
    | (go_at_call 51; refine (HFL.out _ P11.out.r).mono ?_; rintro e12 w12 ⟨rfl, hr12, hu12⟩; have P12 := Lib.hid (P11.out.upd hr12 hu12); clear hr12 hu12 P11 HFL f0 f1)
    | (go_at_call 30; refine (HF2.out _ P12.out.r).mono ?_; rintro e13 w13 ⟨rfl, hb13⟩; have P13 := Lib.hid (P12.out.below hb13); clear hb13 P12 HF2)
    | (go_at_call 28; refine (HBD.out _).mono ?_; rintro e14 w14 ⟨rfl, hb14⟩; have P14 := Lib.hid (P13.out.below hb14); have y0 := P14.out.f.c 0 _ rfl; have y1 := P14.out.f.c 1 _ rfl; have y2 := P14.out.f.c 2 _ rfl; have y3 := P14.out.f.c 3 _ rfl; have y4 := P14.out.f.c 4 _ rfl; have y5 := P14.out.f.c 5 _ rfl; have yf := P14.out.f.f; have r0 := P14.out.z.c 0 _ rfl; have r1 := P14.out.z.c 1 _ rfl; have r2 := P14.out.z.c 2 _ rfl; have r3 := P14.out.z.c 3 _ rfl; have r4 := P14.out.z.c 4 _ rfl; have r5 := P14.out.z.c 5 _ rfl; have rf := P14.out.z.f; clear hb14 P13 HBD))
  (try simp only [Exit.inBlock, Exit.then])
  refine bodyPost_ret (v := .tuple #[.agg #[.string ⟨#[]⟩, .int .u8 0, .int .u8 0, .int .u8 0, .string ⟨#[]⟩, .int .i64 0], .bool false]) (by simp [results, Try.results25, go_sem, r0, r1, r2, r3, r4, r5]) rfl ⟨rfl, ?_, ?_⟩
  · exact Rs.upd P14.out.r (((((((Upd.refl w.heap.size _).setCell 0 _).setCell 1 _).setCell 2 _).setCell 3 _).setCell 4 _).setCell 5 _) (by have := HLT.out; omega)
  · exact (upd_end P14.out.u (((((((Upd.refl w.heap.size _).setCell 0 _).setCell 1 _).setCell 2 _).setCell 3 _).setCell 4 _).setCell 5 _))
end Go.Proofs.Ytkhajafjieofhaa.fl
