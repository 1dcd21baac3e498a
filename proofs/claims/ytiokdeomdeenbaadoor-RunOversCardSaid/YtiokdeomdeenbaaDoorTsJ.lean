/- The walk of the law RunOvers of layer 4. -/
import Derived.Test.YtiokdeomdeenbaaDoorTsI
import Derived.Test.YtiokdeomdeenbaaDoorTbA
namespace Go.Proofs.YtiokdeomdeenbaaDoor.tb
open Go.RowKit Go.Lib
set_option linter.unusedVariables false
/-- What stands once all tables are made. -/
structure Ov (w : World) (b p q : Nat) (X Y Z U V : Value) (x y z r : List (Int × Int)) (B0 B1 B4 : Option Addr) (n0 d0 n1 d1 n4 d4 : Nat) (W : World) : Prop where
  s : OSt pt.Tabs TBr w b X Y Z x y z W
  p : F1 W p U
  q : F1 W q V
  u : TE TBr W U r
  v : TE TBr W V r
  rx : RowP W B0 n0 d0 x
  ry : RowP W B1 n1 d1 y
  rr : RowP W B4 n4 d4 r
theorem Ov.below {w : World} {b p q : Nat} {X Y Z U V : Value} {x y z r : List (Int × Int)} {B0 B1 B4 : Option Addr} {n0 d0 n1 d1 n4 d4 : Nat} {W W' : World} (h : Ov w b p q X Y Z U V x y z r B0 B1 B4 n0 d0 n1 d1 n4 d4 W) (hb : Below W.heap.size W W') : Ov w b p q X Y Z U V x y z r B0 B1 B4 n0 d0 n1 d1 n4 d4 W' :=
  ⟨h.s.below tb.tab hb, h.p.below hb h.p.lt, h.q.below hb h.q.lt, te_keep h.u hb, te_keep h.v hb, h.rx.below hb, h.ry.below hb, h.rr.below hb⟩
set_option maxRecDepth 100000 in
set_option maxHeartbeats 8000000 in
theorem overs_good (A0 A1 A2 : Option Addr) (n0 c0 n1 c1 n2 c2 : Nat) (l0 l1 l2 : List Pce) (code p : Int) (w : World) (h0 : RowC w A0 n0 c0 l0) (h1 : RowC w A1 n1 c1 l1) (h2 : RowC w A2 n2 c2 l2)
    (m0 : n0 ≤ 9223372036854775807) (m1 : n1 ≤ 9223372036854775807) (m2 : n2 ≤ 9223372036854775807) (hK : pt.Tabs w)
    (g0 : -9223372036854775808 ≤ code) (g1 : code ≤ 9223372036854775807) (g2 : -2147483648 ≤ p) (g3 : p ≤ 2147483647) (t0 : light l0 = true) (t1 : light l1 = true) (t2 : light l2 = true) :
    Calls Tryd.prog 5 #[.slice A0 n0 c0, .slice A1 n1 c1, .slice A2 n2 c2, .int .i64 code, .int .i32 p] w fun e w' => e = .returned (.bool true) ∧ Below w.heap.size w w' := by
  have T := tb.tab
  have HL0 := fun w2 h2 => Light_any A0 n0 c0 l0 w2 h2 m0
  have HL1 := fun w2 h2 => Light_any A1 n1 c1 l1 w2 h2 m1
  have HL2 := fun w2 h2 => Light_any A2 n2 c2 l2 w2 h2 m2
  rw [t0] at HL0
  rw [t1] at HL1
  rw [t2] at HL2
  have HB0 := fun w2 h1 h2 => table_any T A0 n0 c0 l0 w2 h1 t0 h2
  have HB1 := fun w2 h1 h2 => table_any T A1 n1 c1 l1 w2 h1 t1 h2
  have HB2 := fun w2 h1 h2 => table_any T A2 n2 c2 l2 w2 h1 t2 h2
  have HM0 := fun w2 h1 => made_row A0 n0 c0 l0 w2 h1 t0
  have HM1 := fun w2 h1 => made_row A1 n1 c1 l1 w2 h1 t1
  have HM2 := fun w2 h1 => made_row A2 n2 c2 l2 w2 h1 t2
  have f0 := made_facts t0
  have f1 := made_facts t1
  have f2 := made_facts t2
  have HA0 := Lib.hid h0; have HA1 := Lib.hid h1; have HA2 := Lib.hid h2; have HK := Lib.hid hK; have HT := Lib.hid T
  generalize (made l0).1.getD [] = x at *
  generalize (made l1).1.getD [] = y at *
  generalize (made l2).1.getD [] = z at *
  have HL0 := Lib.hid HL0; have HL1 := Lib.hid HL1; have HL2 := Lib.hid HL2
  have HB0 := Lib.hid HB0; have HB1 := Lib.hid HB1; have HB2 := Lib.hid HB2
  have HM0 := Lib.hid HM0; have HM1 := Lib.hid HM1; have HM2 := Lib.hid HM2
  have s1 : y.length + z.length ≤ 90000 := by omega
  have s2 : x.length + (over y z).length ≤ 90000 := by have := over_len y z; omega
  have HO1 : Hid (∀ B1 d1 B2 d2 w2, RowP w2 B1 y.length d1 y → RowP w2 B2 z.length d2 z → Calls Tryd.prog 24 #[.slice B1 y.length d1, .slice B2 z.length d2] w2 fun e w' => ∃ A c, e = .returned (.slice A (over y z).length c) ∧ RowP w' A (over y z).length c (over y z) ∧ Below w2.heap.size w2 w') := Lib.hid (fun B1 d1 B2 d2 w2 h1 h2 => refOver_any B1 B2 y.length d1 z.length d2 y z w2 h1 h2 s1)
  have HO2 : Hid (∀ B1 d1 B2 d2 w2, RowP w2 B1 x.length d1 x → RowP w2 B2 (over y z).length d2 (over y z) → Calls Tryd.prog 24 #[.slice B1 x.length d1, .slice B2 (over y z).length d2] w2 fun e w' => ∃ A c, e = .returned (.slice A (over x (over y z)).length c) ∧ RowP w' A (over x (over y z)).length c (over x (over y z)) ∧ Below w2.heap.size w2 w') := Lib.hid (fun B1 d1 B2 d2 w2 h1 h2 => refOver_any B1 B2 x.length d1 (over y z).length d2 x (over y z) w2 h1 h2 s2)
  have sx : x.length ≤ 8000 := by omega
  have sy : y.length ≤ 8000 := by omega
  have sz : z.length ≤ 8000 := by omega
  have syz : (over y z).length ≤ 8000 := by have := over_len y z; omega
  have sxy : (over x y).length ≤ 8000 := by have := over_len x y; omega
  have F0 := Lib.hid f0; have F1' := Lib.hid f1; have F2 := Lib.hid f2
  have HS := Lib.hid (And.intro f0.2 (And.intro f1.2 f2.2))
  clear h0 h1 h2 hK T t0 t1 t2 f0 f1 f2
  rename_i HL0' HL1' HL2' HB0' HB1' HB2' HM0' HM1' HM2'
  clear HL0' HL1' HL2' HB0' HB1' HB2' HM0' HM1' HM2'
  go_enter Tryd.func5, Tryd.ntmps5
  go_wp2_with (first | (go_at_call 12; (with_reducible refine (HL0.out _ HA0.out).mono ?_); rintro e1 w1 ⟨rfl, hb1⟩; have D1 := Lib.hid hb1; clear hb1) | (go_at_call 12; (with_reducible refine (HL1.out _ (HA1.out.below D1.out)).mono ?_); rintro e2 w2 ⟨rfl, hb2⟩; have D2 := Lib.hid (D1.out.trans (hb2.mono D1.out.size)); clear hb2) | (go_at_call 12; (with_reducible refine (HL2.out _ (HA2.out.below D2.out)).mono ?_); rintro e3 w3 ⟨rfl, hb3⟩; have D3 := Lib.hid (D2.out.trans (hb3.mono D2.out.size)); clear hb3) | (go_at_call 23; (with_reducible refine (HB0.out _ (HA0.out.below D3.out) (HT.out.stay _ _ HK.out D3.out)).mono ?_); rintro e4 w4 ⟨X, rfl, hx, hb4⟩; have D4 := Lib.hid (D3.out.trans (hb4.mono D3.out.size)); have X4 := Lib.hid hx; clear hb4 hx) | (go_at_call 23; (with_reducible refine (HB1.out _ (HA1.out.below D4.out) (HT.out.stay _ _ HK.out D4.out)).mono ?_); rintro e5 w5 ⟨Y, rfl, hy, hb5⟩; have D5 := Lib.hid (D4.out.trans (hb5.mono D4.out.size)); have X5 := Lib.hid (HT.out.keepE X4.out hb5); have Y5 := Lib.hid hy; clear hb5 hy) | (go_at_call 23; (with_reducible refine (HB2.out _ (HA2.out.below D5.out) (HT.out.stay _ _ HK.out D5.out)).mono ?_); rintro e6 w6 ⟨Z, rfl, hz, hb6⟩; have D6 := Lib.hid (D5.out.trans (hb6.mono D5.out.size)); have X6 := Lib.hid (HT.out.keepE X5.out hb6); have Y6 := Lib.hid (HT.out.keepE Y5.out hb6); have Z6 := Lib.hid hz; have S6 := Lib.hid (OSt.new HT.out HK.out D6.out X6.out Y6.out Z6.out); clear hb6 hz; have hsx := fun wx (a : Addr) m => run_store (P := Tryd.prog) (w := wx) (a := a) X m (HT.out.one _ _ _ X6.out); have hsy := fun wx (a : Addr) m => run_store (P := Tryd.prog) (w := wx) (a := a) Y m (HT.out.one _ _ _ Y6.out); have hsz := fun wx (a : Addr) m => run_store (P := Tryd.prog) (w := wx) (a := a) Z m (HT.out.one _ _ _ Z6.out); obtain ⟨⟨_, q0, q1⟩, _, _, _⟩ := f1_three w6 (.slice none 0 0) (.slice none 0 0) (.slice none 0 0); obtain ⟨_, ⟨_, q2, q3⟩, _, _⟩ := f1_three w6 X (.slice none 0 0) (.slice none 0 0); obtain ⟨_, _, ⟨_, q4, q5⟩, _⟩ := f1_three w6 X Y (.slice none 0 0)) | (go_at_call 15; (with_reducible refine (HM0.out _ (HA0.out.below S6.out.bel)).mono ?_); rintro e7 w7 ⟨B0, d0, k0, rfl, hr, hb7⟩; have S7 := Lib.hid (S6.out.below HT.out hb7); have R7 := Lib.hid hr; clear hb7 hr) | (go_at_call 15; (with_reducible refine (HM1.out _ (HA1.out.below S7.out.bel)).mono ?_); rintro e8 w8 ⟨B1, d1, k1, rfl, hr, hb8⟩; have S8 := Lib.hid (S7.out.below HT.out hb8); have R8 := Lib.hid (R7.out.below hb8); have P8 := Lib.hid hr; clear hb8 hr) | (go_at_call 15; (with_reducible refine (HM2.out _ (HA2.out.below S8.out.bel)).mono ?_); rintro e9 w9 ⟨B2, d2, k2, rfl, hr, hb9⟩; have S9 := Lib.hid (S8.out.below HT.out hb9); have R9 := Lib.hid (R8.out.below hb9); have P9 := Lib.hid (P8.out.below hb9); have U9 := Lib.hid hr; clear hb9 hr) | (go_at_call 24; (with_reducible refine (HO1.out _ _ _ _ _ P9.out U9.out).mono ?_); rintro e10 w10 ⟨B3, d3, rfl, hr, hb10⟩; have S10 := Lib.hid (S9.out.below HT.out hb10); have R10 := Lib.hid (R9.out.below hb10); have P10 := Lib.hid (P9.out.below hb10); have V10 := Lib.hid hr; clear hb10 hr) | (go_at_call 24; (with_reducible refine (HO2.out _ _ _ _ _ R10.out V10.out).mono ?_); rintro e11 w11 ⟨B4, d4, rfl, hr, hb11⟩; have S11 := Lib.hid (S10.out.below HT.out hb11); have R11 := Lib.hid (R10.out.below hb11); have P11 := Lib.hid (P10.out.below hb11); have V11 := Lib.hid hr; clear hb11 hr))
  clear hsx hsy hsz q0 q1 q2 q3 q4 q5 HL0 HL1 HL2 HB0 HB1 HB2 HM0 HM1 HM2
  have hwb : w6.heap.size + 1 + 1 < w11.heap.size := S11.out.z.lt
  obtain ⟨b, hb⟩ : ∃ b, b = w6.heap.size := ⟨_, rfl⟩
  rw [← hb] at S11 hwb ⊢
  obtain ⟨_, u0, _⟩ := S11.out.x
  obtain ⟨_, u1, _⟩ := S11.out.y
  obtain ⟨_, u2, _⟩ := S11.out.z
  clear hb S6 S7 S8 S9 S10 R7 R8 R9 R10 P8 P9 P10 U9 V10 X4 X5 X6 Y5 Y6 Z6 D1 D2 D3 D4 D5 D6 HO1 HO2
  go_cut [21, 22] from 29 (fun s21 s22 wx => ∃ p q U V, s21 = .pointer (some ⟨p, 0, none⟩) ∧ s22 = .pointer (some ⟨q, 0, none⟩) ∧ F1 wx p U ∧ F1 wx q V ∧ TE TBr wx U (over x (over y z)) ∧ TE TBr wx V (over x (over y z)) ∧ Below w11.heap.size w11 wx)
  case first =>
    refine wp_region_held_drew (S := (fun w' => w'.cell? ⟨b, 0, none⟩ = some X ∧ w'.cell? ⟨b + 1, 0, none⟩ = some Y ∧ w'.cell? ⟨b + 1 + 1, 0, none⟩ = some Z)) (by kernel_rfl) (by go_keep) (fun hHeld => ?_)
    (refine wpAnyH_take (i := 0) (oi := ⟨_, _, _, _, _, _⟩) (v := ?_) rfl (by kernel_rfl) (by kernel_rfl) (by kernel_rfl) (fun _ _ _ h => h) (Or.inl ⟨by rfl, ?_⟩) (by assumption) ?_); rotate_left; (focus (intro w hSw; (try dsimp only at hSw); go_simp; (try with_reducible rfl); done)); (try simp only [Act.put, List.setIfInBounds_toArray, List.set_cons_zero, List.set_cons_succ]); (refine wpAnyH_take (i := 1) (oi := ⟨_, _, _, _, _, _⟩) (v := ?_) rfl (by kernel_rfl) (by kernel_rfl) (by kernel_rfl) (fun _ _ _ h => h) (Or.inl ⟨by rfl, ?_⟩) (by assumption) ?_); rotate_left; (focus (intro w hSw; (try dsimp only at hSw); go_simp; (try with_reducible rfl); done)); (try simp only [Act.put, List.setIfInBounds_toArray, List.set_cons_zero, List.set_cons_succ]); (refine wpAnyH_take (i := 2) (oi := ⟨_, _, _, _, _, _⟩) (v := ?_) rfl (by kernel_rfl) (by kernel_rfl) (by kernel_rfl) (fun _ _ _ h => h) (Or.inl ⟨by rfl, ?_⟩) (by assumption) ?_); rotate_left; (focus (intro w hSw; (try dsimp only at hSw); go_simp; (try with_reducible rfl); done)); (try simp only [Act.put, List.setIfInBounds_toArray, List.set_cons_zero, List.set_cons_succ]); (refine wpAnyH_take (i := 5) (oi := ⟨_, _, _, _, _, _⟩) (v := ?_) rfl (by kernel_rfl) (by kernel_rfl) (by kernel_rfl) (fun _ _ _ h => h) (Or.inl ⟨by rfl, ?_⟩) (by assumption) ?_); rotate_left; (focus (intro w hSw; (try dsimp only at hSw); go_simp; (try with_reducible rfl); done)); (try simp only [Act.put, List.setIfInBounds_toArray, List.set_cons_zero, List.set_cons_succ]); (refine wpAnyH_take (i := 6) (oi := ⟨_, _, _, _, _, _⟩) (v := ?_) rfl (by kernel_rfl) (by kernel_rfl) (by kernel_rfl) (fun _ _ _ h => h) (Or.inl ⟨by rfl, ?_⟩) (by assumption) ?_); rotate_left; (focus (intro w hSw; (try dsimp only at hSw); go_simp; (try with_reducible rfl); done)); (try simp only [Act.put, List.setIfInBounds_toArray, List.set_cons_zero, List.set_cons_succ]); (refine wpAnyH_take (i := 8) (oi := ⟨_, _, _, _, _, _⟩) (v := ?_) rfl (by kernel_rfl) (by kernel_rfl) (by kernel_rfl) (fun _ _ _ h => h) (Or.inl ⟨by rfl, ?_⟩) (by assumption) ?_); rotate_left; (focus (intro w hSw; (try dsimp only at hSw); go_simp; (try with_reducible rfl); done)); (try simp only [Act.put, List.setIfInBounds_toArray, List.set_cons_zero, List.set_cons_succ])
    refine nodes' (wb := w11) (x := x) (y := y) (z := z) (by kernel_rfl) (by kernel_rfl) ?r ?s ?n1 ?n2 ?n3 ?n4 ?na ?nb ?nt (Below.refl _ _).drew
    case r => intro k A B hk; (rcases k with _ | _ | _ | _ | _ | k) <;> cases A <;> cases B <;> first | (exfalso; omega) | kernel_rfl
    case s => intro W hW; have h := S11.out.below HT.out hW; exact ⟨h.x.c0, h.y.c0, h.z.c0⟩
    case n1 =>
      intro A B v1 v2 v3 v4 v5 v6 W hI K0 hK0
      have HI := Lib.hid hI; have HK0 := Lib.hid hK0
      clear hI hK0
      have S13 := Lib.hid (S11.out.below HT.out HI.out.bel)
      simp only [puts6, Act.put, List.setIfInBounds_toArray, List.set_cons_zero, List.set_cons_succ]
      refine wpOp_step (o := ⟨_, _, _, _, _, _⟩) rfl (fun K1 hK1 => ?_)
      have HK1 := Lib.hid hK1
      clear hK1
      go_simp
      go_at_call 25
      refine (HT.out.over _ _ _ _ _ S13.out.ty S13.out.tz sy sz).mono ?_
      rintro e1 w1 ⟨V, rfl, ht, hb1⟩
      try go_wp2_with fail
      refine HK1.out _ _ ?_
      have h := HK0.out _ w1 (HI.out.to1 hb1 ht)
      simp only [puts6, Act.put, List.setIfInBounds_toArray, List.set_cons_zero, List.set_cons_succ] at h
      exact h
    case n2 =>
      intro A B v1 v2 v3 v4 v5 v6 W hI K0 hK0
      have HI := Lib.hid hI; have HK0 := Lib.hid hK0
      clear hI hK0
      obtain ⟨YZ, rfl, tyz⟩ := HI.out.c1 (by omega)
      have S13 := Lib.hid (S11.out.below HT.out HI.out.bel)
      simp only [puts6, Act.put, List.setIfInBounds_toArray, List.set_cons_zero, List.set_cons_succ]
      refine wpOp_step (o := ⟨_, _, _, _, _, _⟩) rfl (fun K1 hK1 => ?_)
      have HK1 := Lib.hid hK1
      clear hK1
      go_simp
      go_at_call 25
      refine (HT.out.over _ _ _ _ _ S13.out.tx tyz sx syz).mono ?_
      rintro e1 w1 ⟨V, rfl, ht, hb1⟩
      try go_wp2_with fail
      refine HK1.out _ _ ?_
      have h := HK0.out _ w1 (HI.out.to2 hb1 ht)
      simp only [puts6, Act.put, List.setIfInBounds_toArray, List.set_cons_zero, List.set_cons_succ] at h
      exact h
    case n3 =>
      intro A B v1 v2 v3 v4 v5 v6 W hI K0 hK0
      have HI := Lib.hid hI; have HK0 := Lib.hid hK0
      clear hI hK0
      have S13 := Lib.hid (S11.out.below HT.out HI.out.bel)
      simp only [puts6, Act.put, List.setIfInBounds_toArray, List.set_cons_zero, List.set_cons_succ]
      refine wpOp_step (o := ⟨_, _, _, _, _, _⟩) rfl (fun K1 hK1 => ?_)
      have HK1 := Lib.hid hK1
      clear hK1
      go_simp
      go_at_call 25
      refine (HT.out.over _ _ _ _ _ S13.out.tx S13.out.ty sx sy).mono ?_
      rintro e1 w1 ⟨V, rfl, ht, hb1⟩
      try go_wp2_with fail
      refine HK1.out _ _ ?_
      have h := HK0.out _ w1 (HI.out.to3 hb1 ht)
      simp only [puts6, Act.put, List.setIfInBounds_toArray, List.set_cons_zero, List.set_cons_succ] at h
      exact h
    case n4 =>
      intro A B v1 v2 v3 v4 v5 v6 W hI K0 hK0
      have HI := Lib.hid hI; have HK0 := Lib.hid hK0
      clear hI hK0
      obtain ⟨XY, rfl, txy⟩ := HI.out.c3 (by omega)
      have S13 := Lib.hid (S11.out.below HT.out HI.out.bel)
      simp only [puts6, Act.put, List.setIfInBounds_toArray, List.set_cons_zero, List.set_cons_succ]
      refine wpOp_step (o := ⟨_, _, _, _, _, _⟩) rfl (fun K1 hK1 => ?_)
      have HK1 := Lib.hid hK1
      clear hK1
      go_simp
      go_at_call 25
      refine (HT.out.over _ _ _ _ _ txy S13.out.tz sxy sz).mono ?_
      rintro e1 w1 ⟨V, rfl, ht, hb1⟩
      try go_wp2_with fail
      refine HK1.out _ _ ?_
      have h := HK0.out _ w1 (HI.out.to4 hb1 ht)
      simp only [puts6, Act.put, List.setIfInBounds_toArray, List.set_cons_zero, List.set_cons_succ] at h
      exact h
    case na =>
      intro k B v1 v2 v3 v4 v5 v6 W hI K0 hK0
      have HI := Lib.hid hI; have HK0 := Lib.hid hK0
      clear hI hK0
      simp only [puts6, Act.put, List.setIfInBounds_toArray, List.set_cons_zero, List.set_cons_succ]
      refine wpOp_step (o := ⟨_, _, _, _, _, _⟩) rfl (fun K1 hK1 => ?_)
      have HK1 := Lib.hid hK1
      clear hK1
      go_simp
      try go_wp2_with fail
      refine HK1.out _ _ ?_
      have h := HK0.out _ _ HI.out.toA
      simp only [puts6, Act.put, List.setIfInBounds_toArray, List.set_cons_zero, List.set_cons_succ] at h
      exact h
    case nb =>
      intro k A v1 v2 v3 v4 v5 v6 W hI K0 hK0
      have HI := Lib.hid hI; have HK0 := Lib.hid hK0
      clear hI hK0
      simp only [puts6, Act.put, List.setIfInBounds_toArray, List.set_cons_zero, List.set_cons_succ]
      refine wpOp_step (o := ⟨_, _, _, _, _, _⟩) rfl (fun K1 hK1 => ?_)
      have HK1 := Lib.hid hK1
      clear hK1
      go_simp
      try go_wp2_with fail
      refine HK1.out _ _ ?_
      have h := HK0.out _ _ HI.out.toB
      simp only [puts6, Act.put, List.setIfInBounds_toArray, List.set_cons_zero, List.set_cons_succ] at h
      exact h
    case nt =>
      intro v1 v2 v3 v4 v5 v6 W hI hHeld
      obtain ⟨U, rfl, hu⟩ := hI.c2 (by omega)
      obtain ⟨V, rfl, hv⟩ := hI.c4 (by omega)
      obtain ⟨p, rfl, hp, hpb⟩ := hI.a rfl
      obtain ⟨q, rfl, hq, hqb⟩ := hI.b rfl
      have hpq : p ≠ q := fun e => hI.ne rfl rfl (by rw [e])
      rw [over_assoc (HS.out.1) (HS.out.2.1) (HS.out.2.2)] at hv
      have hbel := hI.bel
      have hu1 := te_put (te_put hu hp U) (hq.far (Ne.symm hpq) U) V
      have hv1 := te_put (te_put hv hp U) (hq.far (Ne.symm hpq) U) V
      have hp1 := (hp.put' U).far hpq V
      have hq1 := (hq.far (Ne.symm hpq) U).put' V
      have hb1 : Below w11.heap.size w11 ((W.setCell ⟨p, 0, none⟩ U).setCell ⟨q, 0, none⟩ V) := (hbel.setCell (p := ⟨p, 0, none⟩) hpb _).setCell (p := ⟨q, 0, none⟩) hqb _
      have hc1 : (W.setCell ⟨p, 0, none⟩ U).cell? ⟨q, 0, none⟩ = some (.slice none 0 0) := (hq.far (Ne.symm hpq) U).f.c0
      have hc0 : W.cell? ⟨p, 0, none⟩ = some (.slice none 0 0) := hp.f.c0
      have hf0 : W.frozen? ⟨p, 0, none⟩ = false := hp.f.f0
      have hf1 : (W.setCell ⟨p, 0, none⟩ U).frozen? ⟨q, 0, none⟩ = false := (hq.far (Ne.symm hpq) U).f.f0
      have hsu := fun wx (a : Addr) m => run_store (P := Tryd.prog) (w := wx) (a := a) U m (HT.out.one _ _ _ hu)
      have hsv := fun wx (a : Addr) m => run_store (P := Tryd.prog) (w := wx) (a := a) V m (HT.out.one _ _ _ hv)
      have n0 : p ≠ b := by omega
      have n1 : p ≠ b + 1 := by omega
      have n2 : p ≠ b + 1 + 1 := by omega
      have n3 : q ≠ b := by omega
      have n4 : q ≠ b + 1 := by omega
      have n5 : q ≠ b + 1 + 1 := by omega
      have HFIN := Lib.hid (And.intro hp1 (And.intro hq1 (And.intro hu1 (And.intro hv1 hb1))))
      clear hI hu hv hp hq hpb hqb hbel hu1 hv1 hp1 hq1 hb1
      simp only [puts6, Act.put, List.setIfInBounds_toArray, List.set_cons_zero, List.set_cons_succ]
      refine wpAnyH_ready (rs := [12]) (by kernel_rfl) (by simp) ?_; refine AllReadyH.cons (o := ⟨_, _, _, _, _, _⟩) rfl (fun K hK => ?_) AllReadyH.nil; go_simp
      (try go_wp2_with fail); refine hK.out _ _ ?_ ?_; (focus ((try dsimp only); (try go_keep); done)); clear hHeld hK K; intro hHeld; (try simp only [Act.put, List.setIfInBounds_toArray, List.set_cons_zero, List.set_cons_succ])
      refine wpAnyH_ready (rs := [13]) (by kernel_rfl) (by simp) ?_; refine AllReadyH.cons (o := ⟨_, _, _, _, _, _⟩) rfl (fun K hK => ?_) AllReadyH.nil; go_simp
      (try go_wp2_with fail); refine hK.out _ _ ?_ ?_; (focus ((try dsimp only); (try go_keep); done)); clear hHeld hK K; intro hHeld; (try simp only [Act.put, List.setIfInBounds_toArray, List.set_cons_zero, List.set_cons_succ])
      refine wpAnyH_done (by kernel_rfl) ?_ _
      go_wp2_with fail
      go_meet
      exact ⟨p, q, U, V, rfl, rfl, HFIN.out.1.f, HFIN.out.2.1.f, HFIN.out.2.2.1, HFIN.out.2.2.2.1, HFIN.out.2.2.2.2⟩
  case rest =>
    obtain ⟨pp, qq, U, V, rfl, rfl, hp, hq, hu, hv, hb⟩ := hcut
    have hlen : (over x (over y z)).length ≤ 20000 := by have := over_len y z; have := over_len x (over y z); omega
    have hsr : Srt (over x (over y z)) := HT.out.srt _ _ _ hu
    have hO := Ov.mk (S11.out.below HT.out hb) hp hq hu hv (R11.out.below hb) (P11.out.below hb) (V11.out.below hb)
    clear hp hq hu hv hb S11 R11 P11 V11 u0 u1 u2 hwb HS F0 F1' F2
    generalize over x (over y z) = r at *
    obtain ⟨N, hN⟩ : ∃ N, N = r.length := ⟨_, rfl⟩
    obtain ⟨nx, hnx⟩ : ∃ n, n = x.length := ⟨_, rfl⟩
    obtain ⟨ny, hny⟩ : ∃ n, n = y.length := ⟨_, rfl⟩
    rw [← hN] at hlen
    rw [← hnx] at sx
    rw [← hny] at sy
    rw [← hN, ← hnx, ← hny] at hO ⊢
    have O0 := Lib.hid hO
    have hfw := fun w2 h1 => HT.out.forward w2 U r code h1 (by omega) g0 g1
    have hrv := fun w2 h1 => HT.out.reverse w2 V r p h1 (by omega) g2 g3
    have hfd := fun w2 h2 => refFind_any B4 N d4 r code w2 h2 (by omega)
    have hrr := fun w2 h2 => refReverse_any B4 N d4 r p w2 h2 (by omega)
    have HN := Lib.hid hN
    clear hO hN hnx hny s1 s2 sz syz sxy hsr
    obtain ⟨_, f0, _⟩ := O0.out.p
    obtain ⟨R, hR⟩ : ∃ R, R = rev r p := ⟨_, rfl⟩
    rw [← hR] at hrv hrr
    clear hR
    obtain ⟨R', J, hyj, hYJ⟩ : ∃ R' J, (if R < 0 then 0 else R) = R' ∧ (!decide (R < 0)) = J := ⟨_, _, rfl, rfl⟩
    rw [hyj, hYJ] at hrv
    have hJ : (J = true ∧ R' = R ∧ 0 ≤ R) ∨ (J = false ∧ R' = 0 ∧ R < 0) := by
      by_cases hv : R < 0
      · rw [if_pos hv] at hyj; exact .inr ⟨by rw [← hYJ]; simp [hv], hyj.symm, hv⟩
      · rw [if_neg hv] at hyj; exact .inl ⟨by rw [← hYJ]; simp [hv], hyj.symm, by omega⟩
    clear hyj hYJ
    have HRV := Lib.hid hrv; have HRR := Lib.hid hrr
    rcases find_cases r code with ⟨h1, h2⟩ | ⟨k, t, h1, h2, h3⟩
    · rw [h1] at hfw
      rw [h2] at hfd
      simp only [Option.getD_none, Option.isSome_none] at hfw
      have HFW := Lib.hid hfw; have HFD := Lib.hid hfd
      clear h1 h2 hfw hfd hrv hrr
      rcases hJ with ⟨rfl, rfl, hv⟩ | ⟨rfl, rfl, hv⟩
      all_goals
        try have dv : decide ((0 : Int) ≤ R) = false := decide_eq_false (by omega)
        go_wp2_with (first | (go_at_call 18; (with_reducible refine (HT.out.is O0.out.u O0.out.rr (by omega)).mono ?_); rintro e0 y0 ⟨rfl, hy0⟩; have O1 := Lib.hid (O0.out.below hy0); obtain ⟨_, f1, _⟩ := O1.out.q; clear hy0) | (go_at_call 18; (with_reducible refine (HT.out.is O1.out.v O1.out.rr (by omega)).mono ?_); rintro e1 y1 ⟨rfl, hy1⟩; have O2 := Lib.hid (O1.out.below hy1); obtain ⟨_, f2, _⟩ := O2.out.s.x; clear hy1) | (go_at_call 18; (with_reducible refine (HT.out.is O2.out.s.tx O2.out.rx (by omega)).mono ?_); rintro e2 y2 ⟨rfl, hy2⟩; have O3 := Lib.hid (O2.out.below hy2); obtain ⟨_, f3, _⟩ := O3.out.s.y; clear hy2) | (go_at_call 18; (with_reducible refine (HT.out.is O3.out.s.ty O3.out.ry (by omega)).mono ?_); rintro e3 y3 ⟨rfl, hy3⟩; have O4 := Lib.hid (O3.out.below hy3); obtain ⟨_, f4, _⟩ := O4.out.p; clear hy3) | (go_at_call 19; (with_reducible refine (HFW.out _ O4.out.u).mono ?_); rintro e4 y4 ⟨rfl, hy4⟩; have O5 := Lib.hid (O4.out.below hy4); obtain ⟨_, f5, _⟩ := O5.out.q; clear hy4) | (go_at_call 20; (with_reducible refine (HFD.out _ O5.out.rr).mono ?_); rintro e5 y5 ⟨rfl, rfl⟩) | (go_at_call 21; (with_reducible refine (HRV.out _ O5.out.v).mono ?_); rintro e6 y6 ⟨rfl, hy6⟩; have O6 := Lib.hid (O5.out.below hy6); clear hy6) | (go_at_call 22; (with_reducible refine (HRR.out _ O6.out.rr).mono ?_); rintro e7 y7 ⟨rfl, rfl⟩) | (go_at_call 13; refine (HT.out.awake _ O6.out.s.k).mono ?_; rintro e8 y8 ⟨rfl, hy8⟩; have O7 := Lib.hid (O6.out.below hy8); clear hy8; skip))
        go_ret
        exact ⟨rfl, O7.out.s.bel⟩
    · obtain ⟨hk, hg⟩ := getD_of h3
      rw [h1] at hfw
      rw [h2] at hfd
      simp only [Option.getD_some, Option.isSome_some] at hfw
      have HFW := Lib.hid hfw; have HFD := Lib.hid hfd; have HG := Lib.hid hg
      rw [← HN.out] at hk
      clear h1 h2 hfw hfd hrv hrr h3 hg
      rcases hJ with ⟨rfl, rfl, hv⟩ | ⟨rfl, rfl, hv⟩
      all_goals
        try have dv : decide ((0 : Int) ≤ R) = false := decide_eq_false (by omega)
        go_wp2_with (first | (go_at_call 18; (with_reducible refine (HT.out.is O0.out.u O0.out.rr (by omega)).mono ?_); rintro e0 y0 ⟨rfl, hy0⟩; have O1 := Lib.hid (O0.out.below hy0); obtain ⟨_, f1, _⟩ := O1.out.q; clear hy0) | (go_at_call 18; (with_reducible refine (HT.out.is O1.out.v O1.out.rr (by omega)).mono ?_); rintro e1 y1 ⟨rfl, hy1⟩; have O2 := Lib.hid (O1.out.below hy1); obtain ⟨_, f2, _⟩ := O2.out.s.x; clear hy1) | (go_at_call 18; (with_reducible refine (HT.out.is O2.out.s.tx O2.out.rx (by omega)).mono ?_); rintro e2 y2 ⟨rfl, hy2⟩; have O3 := Lib.hid (O2.out.below hy2); obtain ⟨_, f3, _⟩ := O3.out.s.y; clear hy2) | (go_at_call 18; (with_reducible refine (HT.out.is O3.out.s.ty O3.out.ry (by omega)).mono ?_); rintro e3 y3 ⟨rfl, hy3⟩; have O4 := Lib.hid (O3.out.below hy3); obtain ⟨_, f4, _⟩ := O4.out.p; clear hy3) | (go_at_call 19; (with_reducible refine (HFW.out _ O4.out.u).mono ?_); rintro e4 y4 ⟨rfl, hy4⟩; have O5 := Lib.hid (O4.out.below hy4); obtain ⟨_, f5, _⟩ := O5.out.q; clear hy4) | (go_at_call 20; (with_reducible refine (HFD.out _ O5.out.rr).mono ?_); rintro e5 y5 ⟨rfl, rfl⟩) | (go_at_call 21; (with_reducible refine (HRV.out _ O5.out.v).mono ?_); rintro e6 y6 ⟨rfl, hy6⟩; have O6 := Lib.hid (O5.out.below hy6); clear hy6) | (go_at_call 22; (with_reducible refine (HRR.out _ O6.out.rr).mono ?_); rintro e7 y7 ⟨rfl, rfl⟩) | (go_at_call 13; refine (HT.out.awake _ O6.out.s.k).mono ?_; rintro e8 y8 ⟨rfl, hy8⟩; have O7 := Lib.hid (O6.out.below hy8); clear hy8; obtain ⟨a, rfl, a1, a2, k0, k1⟩ := O7.out.rr.at k (by omega); rw [HG.out] at k0 k1; simp only at k0 k1; have k2 : y8.cell? ⟨(a.add (k * 2)).block, (a.add (k * 2)).off + 1, none⟩ = some (.int .i32 t) := (by rw [← k1]; rfl); unfold maxLen at a2))
        go_ret
        exact ⟨rfl, O7.out.s.bel⟩
end Go.Proofs.YtiokdeomdeenbaaDoor.tb
