/- Several texts in one. -/
import Derived.Test.YtiigknimfibdpaaGreatDoorZ18
import Derived.Test.YtiigknimfibdpaaGreatDoorWd1
namespace Go.Proofs.YtiigknimfibdpaaGreatDoor.wd
open Go.RowKit Go.Lib
set_option linter.unusedVariables false
theorem scal : Scal := fun r w => pt.scalar_any r w
/-- The text of what was decoded. -/
def wt (d : List Int × Option Nat) : ByteArray := if d.2.isNone then pt.txt d.1 else ⟨#[]⟩
/-- The place of a fault, in the greater text. -/
def fb (bs : Int) : Option Nat → Int
  | none => 0
  | some a => bs + a
theorem upd_below {b B : Nat} {w x y : World} (h : oct.Upd b w x) (k : Below B x y) (hB : w.heap.size ≤ B) (hs : B ≤ x.heap.size) : oct.Upd b w y :=
  ⟨k.os.trans h.os, k.tape.trans h.tape, k.output.trans h.output, Nat.le_trans h.size k.size, fun i hi hb => (k.block i (by omega)).trans (h.block i hi hb)⟩
theorem upd_new {b c o : Nat} {w x : World} {v : Value} (h : oct.Upd b w x) (hc : w.heap.size ≤ c) : oct.Upd b w (x.setCell ⟨c, o, none⟩ v) :=
  ⟨h.os, h.tape, h.output, by have := h.size; simpa [World.setCell] using this, fun k hk hb => (Below.heap_setCell _ _ _ _ (by simp; omega)).trans (h.block k hk hb)⟩
theorem owns_upd {B b : Nat} {e : TypeId} {v : Value} {n : Nat} {xs : List Value} {wr w1 : World} (h : wr.ownsRow B e 1 v n xs) (hu : oct.Upd b wr w1) (hb : b < B) : w1.ownsRow B e 1 v n xs := by
  obtain ⟨hl, h | ⟨g, cap, cur, rfl, hB, hg, h1, h2, h3, h4⟩⟩ := h
  · exact ⟨hl, .inl h⟩
  · have hlt : g < wr.heap.size := (Array.getElem?_eq_some_iff.1 hg).1
    exact ⟨hl, .inr ⟨g, cap, cur, rfl, hB, (hu.block g hlt (by omega)).trans hg, h1, h2, h3, h4⟩⟩
theorem f2_upd {w w' : World} {b c : Nat} {x y : Int} (h : pt.F2 w b x y) (hu : oct.Upd c w w') (hb : b ≠ c) : pt.F2 w' b x y := by
  have H : ∀ o, w'.cell? ⟨b, o, none⟩ = w.cell? ⟨b, o, none⟩ := fun o => hu.cell (p := ⟨b, o, none⟩) h.lt hb
  have F : ∀ o, w'.frozen? ⟨b, o, none⟩ = w.frozen? ⟨b, o, none⟩ := fun o => hu.frozen (p := ⟨b, o, none⟩) h.lt hb
  exact ⟨Nat.lt_of_lt_of_le h.lt hu.size, (H 0).trans h.c0, (H 1).trans h.c1, (F 0).trans h.f0, (F 1).trans h.f1⟩
theorem row_of {B n : Nat} {v : Value} {zs : List Int} {w : World} (h : w.ownsRow B 21 1 v n (zs.map (Value.int .i32))) (hn : zs.length = n) : ∃ p c, v = .slice p n c ∧ pt.RowI w p n c zs := by
  subst hn
  obtain ⟨hl, ⟨rfl, h0⟩ | ⟨g, cap, cur, rfl, hB, hg, h1, h2, h3, h4⟩⟩ := h
  · exact ⟨none, 0, by rw [h0], .inl ⟨rfl, h0, rfl, List.length_eq_zero_iff.1 h0⟩⟩
  · refine ⟨_, _, rfl, .inr ⟨_, rfl, h1, h2, rfl, fun i hi => ?_⟩⟩
    rw [pt.add_zero]
    have h5 := congrArg (·[i]?) h4
    simp only [Nat.mul_one] at h5
    rw [List.getElem?_take_of_lt hi, Array.getElem?_toList] at h5
    simp only [World.cell?, hg]
    simp [h5, List.getElem?_eq_getElem hi, List.getD]
theorem mk_runes (n : Nat) (z : Int) (hz : z = n) (h : n ≤ 8000) (w : World) : (Instr.makeSlice 58 (.int .i64 0) (.int .i64 z)).run Tryz.prog w = .ok (.slice (some ⟨w.heap.size, 0, none⟩) 0 n) (w.alloc (.cells (madeCells #[.int .i32 0] n) 21)) := by
  subst hz
  obtain ⟨i, hi, hzz⟩ := Option.map_eq_some_iff.1 pt.rune_info
  simp only [Prod.mk.injEq] at hzz
  obtain ⟨hz, hs, hb⟩ := hzz
  have hr := run_make (P := Tryz.prog) w 58 21 i (.int .i32 0) Tryz.underlying58 hi hz .i64 .i64 0 (n : Int) (Int.le_refl _) (by omega) (by rw [hb]; omega) (by omega)
  simp only [Int.toNat_natCast, hs, Nat.mul_one] at hr
  exact hr
/-- How far a reader is. -/
def posOf (w : World) (b : Nat) : Nat := match w.cell? ⟨b, 1, none⟩ with | some (.int _ k) => k.toNat | _ => 0
theorem posOf_rd {w : World} {b : Nat} {t : ByteArray} {k : Nat} {bs e at' : Int} (h : oct.Rd w b t k bs e at') : posOf w b = k := by
  unfold posOf; rw [h.c1]; simp
set_option maxRecDepth 100000 in
set_option maxHeartbeats 1000000 in
theorem decode_any (t : ByteArray) (big : Bool) (b : Nat) (bs : Int) (w : World) (h : oct.Rd w b t 0 bs 0 0) (ht : t.size ≤ 8000) (z0 : 0 ≤ bs) (z1 : bs ≤ 1000000) :
    Calls Tryz.prog 70 #[.pointer (some ⟨b, 0, none⟩), .bool big] w fun e w' => e = .returned (.tuple #[.string (wt (wscan t big)), .agg #[.int .i64 (pt.fe (wscan t big).2), .int .i64 (fb bs (wscan t big).2)]]) ∧ oct.Upd b w w' := by
  obtain ⟨i0, hi0, hzz⟩ := Option.map_eq_some_iff.1 pt.rune_info
  simp only [Prod.mk.injEq] at hzz
  obtain ⟨hz, hsi, hby⟩ := hzz
  obtain ⟨L, hL⟩ : ∃ L, L = (wscan t big).1 := ⟨_, rfl⟩
  obtain ⟨D, hD⟩ : ∃ D, D = (wscan t big).2 := ⟨_, rfl⟩
  have hLv := wd_valid t big t.size 0
  have hLl := wd_len t big t.size 0
  have hLD : wscan t big = (L, D) := by rw [hL, hD]
  rw [hLD]
  have hL1 : (wd t big t.size 0).1 = L := hL.symm
  have hD1 : (wd t big t.size 0).2 = D := hD.symm
  rw [hL1] at hLv hLl
  have htm : t.size ≤ maxLen := by unfold maxLen; omega
  have hlt := h.lt
  have hbne : w.heap.size ≠ b := by omega
  have hbne' : b ≠ w.heap.size := by omega
  have hmk := fun w2 => mk_runes (t.size / 2) ((t.size : Int) / 2) (by omega) (by omega) w2
  have R0 := Lib.hid (h.below ((Below.refl w.heap.size w).alloc (Nat.le_refl _) (.cells #[.int .i64 0, .int .i64 0] 54)) h.lt)
  have HL1 := Lib.hid hL1; have HD1 := Lib.hid hD1; have HLV := Lib.hid hLv; have HLL := Lib.hid hLl
  clear hL hD hLv hLl hLD hL1 hD1 h
  go_enter Tryz.func70, Tryz.ntmps70
  go_wp2_with (go_at_call 66; refine (oct.left_l _ _ _ 0 t.size _ _ R0.out (by omega) htm).mono ?_; rintro e1 w1 ⟨rfl, hb1⟩; have q1 : w.heap.size + 1 ≤ w1.heap.size := (by have := hb1.size; simpa using this); have R1 := Lib.hid (R0.out.below hb1 (by simp; omega)); have F1 := Lib.hid ((pt.f2_new w 0 0 54).below hb1 (by simp)); have U1 := Lib.hid (oct.Upd.of (b := b) (((Below.refl w.heap.size w).alloc (Nat.le_refl _) _).trans (hb1.mono (by simp))) (Nat.le_refl _)))
  have hA : Below w1.heap.size w1 (w1.alloc (.cells (madeCells #[.int .i32 0] (t.size / 2)) 21)) := (Below.refl _ _).alloc (Nat.le_refl _) _
  have F2 := Lib.hid (F1.out.below hA F1.out.lt)
  have R2 := Lib.hid (R1.out.below hA R1.out.lt)
  have U2 := Lib.hid (upd_below U1.out hA (by omega) (Nat.le_refl _))
  clear hb1 hA R0 F1 R1 U1 hmk
  go_loopw [6] (fun v wr => ∃ (pos f : Nat) (pre : List Int), pos ≤ t.size ∧ t.size ≤ pos + f ∧ pre.length ≤ pos ∧ pre ++ (wd t big f pos).1 = L ∧ (wd t big f pos).2 = D ∧ wr.ownsRow (w.heap.size + 1) 21 1 v pre.length (pre.map (Value.int .i32)) ∧ oct.Rd wr b t pos bs 0 0 ∧ pt.F2 wr w.heap.size 0 0 ∧ w.heap.size + 1 ≤ wr.heap.size ∧ oct.Upd b w wr) (fun _ wr => t.size - posOf wr b)
  case atStart => exact ⟨0, t.size, [], Nat.zero_le _, by omega, Nat.le_refl _, HL1.out, HD1.out, World.ownsRow_made w1 _ (t.size / 2) (by omega) (by unfold maxLen; omega) (by simp [madeCells]), R2.out, F2.out, by simp; omega, U2.out⟩
  case round =>
    obtain ⟨pos, f, pre, hps, hf, hpl, hpre, hsc, hown, hR, hF, hz1, hU⟩ := hrel
    have HPR := Lib.hid hpre; have HSC := Lib.hid hsc; have HOW := Lib.hid hown; have HR := Lib.hid hR; have HF := Lib.hid hF; have HU := Lib.hid hU
    clear hpre hsc hown hR hF hU R2 F2 U2
    obtain ⟨l, hl⟩ : ∃ l, pos + l = t.size := ⟨t.size - pos, by omega⟩
    have HLq := Lib.hid hl
    have hll : l ≤ 8000 := by omega
    clear hl
    by_cases hp : 0 < l
    · have hpt : pos < t.size := by have := HLq.out; omega
      have HAT : Hid (∀ w2, oct.Rd w2 b t pos bs 0 0 → Calls Tryz.prog 67 #[.pointer (some ⟨b, 0, none⟩)] w2 fun e w' => e = .returned (.int .i64 (bs + (pos : Int))) ∧ w2 = w') := Lib.hid (fun w2 h2 => by
        have := oct.at_on w2 b t pos bs 0 0 h2 (by omega) htm (by omega) (by omega)
        rwa [oct.plc_small (by omega)] at this)
      cases hb : wn t big pos with
      | none =>
        have hsc1 := HSC.out
        rw [wd_bad t big f pos hpt hf hb] at hsc1
        have hDe : D = some pos := hsc1.symm
        subst hDe
        have HNX : Hid (∀ w2, oct.Rd w2 b t pos bs 0 0 → Calls Tryz.prog 109 #[.pointer (some ⟨b, 0, none⟩), .bool big] w2 fun e w' => e = .returned (.tuple #[.int .i32 0, .bool false]) ∧ oct.Upd b w2 w') := Lib.hid (fun w2 h2 => next_no scal t big pos b bs 0 w2 h2 (by omega) htm (by omega) (by omega) hb)
        clear hsc1 hb
        go_wp2_with (first | (go_at_call 66; refine (oct.left_l _ _ _ pos l _ _ HR.out HLq.out htm).mono ?_; rintro e1 w2 ⟨rfl, hb2⟩; have R3 := Lib.hid (HR.out.below hb2 HR.out.lt); have F3 := Lib.hid (HF.out.below hb2 HF.out.lt); have U3 := Lib.hid (HU.out.trans (oct.Upd.of hb2 (Nat.le_refl _)))) | (go_at_call 67; refine (HAT.out _ R3.out).mono ?_; rintro e2 w3 ⟨rfl, rfl⟩) | (go_at_call 109; refine (HNX.out _ R3.out).mono ?_; rintro e3 w4 ⟨rfl, hu4⟩; have F4 := Lib.hid (f2_upd F3.out hu4 hbne); have U4 := Lib.hid (U3.out.trans hu4)) | (go_at_call 110; refine (undec_any _ _).mono ?_; rintro e5 w5 ⟨rfl, hb5⟩; obtain ⟨_, c0, c1, f0, f1⟩ := F4.out.below hb5 F4.out.lt; have U5 := Lib.hid (U4.out.trans (oct.Upd.of hb5 (Nat.le_refl _)))))
        exact bodyPost_ret (v := .tuple #[.string ⟨#[]⟩, .agg #[.int .i64 2, .int .i64 (bs + (pos : Int))]]) (by simp [results, Tryz.results70, go_sem, c0, c1]) rfl ⟨rfl, upd_new (upd_new U5.out (Nat.le_refl _)) (Nat.le_refl _)⟩
      | some d =>
        obtain ⟨x, n⟩ := d
        have hk2 := wn_two hb
        obtain ⟨f1, rfl⟩ : ∃ f1, f = f1 + 1 := ⟨f - 1, by omega⟩
        have hsc1 := HSC.out
        have hpr1 := HPR.out
        rw [wd_good t big f1 pos hpt _ hb] at hsc1 hpr1
        have HS1 := Lib.hid hsc1; have HP1 := Lib.hid hpr1
        have HNX : Hid (∀ w2, oct.Rd w2 b t pos bs 0 0 → Calls Tryz.prog 109 #[.pointer (some ⟨b, 0, none⟩), .bool big] w2 fun e w' => e = .returned (.tuple #[.int .i32 x, .bool true]) ∧ oct.Rd w' b t ((pos + n : Nat) : Int) bs 0 0 ∧ oct.Upd b w2 w') := Lib.hid (fun w2 h2 => next_ok scal t big pos b bs 0 w2 h2 htm x n hb)
        clear hsc1 hpr1 hb
        go_wp2_with (first | (go_at_call 66; refine (oct.left_l _ _ _ pos l _ _ HR.out HLq.out htm).mono ?_; rintro e1 w2 ⟨rfl, hb2⟩; have R3 := Lib.hid (HR.out.below hb2 HR.out.lt); have F3 := Lib.hid (HF.out.below hb2 HF.out.lt); have U3 := Lib.hid (HU.out.trans (oct.Upd.of hb2 (Nat.le_refl _))); have O3 := Lib.hid (pt.owns_below HOW.out hb2); have q3 := Nat.le_trans hz1 hb2.size) | (go_at_call 67; refine (HAT.out _ R3.out).mono ?_; rintro e2 w3 ⟨rfl, rfl⟩) | (go_at_call 109; refine (HNX.out _ R3.out).mono ?_; rintro e3 w4 ⟨rfl, hr4, hu4⟩; have F4 := Lib.hid (f2_upd F3.out hu4 hbne); have U4 := Lib.hid (U3.out.trans hu4); have R4 := Lib.hid hr4; have O4 := Lib.hid (owns_upd O3.out hu4 (by omega)); have q4 := Nat.le_trans q3 hu4.size; clear hr4 hu4 hb2) | (at_builtin; refine wpList_append_own _ rfl _ _ 58 rfl (w.heap.size + 1) 21 i0 (.int .i32 0) 1 4 Tryz.underlying58 hi0 hz hsi hby rfl (by decide) _ _ _ rfl (O4.out.alloc _) ⟨w4.heap.size, 0, none⟩ 1 1 [.int .i32 x] rfl rfl ?c1 ?c2 ?c3 ?c4 ?c5 ?_))
        case c1 =>
          intro j u hj
          match j, hj with
          | 0, hj =>
            simp at hj
            subst hj
            have e : (⟨w4.heap.size, 0, none⟩ : Addr).add 0 = ⟨w4.heap.size, 0, none⟩ := by simp [Addr.add]
            rw [e, World.cell?_alloc_mark]; rfl
          | (j + 1), hj => simp at hj
        case c2 => intro u hu; simp at hu; subst hu; rfl
        case c3 => unfold maxLen; omega
        case c4 => omega
        case c5 => simp; omega
        intro v' w5 hown5 hgrow _
        have HO5 := Lib.hid hown5
        have hB5 := pt.below_grown (Below.refl (w.heap.size + 1) w4) (by omega) O4.out hgrow
        have R5 := Lib.hid (R4.out.below hB5 (by omega)); have F5 := Lib.hid (F4.out.below hB5 (by omega)); have U5 := Lib.hid (upd_below U4.out hB5 (by omega) (by omega))
        have q5 := Nat.le_trans q4 hB5.size
        clear hown5 hgrow hB5
        go_wp2
        go_roundw
        case rel => exact ⟨pos + n, f1, pre ++ [x], by omega, by omega, by simp; omega, by rw [List.append_assoc]; exact HP1.out, HS1.out, by rw [List.map_append, List.length_append]; exact HO5.out, R5.out, F5.out, q5, U5.out⟩
        case measure => rw [posOf_rd R5.out, posOf_rd HR.out]; omega
    · have hpt : ¬ pos < t.size := by have := HLq.out; omega
      obtain rfl : l = 0 := by omega
      have hsc1 := HSC.out
      have hpr1 := HPR.out
      rw [wd_end t big f pos hpt] at hsc1 hpr1
      simp only [List.append_nil] at hpr1
      have hDe : D = none := hsc1.symm
      subst hDe
      subst hpr1
      obtain ⟨p, c, rfl, hrow⟩ := row_of HOW.out rfl
      have hn4 : pre.length ≤ 4000 := by have := HLL.out; omega
      have HTX : Hid (∀ w2, pt.RowI w2 p pre.length c pre → Calls Tryz.prog 73 #[.slice p pre.length c] w2 fun e w' => e = .returned (.tuple #[.string (pt.txt pre), .bool true]) ∧ Below w2.heap.size w2 w') := Lib.hid (fun w2 h2 => by
        have := pt.text_row p pre.length c pre w2 h2 hn4
        rwa [HLV.out, if_pos rfl] at this)
      have HRW := Lib.hid hrow
      clear hsc1 hrow hpt hp hpl
      generalize pre.length = N at *
      go_wp2_with (first | (go_at_call 66; refine (oct.left_l _ _ _ pos 0 _ _ HR.out HLq.out htm).mono ?_; rintro e1 w2 ⟨rfl, hb2⟩; have F3 := Lib.hid (HF.out.below hb2 HF.out.lt); have U3 := Lib.hid (HU.out.trans (oct.Upd.of hb2 (Nat.le_refl _))); have W3 := Lib.hid (HRW.out.below hb2)) | (go_at_call 73; refine (HTX.out _ W3.out).mono ?_; rintro e5 w5 ⟨rfl, hb5⟩; obtain ⟨_, c0, c1, f0, f1⟩ := F3.out.below hb5 F3.out.lt; have U5 := Lib.hid (U3.out.trans (oct.Upd.of hb5 (Nat.le_refl _)))))
      exact bodyPost_ret (v := .tuple #[.string (pt.txt pre), .agg #[.int .i64 0, .int .i64 0]]) (by simp [results, Tryz.results70, go_sem, c0, c1]) rfl ⟨rfl, upd_new (upd_new U5.out (Nat.le_refl _)) (Nat.le_refl _)⟩
end Go.Proofs.YtiigknimfibdpaaGreatDoor.wd
namespace Go.Proofs.YtiigknimfibdpaaGreatDoor.wd
open Go.RowKit Go.Lib
set_option linter.unusedVariables false
theorem fb_zero (d : Option Nat) : fb 0 d = pt.fa d := by cases d <;> simp [fb, pt.fa]
set_option maxRecDepth 100000 in
theorem Decode_any (s : ByteArray) (big : Bool) (w : World) (hs : s.size ≤ 8000) :
    Calls Tryz.prog 40 #[.string s, .bool big] w fun e w' => e = .returned (.tuple #[.string (wt (wscan s big)), .agg #[.int .i64 (pt.fe (wscan s big).2), .int .i64 (pt.fa (wscan s big).2)]]) ∧ Below w.heap.size w w' := by
  have hrd := oct.read_any s (w.alloc (.cells #[.int .i64 0, .int .i64 0] 54))
  rw [World.size_alloc] at hrd
  have hdc := fun w2 h2 => decode_any s big (w.heap.size + 1) 0 w2 h2 hs (by omega) (by omega)
  rw [fb_zero] at hdc
  generalize wt (wscan s big) = T at *
  generalize pt.fe (wscan s big).2 = E at *
  generalize pt.fa (wscan s big).2 = P at *
  have HRD := Lib.hid hrd; have HDC := Lib.hid hdc
  clear hrd hdc
  go_enter Tryz.func40, Tryz.ntmps40
  go_wp2_with (first | (go_at_call 65; refine HRD.out.mono ?_; rintro e1 w1 ⟨rfl, hR, hb1⟩; have F1 := Lib.hid ((pt.f2_new w 0 0 54).below hb1 (by omega)); have R1 := Lib.hid hR; have B1 := Lib.hid (((Below.refl w.heap.size w).alloc (Nat.le_refl _) _).trans (hb1.mono (by omega))); have q1 := hR.lt; clear hR hb1) | (go_at_call 70; refine (HDC.out _ R1.out).mono ?_; rintro e2 w2 ⟨rfl, hu2⟩; obtain ⟨_, c0, c1, f0, f1⟩ := f2_upd F1.out hu2 (by omega); have B2 := Lib.hid (oct.Upd.below B1.out hu2 (by omega) (by omega))))
  have HB := B2.out
  exact bodyPost_ret (v := .tuple #[.string T, .agg #[.int .i64 E, .int .i64 P]]) (by simp [results, Tryz.results40, go_sem, c0, c1]) rfl ⟨rfl, by repeat (first | (with_reducible exact HB) | (with_reducible exact Below.refl _ _) | (with_reducible refine Below.setCell ?_ (by simp) _) | (with_reducible refine Below.alloc ?_ (by simp; omega) _))⟩
end Go.Proofs.YtiigknimfibdpaaGreatDoor.wd
