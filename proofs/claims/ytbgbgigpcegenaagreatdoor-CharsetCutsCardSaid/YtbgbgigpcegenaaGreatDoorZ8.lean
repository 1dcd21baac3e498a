/- Several texts in one. -/
import Derived.Test.YtbgbgigpcegenaaGreatDoorZ3
import Derived.Test.YtbgbgigpcegenaaGreatDoorZ7
import Derived.Test.YtbgbgigpcegenaaGreatDoorZ5
import Derived.Test.YtbgbgigpcegenaaGreatDoorZ0
import Derived.Test.YtbgbgigpcegenaaGreatDoorZ6
import Derived.BigQuiet
import Derived.Deep.QuietTactic
import Derived.Test.YtbgbgigpcegenaaGreatDoorZ4
import Derived.Lib.AppendStr
import Derived.Lib.Join
import Derived.Deep.RegionHeld3
import Derived.Deep.AppendLies
import Derived.OrdersHeld
import Derived.Deep.RegionHeld
import Derived.Deep.DeepCutAuto
namespace Go.Proofs.YtbgbgigpcegenaaGreatDoor.wd
open Go.RowKit Go.Lib
set_option linter.unusedVariables false
theorem scal : Scal := fun r w => pt.scalar_any r w
/-- The text of what was decoded. -/
def wt (d : List Int × Option Nat) : ByteArray := if d.2.isNone then pt.txt d.1 else ⟨#[]⟩
/-- The place of a fault, in the greater text. -/
def fb (bs : Int) : Option Nat → Int
  | none => 0
  | some a => bs + a
theorem upd_below {b B : Nat} {w x y : World} (h : oct.Upd b w x) (k : Below B x y) (hB : w.heap.size ≤ B) (hs : B ≤ x.heap.size) : oct.Upd b w y :=
  ⟨k.os.trans h.os, k.tape.trans h.tape, k.output.trans h.output, Nat.le_trans h.size k.size, fun i hi hb => (k.block i (by omega)).trans (h.block i hi hb)⟩
theorem upd_new {b c o : Nat} {w x : World} {v : Value} (h : oct.Upd b w x) (hc : w.heap.size ≤ c) : oct.Upd b w (x.setCell ⟨c, o, none⟩ v) :=
  ⟨h.os, h.tape, h.output, by have := h.size; simpa [World.setCell] using this, fun k hk hb => (Below.heap_setCell _ _ _ _ (by simp; omega)).trans (h.block k hk hb)⟩
theorem owns_upd {B b : Nat} {e : TypeId} {v : Value} {n : Nat} {xs : List Value} {wr w1 : World} (h : wr.ownsRow B e 1 v n xs) (hu : oct.Upd b wr w1) (hb : b < B) : w1.ownsRow B e 1 v n xs := by
  obtain ⟨hl, h | ⟨g, cap, cur, rfl, hB, hg, h1, h2, h3, h4⟩⟩ := h
  · exact ⟨hl, .inl h⟩
  · have hlt : g < wr.heap.size := (Array.getElem?_eq_some_iff.1 hg).1
    exact ⟨hl, .inr ⟨g, cap, cur, rfl, hB, (hu.block g hlt (by omega)).trans hg, h1, h2, h3, h4⟩⟩
theorem f2_upd {w w' : World} {b c : Nat} {x y : Int} (h : pt.F2 w b x y) (hu : oct.Upd c w w') (hb : b ≠ c) : pt.F2 w' b x y := by
  have H : ∀ o, w'.cell? ⟨b, o, none⟩ = w.cell? ⟨b, o, none⟩ := fun o => hu.cell (p := ⟨b, o, none⟩) h.lt hb
  have F : ∀ o, w'.frozen? ⟨b, o, none⟩ = w.frozen? ⟨b, o, none⟩ := fun o => hu.frozen (p := ⟨b, o, none⟩) h.lt hb
  exact ⟨Nat.lt_of_lt_of_le h.lt hu.size, (H 0).trans h.c0, (H 1).trans h.c1, (F 0).trans h.f0, (F 1).trans h.f1⟩
theorem row_of {B n : Nat} {v : Value} {zs : List Int} {w : World} (h : w.ownsRow B 21 1 v n (zs.map (Value.int .i32))) (hn : zs.length = n) : ∃ p c, v = .slice p n c ∧ pt.RowI w p n c zs := by
  subst hn
  obtain ⟨hl, ⟨rfl, h0⟩ | ⟨g, cap, cur, rfl, hB, hg, h1, h2, h3, h4⟩⟩ := h
  · exact ⟨none, 0, by rw [h0], .inl ⟨rfl, h0, rfl, List.length_eq_zero_iff.1 h0⟩⟩
  · refine ⟨_, _, rfl, .inr ⟨_, rfl, h1, h2, rfl, fun i hi => ?_⟩⟩
    rw [pt.add_zero]
    have h5 := congrArg (·[i]?) h4
    simp only [Nat.mul_one] at h5
    rw [List.getElem?_take_of_lt hi, Array.getElem?_toList] at h5
    simp only [World.cell?, hg]
    simp [h5, List.getElem?_eq_getElem hi, List.getD]
theorem mk_runes (n : Nat) (z : Int) (hz : z = n) (h : n ≤ 8000) (w : World) : (Instr.makeSlice 40 (.int .i64 0) (.int .i64 z)).run Tryz.prog w = .ok (.slice (some ⟨w.heap.size, 0, none⟩) 0 n) (w.alloc (.cells (madeCells #[.int .i32 0] n) 21)) := by
  subst hz
  obtain ⟨i, hi, hzz⟩ := Option.map_eq_some_iff.1 pt.rune_info
  simp only [Prod.mk.injEq] at hzz
  obtain ⟨hz, hs, hb⟩ := hzz
  have hr := run_make (P := Tryz.prog) w 40 21 i (.int .i32 0) Tryz.underlying40 hi hz .i64 .i64 0 (n : Int) (Int.le_refl _) (by omega) (by rw [hb]; omega) (by omega)
  simp only [Int.toNat_natCast, hs, Nat.mul_one] at hr
  exact hr
/-- How far a reader is. -/
def posOf (w : World) (b : Nat) : Nat := match w.cell? ⟨b, 1, none⟩ with | some (.int _ k) => k.toNat | _ => 0
theorem posOf_rd {w : World} {b : Nat} {t : ByteArray} {k : Nat} {bs e at' : Int} (h : oct.Rd w b t k bs e at') : posOf w b = k := by
  unfold posOf; rw [h.c1]; simp
set_option maxRecDepth 100000 in
set_option maxHeartbeats 1000000 in
theorem decode_any (t : ByteArray) (big : Bool) (b : Nat) (bs : Int) (w : World) (h : oct.Rd w b t 0 bs 0 0) (ht : t.size ≤ 8000) (z0 : 0 ≤ bs) (z1 : bs ≤ 1000000) :
    Calls Tryz.prog 44 #[.pointer (some ⟨b, 0, none⟩), .bool big] w fun e w' => e = .returned (.tuple #[.string (wt (wscan t big)), .agg #[.int .i64 (pt.fe (wscan t big).2), .int .i64 (fb bs (wscan t big).2)]]) ∧ oct.Upd b w w' := by
  obtain ⟨i0, hi0, hzz⟩ := Option.map_eq_some_iff.1 pt.rune_info
  simp only [Prod.mk.injEq] at hzz
  obtain ⟨hz, hsi, hby⟩ := hzz
  obtain ⟨L, hL⟩ : ∃ L, L = (wscan t big).1 := ⟨_, rfl⟩
  obtain ⟨D, hD⟩ : ∃ D, D = (wscan t big).2 := ⟨_, rfl⟩
  have hLv := wd_valid t big t.size 0
  have hLl := wd_len t big t.size 0
  have hLD : wscan t big = (L, D) := by rw [hL, hD]
  rw [hLD]
  have hL1 : (wd t big t.size 0).1 = L := hL.symm
  have hD1 : (wd t big t.size 0).2 = D := hD.symm
  rw [hL1] at hLv hLl
  have htm : t.size ≤ maxLen := by unfold maxLen; omega
  have hlt := h.lt
  have hbne : w.heap.size ≠ b := by omega
  have hbne' : b ≠ w.heap.size := by omega
  have hmk := fun w2 => mk_runes (t.size / 2) ((t.size : Int) / 2) (by omega) (by omega) w2
  have R0 := Lib.hid (h.below ((Below.refl w.heap.size w).alloc (Nat.le_refl _) (.cells #[.int .i64 0, .int .i64 0] 32)) h.lt)
  have HL1 := Lib.hid hL1; have HD1 := Lib.hid hD1; have HLV := Lib.hid hLv; have HLL := Lib.hid hLl
  clear hL hD hLv hLl hLD hL1 hD1 h
  go_enter Tryz.func44, Tryz.ntmps44
  go_wp2_with (go_at_call 40; refine (oct.left_l _ _ _ 0 t.size _ _ R0.out (by omega) htm).mono ?_; rintro e1 w1 ⟨rfl, hb1⟩; have q1 : w.heap.size + 1 ≤ w1.heap.size := (by have := hb1.size; simpa using this); have R1 := Lib.hid (R0.out.below hb1 (by simp; omega)); have F1 := Lib.hid ((pt.f2_new w 0 0 32).below hb1 (by simp)); have U1 := Lib.hid (oct.Upd.of (b := b) (((Below.refl w.heap.size w).alloc (Nat.le_refl _) _).trans (hb1.mono (by simp))) (Nat.le_refl _)))
  have hA : Below w1.heap.size w1 (w1.alloc (.cells (madeCells #[.int .i32 0] (t.size / 2)) 21)) := (Below.refl _ _).alloc (Nat.le_refl _) _
  have F2 := Lib.hid (F1.out.below hA F1.out.lt)
  have R2 := Lib.hid (R1.out.below hA R1.out.lt)
  have U2 := Lib.hid (upd_below U1.out hA (by omega) (Nat.le_refl _))
  clear hb1 hA R0 F1 R1 U1 hmk
  go_loopw [6] (fun v wr => ∃ (pos f : Nat) (pre : List Int), pos ≤ t.size ∧ t.size ≤ pos + f ∧ pre.length ≤ pos ∧ pre ++ (wd t big f pos).1 = L ∧ (wd t big f pos).2 = D ∧ wr.ownsRow (w.heap.size + 1) 21 1 v pre.length (pre.map (Value.int .i32)) ∧ oct.Rd wr b t pos bs 0 0 ∧ pt.F2 wr w.heap.size 0 0 ∧ w.heap.size + 1 ≤ wr.heap.size ∧ oct.Upd b w wr) (fun _ wr => t.size - posOf wr b)
  case atStart => exact ⟨0, t.size, [], Nat.zero_le _, by omega, Nat.le_refl _, HL1.out, HD1.out, World.ownsRow_made w1 _ (t.size / 2) (by omega) (by unfold maxLen; omega) (by simp [madeCells]), R2.out, F2.out, by simp; omega, U2.out⟩
  case round =>
    obtain ⟨pos, f, pre, hps, hf, hpl, hpre, hsc, hown, hR, hF, hz1, hU⟩ := hrel
    have HPR := Lib.hid hpre; have HSC := Lib.hid hsc; have HOW := Lib.hid hown; have HR := Lib.hid hR; have HF := Lib.hid hF; have HU := Lib.hid hU
    clear hpre hsc hown hR hF hU R2 F2 U2
    obtain ⟨l, hl⟩ : ∃ l, pos + l = t.size := ⟨t.size - pos, by omega⟩
    have HLq := Lib.hid hl
    have hll : l ≤ 8000 := by omega
    clear hl
    by_cases hp : 0 < l
    · have hpt : pos < t.size := by have := HLq.out; omega
      have HAT : Hid (∀ w2, oct.Rd w2 b t pos bs 0 0 → Calls Tryz.prog 41 #[.pointer (some ⟨b, 0, none⟩)] w2 fun e w' => e = .returned (.int .i64 (bs + (pos : Int))) ∧ w2 = w') := Lib.hid (fun w2 h2 => by
        have := oct.at_on w2 b t pos bs 0 0 h2 (by omega) htm (by omega) (by omega)
        rwa [oct.plc_small (by omega)] at this)
      cases hb : wn t big pos with
      | none =>
        have hsc1 := HSC.out
        rw [wd_bad t big f pos hpt hf hb] at hsc1
        have hDe : D = some pos := hsc1.symm
        subst hDe
        have HNX : Hid (∀ w2, oct.Rd w2 b t pos bs 0 0 → Calls Tryz.prog 80 #[.pointer (some ⟨b, 0, none⟩), .bool big] w2 fun e w' => e = .returned (.tuple #[.int .i32 0, .bool false]) ∧ oct.Upd b w2 w') := Lib.hid (fun w2 h2 => next_no scal t big pos b bs 0 w2 h2 (by omega) htm (by omega) (by omega) hb)
        clear hsc1 hb
        go_wp2_with (first | (go_at_call 40; refine (oct.left_l _ _ _ pos l _ _ HR.out HLq.out htm).mono ?_; rintro e1 w2 ⟨rfl, hb2⟩; have R3 := Lib.hid (HR.out.below hb2 HR.out.lt); have F3 := Lib.hid (HF.out.below hb2 HF.out.lt); have U3 := Lib.hid (HU.out.trans (oct.Upd.of hb2 (Nat.le_refl _)))) | (go_at_call 41; refine (HAT.out _ R3.out).mono ?_; rintro e2 w3 ⟨rfl, rfl⟩) | (go_at_call 80; refine (HNX.out _ R3.out).mono ?_; rintro e3 w4 ⟨rfl, hu4⟩; have F4 := Lib.hid (f2_upd F3.out hu4 hbne); have U4 := Lib.hid (U3.out.trans hu4)) | (go_at_call 81; refine (undec_any _ _).mono ?_; rintro e5 w5 ⟨rfl, hb5⟩; obtain ⟨_, c0, c1, f0, f1⟩ := F4.out.below hb5 F4.out.lt; have U5 := Lib.hid (U4.out.trans (oct.Upd.of hb5 (Nat.le_refl _)))))
        exact bodyPost_ret (v := .tuple #[.string ⟨#[]⟩, .agg #[.int .i64 2, .int .i64 (bs + (pos : Int))]]) (by simp [results, Tryz.results44, go_sem, c0, c1]) rfl ⟨rfl, upd_new (upd_new U5.out (Nat.le_refl _)) (Nat.le_refl _)⟩
      | some d =>
        obtain ⟨x, n⟩ := d
        have hk2 := wn_two hb
        obtain ⟨f1, rfl⟩ : ∃ f1, f = f1 + 1 := ⟨f - 1, by omega⟩
        have hsc1 := HSC.out
        have hpr1 := HPR.out
        rw [wd_good t big f1 pos hpt _ hb] at hsc1 hpr1
        have HS1 := Lib.hid hsc1; have HP1 := Lib.hid hpr1
        have HNX : Hid (∀ w2, oct.Rd w2 b t pos bs 0 0 → Calls Tryz.prog 80 #[.pointer (some ⟨b, 0, none⟩), .bool big] w2 fun e w' => e = .returned (.tuple #[.int .i32 x, .bool true]) ∧ oct.Rd w' b t ((pos + n : Nat) : Int) bs 0 0 ∧ oct.Upd b w2 w') := Lib.hid (fun w2 h2 => next_ok scal t big pos b bs 0 w2 h2 htm x n hb)
        clear hsc1 hpr1 hb
        go_wp2_with (first | (go_at_call 40; refine (oct.left_l _ _ _ pos l _ _ HR.out HLq.out htm).mono ?_; rintro e1 w2 ⟨rfl, hb2⟩; have R3 := Lib.hid (HR.out.below hb2 HR.out.lt); have F3 := Lib.hid (HF.out.below hb2 HF.out.lt); have U3 := Lib.hid (HU.out.trans (oct.Upd.of hb2 (Nat.le_refl _))); have O3 := Lib.hid (pt.owns_below HOW.out hb2); have q3 := Nat.le_trans hz1 hb2.size) | (go_at_call 41; refine (HAT.out _ R3.out).mono ?_; rintro e2 w3 ⟨rfl, rfl⟩) | (go_at_call 80; refine (HNX.out _ R3.out).mono ?_; rintro e3 w4 ⟨rfl, hr4, hu4⟩; have F4 := Lib.hid (f2_upd F3.out hu4 hbne); have U4 := Lib.hid (U3.out.trans hu4); have R4 := Lib.hid hr4; have O4 := Lib.hid (owns_upd O3.out hu4 (by omega)); have q4 := Nat.le_trans q3 hu4.size; clear hr4 hu4 hb2) | (at_builtin; refine wpList_append_own _ rfl _ _ 40 rfl (w.heap.size + 1) 21 i0 (.int .i32 0) 1 4 Tryz.underlying40 hi0 hz hsi hby rfl (by decide) _ _ _ rfl (O4.out.alloc _) ⟨w4.heap.size, 0, none⟩ 1 1 [.int .i32 x] rfl rfl ?c1 ?c2 ?c3 ?c4 ?c5 ?_))
        case c1 =>
          intro j u hj
          match j, hj with
          | 0, hj =>
            simp at hj
            subst hj
            have e : (⟨w4.heap.size, 0, none⟩ : Addr).add 0 = ⟨w4.heap.size, 0, none⟩ := by simp [Addr.add]
            rw [e, World.cell?_alloc_mark]; rfl
          | (j + 1), hj => simp at hj
        case c2 => intro u hu; simp at hu; subst hu; rfl
        case c3 => unfold maxLen; omega
        case c4 => omega
        case c5 => simp; omega
        intro v' w5 hown5 hgrow _
        have HO5 := Lib.hid hown5
        have hB5 := pt.below_grown (Below.refl (w.heap.size + 1) w4) (by omega) O4.out hgrow
        have R5 := Lib.hid (R4.out.below hB5 (by omega)); have F5 := Lib.hid (F4.out.below hB5 (by omega)); have U5 := Lib.hid (upd_below U4.out hB5 (by omega) (by omega))
        have q5 := Nat.le_trans q4 hB5.size
        clear hown5 hgrow hB5
        go_wp2
        go_roundw
        case rel => exact ⟨pos + n, f1, pre ++ [x], by omega, by omega, by simp; omega, by rw [List.append_assoc]; exact HP1.out, HS1.out, by rw [List.map_append, List.length_append]; exact HO5.out, R5.out, F5.out, q5, U5.out⟩
        case measure => rw [posOf_rd R5.out, posOf_rd HR.out]; omega
    · have hpt : ¬ pos < t.size := by have := HLq.out; omega
      obtain rfl : l = 0 := by omega
      have hsc1 := HSC.out
      have hpr1 := HPR.out
      rw [wd_end t big f pos hpt] at hsc1 hpr1
      simp only [List.append_nil] at hpr1
      have hDe : D = none := hsc1.symm
      subst hDe
      subst hpr1
      obtain ⟨p, c, rfl, hrow⟩ := row_of HOW.out rfl
      have hn4 : pre.length ≤ 4000 := by have := HLL.out; omega
      have HTX : Hid (∀ w2, pt.RowI w2 p pre.length c pre → Calls Tryz.prog 47 #[.slice p pre.length c] w2 fun e w' => e = .returned (.tuple #[.string (pt.txt pre), .bool true]) ∧ Below w2.heap.size w2 w') := Lib.hid (fun w2 h2 => by
        have := pt.text_row p pre.length c pre w2 h2 hn4
        rwa [HLV.out, if_pos rfl] at this)
      have HRW := Lib.hid hrow
      clear hsc1 hrow hpt hp hpl
      generalize pre.length = N at *
      go_wp2_with (first | (go_at_call 40; refine (oct.left_l _ _ _ pos 0 _ _ HR.out HLq.out htm).mono ?_; rintro e1 w2 ⟨rfl, hb2⟩; have F3 := Lib.hid (HF.out.below hb2 HF.out.lt); have U3 := Lib.hid (HU.out.trans (oct.Upd.of hb2 (Nat.le_refl _))); have W3 := Lib.hid (HRW.out.below hb2)) | (go_at_call 47; refine (HTX.out _ W3.out).mono ?_; rintro e5 w5 ⟨rfl, hb5⟩; obtain ⟨_, c0, c1, f0, f1⟩ := F3.out.below hb5 F3.out.lt; have U5 := Lib.hid (U3.out.trans (oct.Upd.of hb5 (Nat.le_refl _)))))
      exact bodyPost_ret (v := .tuple #[.string (pt.txt pre), .agg #[.int .i64 0, .int .i64 0]]) (by simp [results, Tryz.results44, go_sem, c0, c1]) rfl ⟨rfl, upd_new (upd_new U5.out (Nat.le_refl _)) (Nat.le_refl _)⟩
end Go.Proofs.YtbgbgigpcegenaaGreatDoor.wd
namespace Go.Proofs.YtbgbgigpcegenaaGreatDoor.pt
open Go.RowKit Go.Lib
set_option linter.unusedVariables false
theorem sc_fuel (s : ByteArray) : ∀ f g pos, s.size ≤ pos + f → s.size ≤ pos + g → sc s f pos = sc s g pos
  | 0, g, pos, h, _ => by rw [sc_end s 0 pos (by omega), sc_end s g pos (by omega)]
  | f + 1, 0, pos, _, h => by rw [sc_end s 0 pos (by omega), sc_end s (f + 1) pos (by omega)]
  | f + 1, g + 1, pos, h1, h2 => by
    by_cases hp : pos < s.size
    · cases hb : bad s pos with
      | true => simp [sc, hp, hb]
      | false =>
        have hw := width_pos s pos
        rw [sc_good s f pos hp hb, sc_good s g pos hp hb, sc_fuel s f g (pos + (Utf8.decode s pos).2) (by omega) (by omega)]
    · rw [sc_end s (f + 1) pos hp, sc_end s (g + 1) pos hp]
theorem sc_shift (t s : ByteArray) (k : Nat) (hk : t.extract k t.size = s) (hkt : k ≤ t.size) : ∀ f pos, (sc t f (k + pos)).2 = ((sc s f pos).2).map (k + ·)
  | 0, pos => rfl
  | f + 1, pos => by
    have hz : s.size = t.size - k := by rw [← hk, ByteArray.size_extract]; omega
    have hd : Utf8.decode s pos = Utf8.decode t (k + pos) := by rw [← hk, tail_decode]
    have hb : bad s pos = bad t (k + pos) := by unfold bad; rw [hd]
    by_cases hp : pos < s.size
    · cases hb2 : bad s pos with
      | true =>
        have hb3 := hb ▸ hb2
        simp [sc, hp, hb2, hb3, show k + pos < t.size by omega]
      | false =>
        have hb3 := hb ▸ hb2
        rw [sc_good s f pos hp hb2, sc_good t f (k + pos) (by omega) hb3, ← hd]
        have ih := sc_shift t s k hk hkt f (pos + (Utf8.decode s pos).2)
        rw [← Nat.add_assoc] at ih
        exact ih
    · rw [sc_end s (f + 1) pos hp, sc_end t (f + 1) (k + pos) (by omega)]; rfl
theorem data_app (t s : ByteArray) : (t ++ s).data.toList = t.data.toList ++ s.data.toList := by simp
theorem ext_app (t s : ByteArray) : (t ++ s).extract t.size (t ++ s).size = s := by
  apply ByteArray.ext
  have h1 : t.data.extract t.size (t.size + s.size) = #[] := by
    apply Array.eq_empty_of_size_eq_zero
    have e : t.data.size = t.size := rfl
    rw [Array.size_extract]; omega
  have h2 : s.data.extract 0 s.size = s.data := Array.extract_size (xs := s.data)
  simp [h1, h2]
theorem scan_app (zs : List Int) (hv : zs.all validRune = true) (s : ByteArray) : (scan (txt zs ++ s)).2 = ((scan s).2).map ((txt zs).size + ·) := by
  have hz : (txt zs ++ s).size = (txt zs).size + s.size := ByteArray.size_append
  have h := (sc_ahead (txt zs ++ s) s.data.toList zs (txt zs ++ s).size 0 (by unfold Ahead; rw [List.drop_zero, data_app, txt_data]) (by omega) (by omega) hv).1
  have h2 : (scan (txt zs ++ s)).2 = (sc (txt zs ++ s) ((txt zs ++ s).size - zs.length) (0 + (nums zs).length)).2 := h
  have hle : zs.length ≤ (nums zs).length := by
    clear h h2 hz hv
    induction zs with
    | nil => simp
    | cons x zs ih => have := (encodeRuneZ_length x).1; have e : (nums (x :: zs)).length = (encodeRuneZ x).length + (nums zs).length := by simp [nums]
                      rw [e, List.length_cons]; omega
  have hsz := txt_size zs
  rw [h2, sc_fuel _ _ s.size _ (by omega) (by omega)]
  have h3 := sc_shift (txt zs ++ s) s (txt zs).size (ext_app _ _) (by omega) s.size 0
  rw [Nat.add_zero] at h3
  rw [Nat.zero_add, ← hsz]
  exact h3
end Go.Proofs.YtbgbgigpcegenaaGreatDoor.pt
namespace Go.Proofs.YtbgbgigpcegenaaGreatDoor.ch
open Go.RowKit Go.Lib
set_option linter.unusedVariables false
/-- A byte of a text; beyond its end: 0. -/
def bt (s : ByteArray) (i : Nat) : Nat := (s.data.toList.getD i 0).toNat
theorem bt_lt (s : ByteArray) (i : Nat) : bt s i < 256 := UInt8.toNat_lt _
theorem size_list (s : ByteArray) : s.data.toList.length = s.size := by rw [Array.length_toList]; rfl
theorem bt_left (a b : ByteArray) (i : Nat) (h : i < a.size) : bt (a ++ b) i = bt a i := by
  unfold bt
  rw [pt.data_app, List.getD_eq_getElem?_getD, List.getD_eq_getElem?_getD, List.getElem?_append_left (by rw [size_list]; exact h)]
theorem bt_right (a b : ByteArray) (i : Nat) : bt (a ++ b) (a.size + i) = bt b i := by
  unfold bt
  rw [pt.data_app, List.getD_eq_getElem?_getD, List.getD_eq_getElem?_getD, List.getElem?_append_right (by rw [size_list]; omega), size_list, Nat.add_sub_cancel_left]
/-- The signs of two bytes. -/
def sg2 (c : Int) (l b : Nat) : List Nat := if c = 4 then (if wa.sgW l b = 0 then [] else [wa.sgW l b]) else if c = 5 then (if jo.sg (l * 256 + b) = 0 then [] else [jo.sg (l * 256 + b)]) else bg.sgL l b
/-- The signs from a place on, in a charset of two bytes a sign, and where none stands. -/
def tb (c : Int) (s : ByteArray) : Nat → Nat → List Int × Option Nat
  | 0, _ => ([], none)
  | f + 1, pos => if pos < s.size then
      (if bt s pos < 128 then (((bt s pos : Nat) : Int) :: (tb c s f (pos + 1)).1, (tb c s f (pos + 1)).2)
      else if pos + 1 < s.size ∧ sg2 c (bt s pos) (bt s (pos + 1)) ≠ [] then ((sg2 c (bt s pos) (bt s (pos + 1))).map Int.ofNat ++ (tb c s f (pos + 2)).1, (tb c s f (pos + 2)).2)
      else ([], some pos))
    else ([], none)
theorem tb_end (c : Int) (s : ByteArray) (f pos : Nat) (h : ¬ pos < s.size) : tb c s f pos = ([], none) := by cases f <;> simp [tb, h]
theorem tb_low (c : Int) (s : ByteArray) (f pos : Nat) (h : pos < s.size) (hl : bt s pos < 128) : tb c s (f + 1) pos = (((bt s pos : Nat) : Int) :: (tb c s f (pos + 1)).1, (tb c s f (pos + 1)).2) := by simp [tb, h, hl]
theorem tb_two (c : Int) (s : ByteArray) (f pos : Nat) (h : pos < s.size) (hl : ¬ bt s pos < 128) (h2 : pos + 1 < s.size ∧ sg2 c (bt s pos) (bt s (pos + 1)) ≠ []) : tb c s (f + 1) pos = ((sg2 c (bt s pos) (bt s (pos + 1))).map Int.ofNat ++ (tb c s f (pos + 2)).1, (tb c s f (pos + 2)).2) := by
  show (if pos < s.size then (if bt s pos < 128 then _ else if pos + 1 < s.size ∧ sg2 c (bt s pos) (bt s (pos + 1)) ≠ [] then _ else _) else _) = _
  rw [if_pos h, if_neg hl, if_pos h2]
theorem tb_bad (c : Int) (s : ByteArray) (f pos : Nat) (h : pos < s.size) (hl : ¬ bt s pos < 128) (h2 : ¬ (pos + 1 < s.size ∧ sg2 c (bt s pos) (bt s (pos + 1)) ≠ [])) : tb c s (f + 1) pos = ([], some pos) := by
  show (if pos < s.size then (if bt s pos < 128 then _ else if pos + 1 < s.size ∧ sg2 c (bt s pos) (bt s (pos + 1)) ≠ [] then _ else _) else _) = _
  rw [if_pos h, if_neg hl, if_neg h2]
theorem tb_fuel (c : Int) (s : ByteArray) : ∀ f g pos, s.size ≤ pos + f → s.size ≤ pos + g → tb c s f pos = tb c s g pos
  | 0, g, pos, h, _ => by rw [tb_end c s 0 pos (by omega), tb_end c s g pos (by omega)]
  | f + 1, 0, pos, _, h => by rw [tb_end c s 0 pos (by omega), tb_end c s (f + 1) pos (by omega)]
  | f + 1, g + 1, pos, h1, h2 => by
    by_cases hp : pos < s.size
    · by_cases hl : bt s pos < 128
      · rw [tb_low c s f pos hp hl, tb_low c s g pos hp hl, tb_fuel c s f g (pos + 1) (by omega) (by omega)]
      · by_cases h3 : pos + 1 < s.size ∧ sg2 c (bt s pos) (bt s (pos + 1)) ≠ []
        · rw [tb_two c s f pos hp hl h3, tb_two c s g pos hp hl h3, tb_fuel c s f g (pos + 2) (by omega) (by omega)]
        · rw [tb_bad c s f pos hp hl h3, tb_bad c s g pos hp hl h3]
    · rw [tb_end c s (f + 1) pos hp, tb_end c s (g + 1) pos hp]
theorem tb_shift (c : Int) (a b : ByteArray) : ∀ f pos, tb c (a ++ b) f (a.size + pos) = ((tb c b f pos).1, ((tb c b f pos).2).map (a.size + ·))
  | 0, pos => rfl
  | f + 1, pos => by
    have hz : (a ++ b).size = a.size + b.size := ByteArray.size_append
    by_cases hp : pos < b.size
    · by_cases hl : bt b pos < 128
      · rw [tb_low c b f pos hp hl, tb_low c (a ++ b) f (a.size + pos) (by omega) (by rw [bt_right]; exact hl), bt_right, Nat.add_assoc, tb_shift c a b f (pos + 1)]
      · have hl2 : ¬ bt (a ++ b) (a.size + pos) < 128 := by rw [bt_right]; exact hl
        by_cases h3 : pos + 1 < b.size ∧ sg2 c (bt b pos) (bt b (pos + 1)) ≠ []
        · rw [tb_two c b f pos hp hl h3, tb_two c (a ++ b) f (a.size + pos) (by omega) hl2 (by rw [Nat.add_assoc, bt_right, bt_right]; exact ⟨by omega, h3.2⟩), Nat.add_assoc, bt_right, bt_right, Nat.add_assoc, tb_shift c a b f (pos + 2)]
        · rw [tb_bad c b f pos hp hl h3, tb_bad c (a ++ b) f (a.size + pos) (by omega) hl2 (by rw [Nat.add_assoc, bt_right, bt_right]; intro h; exact h3 ⟨by omega, h.2⟩)]
          rfl
    · rw [tb_end c b (f + 1) pos hp, tb_end c (a ++ b) (f + 1) (a.size + pos) (by omega)]; rfl
theorem tb_app (c : Int) (a b : ByteArray) : ∀ f pos, pos ≤ a.size → a.size ≤ pos + f → (tb c a f pos).2 = none → tb c (a ++ b) (f + b.size) pos = ((tb c a f pos).1 ++ (tb c b b.size 0).1, ((tb c b b.size 0).2).map (a.size + ·))
  | 0, pos, h1, h2, _ => by
    obtain rfl : pos = a.size := by omega
    have := tb_shift c a b b.size 0
    rw [Nat.zero_add]
    exact this
  | f + 1, pos, h1, h2, h3 => by
    have hz : (a ++ b).size = a.size + b.size := ByteArray.size_append
    have e : f + 1 + b.size = (f + b.size) + 1 := by omega
    by_cases hp : pos < a.size
    · by_cases hl : bt a pos < 128
      · have hl2 : bt (a ++ b) pos < 128 := by rw [bt_left a b pos hp]; exact hl
        rw [tb_low c a f pos hp hl] at h3 ⊢
        rw [e, tb_low c (a ++ b) (f + b.size) pos (by omega) hl2, bt_left a b pos hp, tb_app c a b f (pos + 1) (by omega) (by omega) h3]
        rfl
      · have hl2 : ¬ bt (a ++ b) pos < 128 := by rw [bt_left a b pos hp]; exact hl
        by_cases h4 : pos + 1 < a.size ∧ sg2 c (bt a pos) (bt a (pos + 1)) ≠ []
        · rw [tb_two c a f pos hp hl h4] at h3 ⊢
          rw [e, tb_two c (a ++ b) (f + b.size) pos (by omega) hl2 (by rw [bt_left a b pos hp, bt_left a b (pos + 1) h4.1]; exact ⟨by omega, h4.2⟩), bt_left a b pos hp, bt_left a b (pos + 1) h4.1, tb_app c a b f (pos + 2) (by omega) (by omega) h3, List.append_assoc]
        · rw [tb_bad c a f pos hp hl h4] at h3; cases h3
    · obtain rfl : pos = a.size := by omega
      have h5 : tb c (a ++ b) (f + 1 + b.size) a.size = ((tb c b (f + 1 + b.size) 0).1, ((tb c b (f + 1 + b.size) 0).2).map (a.size + ·)) := tb_shift c a b (f + 1 + b.size) 0
      rw [h5, tb_end c a (f + 1) a.size (by omega), tb_fuel c b (f + 1 + b.size) b.size 0 (by omega) (by omega)]
      rfl
/-- The signs of bytes in a charset, and where none stands. -/
def dz (c : Int) (s : ByteArray) : List Int × Option Nat := if c ≤ 3 then (sg.sdec c s.data.toList, none) else if c = 7 then (pt.zsOf s, (pt.scan s).2) else if 8 ≤ c then wd.wscan s (c == 9) else tb c s s.size 0
def inC (c : Int) : Prop := 0 ≤ c ∧ c ≤ 9
instance (c : Int) : Decidable (inC c) := by unfold inC; exact inferInstance
/-- What Decode answers: the text, the error, the place. -/
def dcT (c : Int) (s : ByteArray) : ByteArray := if inC c ∧ (dz c s).2 = none then pt.txt (dz c s).1 else ⟨#[]⟩
def dcE (c : Int) (s : ByteArray) : Int := if inC c then (if (dz c s).2 = none then 0 else 2) else 5
def dcA (c : Int) (s : ByteArray) : Int := if inC c then (match (dz c s).2 with | none => 0 | some a => (a : Int)) else 0
theorem dz_app {c : Int} {a b : ByteArray} (h0 : 0 ≤ c) (h7 : c ≤ 7) (h : (dz c a).2 = none) : (dz c (a ++ b)).2 = ((dz c b).2).map (a.size + ·) ∧ ((dz c b).2 = none → pt.txt (dz c (a ++ b)).1 = pt.txt (dz c a).1 ++ pt.txt (dz c b).1) := by
  unfold dz at *
  by_cases h3 : c ≤ 3
  · simp only [if_pos h3] at *
    refine ⟨rfl, fun _ => ?_⟩
    rw [pt.data_app]
    unfold sg.sdec
    rw [List.map_append]
    exact txt_app _ _
  · simp only [if_neg h3] at *
    by_cases h77 : c = 7
    · simp only [if_pos h77] at *
      have ha : pt.txt (pt.zsOf a) = a := pt.txt_back a h
      have h1 := pt.scan_app (pt.zsOf a) (pt.zsOf_valid a) b
      rw [ha] at h1
      refine ⟨h1, fun hb => ?_⟩
      rw [hb] at h1
      rw [pt.txt_back (a ++ b) h1, ha, pt.txt_back b hb]
    · simp only [if_neg h77, if_neg (show ¬ 8 ≤ c by omega)] at *
      have hz : (a ++ b).size = a.size + b.size := ByteArray.size_append
      have h1 := tb_app c a b a.size 0 (Nat.zero_le _) (by omega) h
      rw [hz, h1]
      exact ⟨rfl, fun _ => txt_app _ _⟩
where
  txt_app (a b : List Int) : pt.txt (a ++ b) = pt.txt a ++ pt.txt b := by
    apply ByteArray.ext
    apply Array.ext'
    show (pt.txt (a ++ b)).data.toList = (pt.txt a ++ pt.txt b).data.toList
    rw [pt.data_app, pt.txt_data, pt.txt_data, pt.txt_data]
    simp [pt.nums]
theorem sg2_len (c : Int) (l b : Nat) : (sg2 c l b).length ≤ 2 := by
  unfold sg2
  by_cases h4 : c = 4
  · rw [if_pos h4]; split <;> simp
  · rw [if_neg h4]
    by_cases h5 : c = 5
    · rw [if_pos h5]; split <;> simp
    · rw [if_neg h5]
      unfold bg.sgL
      split
      · simp
      · split <;> simp
theorem tb_len (c : Int) (s : ByteArray) : ∀ f pos, (tb c s f pos).1.length ≤ s.size - pos
  | 0, pos => by simp [tb]
  | f + 1, pos => by
    by_cases hp : pos < s.size
    · by_cases hl : bt s pos < 128
      · rw [tb_low c s f pos hp hl]
        have := tb_len c s f (pos + 1)
        simp; omega
      · by_cases h3 : pos + 1 < s.size ∧ sg2 c (bt s pos) (bt s (pos + 1)) ≠ []
        · rw [tb_two c s f pos hp hl h3]
          have h1 := tb_len c s f (pos + 2)
          have h2 := sg2_len c (bt s pos) (bt s (pos + 1))
          simp; omega
        · rw [tb_bad c s f pos hp hl h3]; simp
    · rw [tb_end c s (f + 1) pos hp]; simp
theorem tb_at (c : Int) (s : ByteArray) : ∀ f pos p, (tb c s f pos).2 = some p → p < s.size
  | 0, pos, p, h => by cases h
  | f + 1, pos, p, h => by
    by_cases hp : pos < s.size
    · by_cases hl : bt s pos < 128
      · rw [tb_low c s f pos hp hl] at h; exact tb_at c s f (pos + 1) p h
      · by_cases h3 : pos + 1 < s.size ∧ sg2 c (bt s pos) (bt s (pos + 1)) ≠ []
        · rw [tb_two c s f pos hp hl h3] at h; exact tb_at c s f (pos + 2) p h
        · rw [tb_bad c s f pos hp hl h3] at h; injection h with h; omega
    · rw [tb_end c s (f + 1) pos hp] at h; cases h
theorem sc_lt (s : ByteArray) : ∀ f pos p, (pt.sc s f pos).2 = some p → p < s.size
  | 0, pos, p, h => by simp [pt.sc] at h
  | f + 1, pos, p, h => by
    by_cases hp : pos < s.size
    · cases hb : pt.bad s pos with
      | true => simp [pt.sc, hp, hb] at h; omega
      | false => rw [pt.sc_good s f pos hp hb] at h; exact sc_lt s f _ p h
    · rw [pt.sc_end s (f + 1) pos hp] at h; cases h
theorem txt_most (l : List Int) : (pt.txt l).size ≤ 4 * l.length := by rw [pt.txt_size]; exact pt.nums_len l
theorem dz_at {c : Int} {s : ByteArray} {p : Nat} (h7 : c ≤ 7) (h : (dz c s).2 = some p) : p < s.size := by
  unfold dz at h
  by_cases h3 : c ≤ 3
  · rw [if_pos h3] at h; cases h
  · rw [if_neg h3] at h
    by_cases h77 : c = 7
    · rw [if_pos h77] at h; exact sc_lt s s.size 0 p h
    · rw [if_neg h77, if_neg (by omega)] at h; exact tb_at c s s.size 0 p h
theorem dz_most {c : Int} {s : ByteArray} (h7 : c ≤ 7) (h : (dz c s).2 = none) : (pt.txt (dz c s).1).size ≤ 4 * s.size := by
  unfold dz at *
  by_cases h3 : c ≤ 3
  · simp only [if_pos h3] at *
    have := txt_most (sg.sdec c s.data.toList)
    unfold sg.sdec at *
    rw [List.length_map, size_list] at this
    exact this
  · simp only [if_neg h3] at *
    by_cases h77 : c = 7
    · simp only [if_pos h77] at *
      rw [pt.txt_back s h]; omega
    · simp only [if_neg h77, if_neg (show ¬ 8 ≤ c by omega)] at *
      have h1 := txt_most (tb c s s.size 0).1
      have h2 := tb_len c s s.size 0
      omega
end Go.Proofs.YtbgbgigpcegenaaGreatDoor.ch
namespace Go.Proofs.YtbgbgigpcegenaaGreatDoor.jo
open Go.RowKit Go.Lib
set_option linter.unusedVariables false
theorem k0_size : K0.size = 20 := rfl
theorem k1_size : K1.size = 22 := rfl
theorem k2_size : K2.size = 28 := rfl
theorem or_int (x y : Int) (i : Nat) (hx : 0 ≤ x) (hm : x % 2 ^ i = 0) (hx1 : x < 2147483648) (hy : 0 ≤ y) (hy1 : y < 2 ^ i) (hy2 : y < 2147483648) : bits .or .i64 x y = x + y :=
  bits_join .i64 31 (by decide) (fun n a b => wrap64 (by omega) (by omega)) i x y hx hm (by omega) hy hy1 (by omega)
theorem index_at (t : TypeId) (s : ByteArray) (i : Nat) (hi : i < s.size) (w : World) (h : Tryz.prog.underlying t = some .string) : (Instr.index t (.string s) (.int .i64 (i : Int))).run Tryz.prog w = .ok (.int .u8 ((s[i]).toNat : Int)) w := by
  rw [run_index_string w t s .i64 i h]
  simp [hi]
set_option maxRecDepth 100000 in
set_option maxHeartbeats 4000000 in
theorem pcode_core (i j k : Nat) (x y z : Int) (w : World) (hK : KD w) (hi : i < K0.size) (hj : j < K1.size) (hk : k < K2.size)
    (hx : ((K0[i]).toNat : Int) = x) (hy : ((K1[j]).toNat : Int) = y) (hz : ((K2[k]).toNat : Int) = z)
    (o0 : bits .or .i64 32768 (x * 1024) = 32768 + x * 1024) (o1 : bits .or .i64 (32768 + x * 1024) (y * 32) = 32768 + x * 1024 + y * 32) (o2 : bits .or .i64 (32768 + x * 1024 + y * 32) z = 32768 + x * 1024 + y * 32 + z)
    (x0 : 0 ≤ x ∧ x < 32) (y0 : 0 ≤ y ∧ y < 32) (z0 : 0 ≤ z ∧ z < 32) :
    Calls Tryz.prog 105 #[.agg #[.int .i64 ((i : Int) - 1), .int .i64 ((j : Int) - 1), .int .i64 k]] w fun e w' => e = .returned (.int .i64 (32768 + x * 1024 + y * 32 + z)) ∧ Below w.heap.size w w' := by
  have HK := Lib.hid hK
  have HO0 := Lib.hid o0; have HO1 := Lib.hid o1; have HO2 := Lib.hid o2
  have HX := Lib.hid hx; have HY := Lib.hid hy; have HZ := Lib.hid hz
  have n0 := fun wx => show (Instr.index 130 (.agg #[.int .i64 ((i : Int) - 1), .int .i64 ((j : Int) - 1), .int .i64 k]) (.int .i64 0)).run Tryz.prog wx = .ok (.int .i64 ((i : Int) - 1)) wx by kernel_rfl
  have n1 := fun wx => show (Instr.index 130 (.agg #[.int .i64 ((i : Int) - 1), .int .i64 ((j : Int) - 1), .int .i64 k]) (.int .i64 1)).run Tryz.prog wx = .ok (.int .i64 ((j : Int) - 1)) wx by kernel_rfl
  have n2 := fun wx => show (Instr.index 130 (.agg #[.int .i64 ((i : Int) - 1), .int .i64 ((j : Int) - 1), .int .i64 k]) (.int .i64 2)).run Tryz.prog wx = .ok (.int .i64 k) wx by kernel_rfl
  clear hK o0 o1 o2 hx hy hz
  go_enter Tryz.func105, Tryz.ntmps105
  go_wp2_with fail
  go_loopw [3, 7] (fun c t wr => ∃ (C : Int) (n : Int), Hid (KD wr ∧ Below w.heap.size w wr) ∧ c = .int .i64 C ∧ t = .int .i64 n ∧ Hid ((n = 0 ∧ C = 32768) ∨ (n = 1 ∧ C = 32768 + x * 1024) ∨ (n = 2 ∧ C = 32768 + x * 1024 + y * 32) ∨ (n = 3 ∧ C = 32768 + x * 1024 + y * 32 + z))) (fun _ t _ => 3 - (RowKit.intOf t).toNat)
  case atStart => exact ⟨32768, 0, Lib.hid ⟨HK.out.below ((Below.refl _ _).alloc (Nat.le_refl _) _) HK.out.lt, (Below.refl _ _).alloc (Nat.le_refl _) _⟩, rfl, rfl, Lib.hid (.inl ⟨rfl, rfl⟩)⟩
  case round =>
    obtain ⟨C, n, hw, rfl, rfl, hc⟩ := hrel
    rcases hc.out with ⟨rfl, rfl⟩ | ⟨rfl, rfl⟩ | ⟨rfl, rfl⟩ | ⟨rfl, rfl⟩
    · have c0 := hw.out.1.c0; have c1 := hw.out.1.c1; have c2 := hw.out.1.c2
      have i0 := fun wx => index_at 9 K0 i hi wx Tryz.underlying9
      rw [HX.out] at i0
      have wi : IntKind.i64.wrap (i : Int) = (i : Int) := wrap64 (by omega) (by have := hi; rw [k0_size] at this; omega)
      have oo := HO0.out
      go_wp2_with fail
      go_quiet (fail)
      go_wp2_with fail
      go_roundw
      case rel => exact ⟨_, 1, Lib.hid ⟨hw.out.1.below (below_drewN (Below.refl _ _) _) hw.out.1.lt, below_drewN hw.out.2 _⟩, rfl, rfl, Lib.hid (by omega)⟩
      case measure => simp [RowKit.intOf]
    · have c3 := hw.out.1.c3; have c4 := hw.out.1.c4; have c5 := hw.out.1.c5
      have i0 := fun wx => index_at 9 K1 j hj wx Tryz.underlying9
      rw [HY.out] at i0
      have wi : IntKind.i64.wrap (j : Int) = (j : Int) := wrap64 (by omega) (by have := hj; rw [k1_size] at this; omega)
      have oo := HO1.out
      go_wp2_with fail
      go_quiet (fail)
      go_wp2_with fail
      go_roundw
      case rel => exact ⟨_, 2, Lib.hid ⟨hw.out.1.below (below_drewN (Below.refl _ _) _) hw.out.1.lt, below_drewN hw.out.2 _⟩, rfl, rfl, Lib.hid (by omega)⟩
      case measure => simp [RowKit.intOf]
    · have c6 := hw.out.1.c6; have c7 := hw.out.1.c7; have c8 := hw.out.1.c8
      have i0 := fun wx => index_at 9 K2 k hk wx Tryz.underlying9
      rw [HZ.out] at i0
      have wi : IntKind.i64.wrap (k : Int) = (k : Int) := wrap64 (by omega) (by have := hk; rw [k2_size] at this; omega)
      have oo := HO2.out
      go_wp2_with fail
      go_quiet (fail)
      go_wp2_with fail
      go_roundw
      case rel => exact ⟨_, 3, Lib.hid ⟨hw.out.1.below (below_drewN (Below.refl _ _) _) hw.out.1.lt, below_drewN hw.out.2 _⟩, rfl, rfl, Lib.hid (by omega)⟩
      case measure => simp [RowKit.intOf]
    · go_wp2_with fail
      go_ret
      exact ⟨rfl, hw.out.2⟩
end Go.Proofs.YtbgbgigpcegenaaGreatDoor.jo
namespace Go.Proofs.YtbgbgigpcegenaaGreatDoor.jo
open Go.RowKit Go.Lib
set_option linter.unusedVariables false
theorem medC_le (m : Nat) (h : m ≤ 20) : medC m ≤ 29 ∧ 3 ≤ medC m := by
  unfold medC; (repeat' split) <;> omega
theorem finC_le (f : Nat) (h : f ≤ 27) : finC f ≤ 29 ∧ 1 ≤ finC f := by
  unfold finC; split <;> omega
theorem aloL_has : ∀ k < 30, aloL.getD k 0 ≤ 18 ∨ (103 ≤ aloL.getD k 0 ∧ aloL.getD k 0 ≤ 118) := by decide
theorem code_le {p : Nat} (h : hasJ p) : 32768 ≤ code p ∧ code p < 65536 := by
  unfold hasJ at h
  unfold code
  by_cases h0 : 44032 ≤ p ∧ p ≤ 55203
  · rw [if_pos h0]
    have h1 := medC_le ((p - 44032) / 28 % 21) (by omega)
    have h2 := finC_le ((p - 44032) % 28) (by omega)
    omega
  · rw [if_neg h0]
    by_cases h3 : 12623 ≤ p ∧ p ≤ 12643
    · rw [if_pos h3]
      have h1 := medC_le (p - 12623) (by omega)
      omega
    · rw [if_neg h3, if_pos (by omega)]
      have h4 := aloL_has (p - 12593) (by omega)
      split
      · omega
      · have h2 := finC_le (aloL.getD (p - 12593) 0 - 100) (by omega)
        omega
end Go.Proofs.YtbgbgigpcegenaaGreatDoor.jo
namespace Go.Proofs.YtbgbgigpcegenaaGreatDoor.jo
open Go.RowKit Go.Lib
set_option linter.unusedVariables false
def aggP (a b d : Int) : Value := .agg #[.int .i64 a, .int .i64 b, .int .i64 d]
set_option maxRecDepth 100000 in
set_option maxHeartbeats 1000000 in
theorem letter_any (l : Int) (w : World) (h0 : 65 ≤ l) (h1 : l ≤ 255) : Calls Tryz.prog 144 #[.int .u8 l] w fun e w' => e = .returned (if 97 ≤ l then aggP (-1) (-1) (l - 97) else aggP (l - 65) (-1) 0) ∧ Below w.heap.size w w' := by
  by_cases h : 97 ≤ l
  · rw [if_pos h]
    obtain ⟨a3, a0, a1, a2, a4⟩ := f3_new w (-1) (-1) (l - 97) 130
    have w1 : IntKind.u8.wrap (l - 97) = l - 97 := by rw [IntKind.wrap_u8]; omega
    have w2 : IntKind.i64.wrap (l - 97) = l - 97 := wrap64 (by omega) (by omega)
    go_enter Tryz.func144, Tryz.ntmps144
    go_wp2_with fail
    refine bodyPost_ret (v := aggP (-1) (-1) (l - 97)) ?_ rfl ⟨rfl, (Below.refl w.heap.size w).alloc (Nat.le_refl _) _⟩
    simp [results, aggP, Tryz.results144, go_sem, a0, a1, a2]
  · rw [if_neg h]
    obtain ⟨a3, a0, a1, a2, a4⟩ := f3_new w (l - 65) (-1) 0 130
    have w1 : IntKind.u8.wrap (l - 65) = l - 65 := by rw [IntKind.wrap_u8]; omega
    have w2 : IntKind.i64.wrap (l - 65) = l - 65 := wrap64 (by omega) (by omega)
    go_enter Tryz.func144, Tryz.ntmps144
    go_wp2_with fail
    refine bodyPost_ret (v := aggP (l - 65) (-1) 0) ?_ rfl ⟨rfl, (Below.refl w.heap.size w).alloc (Nat.le_refl _) _⟩
    simp [results, aggP, Tryz.results144, go_sem, a0, a1, a2]
def tupP (v : Value) (b : Bool) : Value := .tuple #[v, .bool b]
set_option maxRecDepth 100000 in
set_option maxHeartbeats 1000000 in
theorem pos_syl (p n : Int) (w : World) (hp : p = 44032 + n) (h0 : 0 ≤ n) (h1 : n < 11172) : Calls Tryz.prog 104 #[.int .i32 p] w fun e w' => e = .returned (tupP (aggP (n / 28 / 21) (n / 28 % 21) (n % 28)) true) ∧ Below w.heap.size w w' := by
  obtain ⟨a3, a0, a1, a2, a4⟩ := f3_new w (n / 28 / 21) (n / 28 % 21) (n % 28) 130
  have n0 : 44032 ≤ p := by omega
  have n1 : p ≤ 55203 := by omega
  have e1 : IntKind.i32.wrap (p - 44032) = n := by rw [wrap32 (by omega) (by omega)]; omega
  have e2 : p - 44032 = n := by omega
  clear hp
  go_enter Tryz.func104, Tryz.ntmps104
  go_wp2_with fail
  refine bodyPost_ret (v := tupP (aggP (n / 28 / 21) (n / 28 % 21) (n % 28)) true) ?_ rfl ⟨rfl, (Below.refl w.heap.size w).alloc (Nat.le_refl _) _⟩
  simp [results, aggP, tupP, Tryz.results104, go_sem, a0, a1, a2]
set_option maxRecDepth 100000 in
set_option maxHeartbeats 1000000 in
theorem pos_med (p n : Int) (w : World) (hp : p = 12623 + n) (h0 : 0 ≤ n) (h1 : n ≤ 20) : Calls Tryz.prog 104 #[.int .i32 p] w fun e w' => e = .returned (tupP (aggP (-1) n 0) true) ∧ Below w.heap.size w w' := by
  obtain ⟨a3, a0, a1, a2, a4⟩ := f3_new w (-1) n 0 130
  have n0 : ¬ 44032 ≤ p := by omega
  have n1 : p ≤ 12643 := by omega
  have n2 : 12623 ≤ p := by omega
  have e1 : IntKind.i32.wrap (p - 12623) = n := by rw [wrap32 (by omega) (by omega)]; omega
  have e2 : p - 12623 = n := by omega
  clear hp
  go_enter Tryz.func104, Tryz.ntmps104
  go_wp2_with fail
  refine bodyPost_ret (v := tupP (aggP (-1) n 0) true) ?_ rfl ⟨rfl, (Below.refl w.heap.size w).alloc (Nat.le_refl _) _⟩
  simp [results, aggP, tupP, Tryz.results104, go_sem, a0, a1, a2]
theorem index_at32 (t : TypeId) (s : ByteArray) (i : Nat) (hi : i < s.size) (w : World) (h : Tryz.prog.underlying t = some .string) : (Instr.index t (.string s) (.int .i32 (i : Int))).run Tryz.prog w = .ok (.int .u8 ((s[i]).toNat : Int)) w := by
  rw [run_index_string w t s .i32 i h]
  simp [hi]
/-- The letter of a consonant. -/
def letL : List Nat := [65, 66, 100, 67, 102, 103, 68, 69, 70, 106, 107, 108, 109, 110, 111, 112, 71, 72, 73, 115, 74, 75, 76, 77, 78, 79, 80, 81, 82, 83]
theorem let_at : ∀ i : Fin 30, (consB[i.1]'(show i.1 < consB.size from i.2)).toNat = letL.getD i.1 0 := by decide +kernel
theorem let_le : ∀ k < 30, 65 ≤ letL.getD k 0 ∧ letL.getD k 0 ≤ 115 := by decide
set_option maxRecDepth 100000 in
set_option maxHeartbeats 2000000 in
theorem pos_con (p : Int) (k : Nat) (a b d : Int) (w : World) (hp : p = 12593 + (k : Int)) (h1 : k < 30) (hv : aggP a b d = (if 97 ≤ ((letL.getD k 0 : Nat) : Int) then aggP (-1) (-1) (((letL.getD k 0 : Nat) : Int) - 97) else aggP (((letL.getD k 0 : Nat) : Int) - 65) (-1) 0)) : Calls Tryz.prog 104 #[.int .i32 p] w fun e w' => e = .returned (tupP (aggP a b d) true) ∧ Below w.heap.size w w' := by
  have hl := let_le k h1
  have hat : (consB[k]'(show k < consB.size from h1)).toNat = letL.getD k 0 := let_at ⟨k, h1⟩
  have hix : ∀ wx, (Instr.index 9 (.string consB) (.int .i32 (k : Int))).run Tryz.prog wx = .ok (.int .u8 ((letL.getD k 0 : Nat) : Int)) wx := fun wx => by rw [← hat]; exact index_at32 9 consB k h1 wx Tryz.underlying9
  generalize letL.getD k 0 = l at *
  have HL := Lib.hid (fun w2 => letter_any l w2 (by omega) (by omega))
  rw [← hv] at HL
  have n0 : ¬ 44032 ≤ p := by omega
  have n1 : p ≤ 12622 := by omega
  have n2 : 12593 ≤ p := by omega
  have n3 : ¬ 12623 ≤ p := by omega
  have e1 : IntKind.i32.wrap (p - 12593) = (k : Int) := by rw [wrap32 (by omega) (by omega)]; omega
  have e2 : p - 12593 = (k : Int) := by omega
  have lt := f3_new w 0 0 0 130
  have LT := Lib.hid lt
  clear hp hv hl hat lt
  unfold consB at hix
  unfold aggP at HL
  go_enter Tryz.func104, Tryz.ntmps104
  go_wp2_with (go_at_call 144; refine (HL.out _).mono ?_; rintro e2 w2 ⟨rfl, hb2⟩; have G0 := Lib.hid (LT.out.below hb2 LT.out.lt); have HB2 := Lib.hid (((Below.refl w.heap.size w).alloc (Nat.le_refl _) _).trans (hb2.mono (by simp))); obtain ⟨a3, a0, a1, a2, a4⟩ := G0.out; clear hb2)
  refine bodyPost_ret (v := tupP (aggP a b d) true) ?_ rfl ⟨rfl, ((HB2.out.setCell (p := ⟨w.heap.size, 0, none⟩) (Nat.le_refl _) _).setCell (p := ⟨w.heap.size, 1, none⟩) (Nat.le_refl _) _).setCell (p := ⟨w.heap.size, 2, none⟩) (Nat.le_refl _) _⟩
  simp [results, aggP, tupP, Tryz.results104, go_sem, a0, a1, a2]
end Go.Proofs.YtbgbgigpcegenaaGreatDoor.jo
namespace Go.Proofs.YtbgbgigpcegenaaGreatDoor.jo
open Go.RowKit Go.Lib
set_option linter.unusedVariables false
def mj (j : Nat) : Nat := if j = 0 then 2 else medC (j - 1)
theorem k0_at : ∀ i : Fin 20, (K0[i.1]'(show i.1 < K0.size from i.2)).toNat = i.1 + 1 := by decide +kernel
theorem k1_at : ∀ i : Fin 22, (K1[i.1]'(show i.1 < K1.size from i.2)).toNat = mj i.1 := by decide +kernel
theorem k2_at : ∀ i : Fin 28, (K2[i.1]'(show i.1 < K2.size from i.2)).toNat = finC i.1 := by decide +kernel
theorem mj_le (j : Nat) (h : j < 22) : mj j ≤ 29 := by
  unfold mj
  split
  · omega
  · exact (medC_le (j - 1) (by omega)).1
theorem pcode_parts (i j k : Nat) (w : World) (hK : KD w) (hi : i < 20) (hj : j < 22) (hk : k < 28) : Calls Tryz.prog 105 #[aggP ((i : Int) - 1) ((j : Int) - 1) k] w fun e w' => e = .returned (.int .i64 ((32768 + (i + 1) * 1024 + mj j * 32 + finC k : Nat) : Int)) ∧ Below w.heap.size w w' := by
  have h1 := mj_le j hj
  have h2 := (finC_le k (by omega)).1
  have hx : ((K0[i]'(show i < K0.size from hi)).toNat : Int) = (i : Int) + 1 := by rw [k0_at ⟨i, hi⟩]; rfl
  have hy : ((K1[j]'(show j < K1.size from hj)).toNat : Int) = (mj j : Int) := by rw [k1_at ⟨j, hj⟩]
  have hz : ((K2[k]'(show k < K2.size from hk)).toNat : Int) = (finC k : Int) := by rw [k2_at ⟨k, hk⟩]
  have hp := pcode_core i j k _ _ _ w hK hi hj hk hx hy hz (or_int _ _ 15 (by omega) (by omega) (by omega) (by omega) (by omega) (by omega)) (or_int _ _ 10 (by omega) (by omega) (by omega) (by omega) (by omega) (by omega)) (or_int _ _ 5 (by omega) (by omega) (by omega) (by omega) (by omega) (by omega)) (by omega) (by omega) (by omega)
  rw [show ((32768 + (i + 1) * 1024 + mj j * 32 + finC k : Nat) : Int) = 32768 + ((i : Int) + 1) * 1024 + (mj j : Int) * 32 + (finC k : Int) by omega]
  exact hp
theorem let_alo : ∀ k < 30, letL.getD k 0 = if aloL.getD k 0 < 100 then 65 + aloL.getD k 0 else aloL.getD k 0 - 3 := by decide
/-- The parts of a sign, and their code. -/
theorem parts_code (q : Nat) (h : hasJ q) : ∃ a b d : Int, (∀ w, Calls Tryz.prog 104 #[.int .i32 q] w fun e w' => e = .returned (tupP (aggP a b d) true) ∧ Below w.heap.size w w') ∧
    (∀ w, KD w → Calls Tryz.prog 105 #[aggP a b d] w fun e w' => e = .returned (.int .i64 ((code q : Nat) : Int)) ∧ Below w.heap.size w w') := by
  have h0 := h
  unfold hasJ at h0
  by_cases hs : 44032 ≤ q
  · obtain ⟨n, rfl⟩ : ∃ n, q = 44032 + n := ⟨q - 44032, by omega⟩
    refine ⟨_, _, _, fun w => pos_syl ((44032 + n : Nat) : Int) n w (by omega) (by omega) (by omega), fun w hK => ?_⟩
    have hc := pcode_parts (n / 28 / 21 + 1) (n / 28 % 21 + 1) (n % 28) w hK (by omega) (by omega) (by omega)
    have e : code (44032 + n) = 32768 + (n / 28 / 21 + 1 + 1) * 1024 + mj (n / 28 % 21 + 1) * 32 + finC (n % 28) := by
      unfold code mj
      rw [if_pos (by omega), if_neg (by omega), Nat.add_sub_cancel_left, Nat.add_sub_cancel]
      rw [show n / 588 = n / 28 / 21 by omega]
    rw [e, show ((n : Int) / 28 / 21) = ((n / 28 / 21 + 1 : Nat) : Int) - 1 by omega, show ((n : Int) / 28 % 21) = ((n / 28 % 21 + 1 : Nat) : Int) - 1 by omega, show ((n : Int) % 28) = ((n % 28 : Nat) : Int) by omega]
    exact hc
  by_cases hm : 12623 ≤ q
  · obtain ⟨n, rfl⟩ : ∃ n, q = 12623 + n := ⟨q - 12623, by omega⟩
    refine ⟨_, _, _, fun w => pos_med ((12623 + n : Nat) : Int) n w (by omega) (by omega) (by omega), fun w hK => ?_⟩
    have hc := pcode_parts 0 (n + 1) 0 w hK (by omega) (by omega) (by omega)
    have e : code (12623 + n) = 32768 + (0 + 1) * 1024 + mj (n + 1) * 32 + finC 0 := by
      unfold code mj
      rw [if_neg (by omega), if_pos (by omega), if_neg (by omega), Nat.add_sub_cancel_left, Nat.add_sub_cancel]
      rfl
    rw [e, show (n : Int) = ((n + 1 : Nat) : Int) - 1 by omega]
    exact hc
  · obtain ⟨k, rfl⟩ : ∃ k, q = 12593 + k := ⟨q - 12593, by omega⟩
    have hl := let_alo k (by omega)
    have ha := aloL_has k (by omega)
    have hv := fun (a b d : Int) hh w => pos_con ((12593 + k : Nat) : Int) k a b d w (by omega) (by omega) hh
    have e : code (12593 + k) = if aloL.getD k 0 < 100 then 32768 + (aloL.getD k 0 + 2) * 1024 + 64 + 1 else 32768 + 1024 + 64 + finC (aloL.getD k 0 - 100) := by
      unfold code
      rw [if_neg (by omega), if_neg (by omega), if_pos (by omega), Nat.add_sub_cancel_left]
    rw [e]
    generalize letL.getD k 0 = L at *
    generalize aloL.getD k 0 = A at *
    by_cases hA : A < 100
    · rw [if_pos hA] at hl ⊢
      refine ⟨(A : Int), -1, 0, hv _ _ _ (by rw [if_neg (by omega), hl, show (((65 + A : Nat) : Int) - 65) = (A : Int) by omega]), fun w hK => ?_⟩
      have hcc := pcode_parts (A + 1) 0 0 w hK (by omega) (by omega) (by omega)
      rw [show (A : Int) = ((A + 1 : Nat) : Int) - 1 by omega]
      rw [show 32768 + (A + 2) * 1024 + 64 + 1 = 32768 + (A + 1 + 1) * 1024 + mj 0 * 32 + finC 0 from rfl]
      exact hcc
    · rw [if_neg hA] at hl ⊢
      refine ⟨-1, -1, ((A - 100 : Nat) : Int), hv _ _ _ (by rw [if_pos (by omega), hl, show (((A - 3 : Nat) : Int) - 97) = ((A - 100 : Nat) : Int) by omega]), fun w hK => ?_⟩
      have hcc := pcode_parts 0 0 (A - 100) w hK (by omega) (by omega) (by omega)
      rw [show 32768 + 1024 + 64 + finC (A - 100) = 32768 + (0 + 1) * 1024 + mj 0 * 32 + finC (A - 100) from rfl]
      exact hcc
/-- Two bytes. -/
def two (c : Nat) : ByteArray := ⟨#[UInt8.ofNat (c / 256 % 256), UInt8.ofNat (c % 256)]⟩
theorem big_two (c : Nat) (w : World) (h : c < 65536) : Calls Tryz.prog 92 #[.int .u64 (c : Int), .int .i64 2] w fun e w' => e = .returned (.string (two c)) ∧ Below w.heap.size w w' := by
  have h2 := oct.big_any c 2 2 w (by omega) (by omega) rfl (by omega)
  have e : (⟨(oct.bigL 256 2 c).toArray⟩ : ByteArray) = two c := by
    unfold two
    simp [oct.bigL]
  rw [e] at h2
  exact h2
set_option maxRecDepth 100000 in
set_option maxHeartbeats 2000000 in
theorem bytes_yes (q : Nat) (w : World) (hK : KD w) (h : hasJ q) : Calls Tryz.prog 56 #[.int .i32 q] w fun e w' => e = .returned (.tuple #[.string (two (code q)), .bool true]) ∧ Below w.heap.size w w' := by
  obtain ⟨a, b, d, hp, hc⟩ := parts_code q h
  have hle := (code_le h).2
  have HB := Lib.hid (fun w2 => big_two (code q) w2 hle)
  have g0 : (0 : Int) ≤ ((code q : Nat) : Int) := by omega
  have g1 : ((code q : Nat) : Int) < 65536 := by omega
  generalize two (code q) = T at *
  generalize ((code q : Nat) : Int) = C at *
  generalize (q : Int) = Q at *
  have HP := Lib.hid hp; have HC := Lib.hid hc; have HK := Lib.hid hK
  clear hp hc h hle hK
  unfold tupP aggP at HP
  unfold aggP at HC
  go_enter Tryz.func56, Tryz.ntmps56
  go_wp2_with (first | (go_at_call 104; refine (HP.out _).mono ?_; rintro e2 w2 ⟨rfl, hb2⟩; have HB2 := Lib.hid (hb2.alloc hb2.size (.cells #[.int .i64 a, .int .i64 b, .int .i64 d] 130)); have K2 := Lib.hid (HK.out.stay HB2.out); clear hb2) | (go_at_call 105; refine (HC.out _ K2.out).mono ?_; rintro e3 w3 ⟨rfl, hb3⟩; have HB3 := Lib.hid (HB2.out.trans (hb3.mono HB2.out.size)); clear hb3) | (go_at_call 92; refine (HB.out _).mono ?_; rintro e4 w4 ⟨rfl, hb4⟩; have HB4 := Lib.hid (HB3.out.trans (hb4.mono HB3.out.size)); clear hb4))
  go_ret2
  exact ⟨rfl, HB4.out⟩
end Go.Proofs.YtbgbgigpcegenaaGreatDoor.jo
namespace Go.Proofs.YtbgbgigpcegenaaGreatDoor.jo
open Go.RowKit Go.Lib
set_option linter.unusedVariables false
set_option maxRecDepth 100000 in
set_option maxHeartbeats 1000000 in
theorem Awake_any (w : World) (hK : KD w) : Calls Tryz.prog 29 #[] w fun e w' => e = .returned (.bool true) ∧ Below w.heap.size w w' := by
  have HS : Hid (∀ w2, KD w2 → Calls Tryz.prog 55 #[.int .u8 136, .int .u8 97] w2 fun e w' => e = .returned (.tuple #[.int .i32 44032, .bool true]) ∧ Below w2.heap.size w2 w') := Lib.hid (fun w2 h => by
    have := sign_any 136 97 w2 (by omega) (by omega) h
    rw [show sV (sg (136 * 256 + 97)) = .tuple #[.int .i32 44032, .bool true] by
      have : sg (136 * 256 + 97) = 44032 := by decide +kernel
      rw [this]; rfl] at this
    exact this)
  have HB : Hid (∀ w2, KD w2 → Calls Tryz.prog 56 #[.int .i32 12595] w2 fun e w' => e = .returned (.tuple #[.string ⟨#[132, 68]⟩, .bool true]) ∧ Below w2.heap.size w2 w') := Lib.hid (fun w2 h => by
    have := bytes_yes 12595 w2 h (by unfold hasJ; omega)
    rw [show two (code 12595) = ⟨#[132, 68]⟩ by decide +kernel] at this
    exact this)
  have HK := Lib.hid hK
  clear hK
  go_enter Tryz.func29, Tryz.ntmps29
  go_wp2_with (first | (go_at_call 55; refine (HS.out _ HK.out).mono ?_; rintro e2 w2 ⟨rfl, hb2⟩; have HB2 := Lib.hid hb2; have K2 := Lib.hid (HK.out.stay hb2); clear hb2) | (go_at_call 56; refine (HB.out _ K2.out).mono ?_; rintro e3 w3 ⟨rfl, hb3⟩; have HB3 := Lib.hid (HB2.out.trans (hb3.mono HB2.out.size)); clear hb3))
  go_ret
  exact ⟨rfl, HB3.out⟩
theorem sgP_has (I m f : Nat) (hI : I < 32) (hm : m = 98 ∨ m = 99 ∨ m ≤ 20) (hf : f = 98 ∨ f ≤ 27) (h : sgP I m f ≠ 0) : hasJ (sgP I m f) := by
  unfold sgP at *
  by_cases h0 : I = 0 ∨ 20 < I ∨ m = 98 ∨ f = 98
  · rw [if_pos h0] at h; exact absurd rfl h
  rw [if_neg h0] at h ⊢
  unfold hasJ
  by_cases h1 : 2 ≤ I ∧ m < 98
  · rw [if_pos h1]; omega
  rw [if_neg h1] at h ⊢
  by_cases h2 : I = 1 ∧ m < 98 ∧ f = 0
  · rw [if_pos h2]; omega
  rw [if_neg h2] at h ⊢
  by_cases h3 : 2 ≤ I ∧ m = 99 ∧ f = 0
  · rw [if_pos h3]
    have := alo_i (I - 2) (by omega)
    omega
  rw [if_neg h3] at h ⊢
  by_cases h4 : I = 1 ∧ m = 99 ∧ 0 < f
  · rw [if_pos h4] at h ⊢
    have := alo_f f (by omega)
    omega
  · rw [if_neg h4] at h; exact absurd rfl h
theorem sg_has {c : Nat} (hc : c < 65536) (h : sg c ≠ 0) : hasJ (sg c) ∧ code (sg c) = c := by
  unfold sg at *
  by_cases h0 : c < 32768
  · rw [if_pos h0] at h; exact absurd rfl h
  · rw [if_neg h0] at h ⊢
    refine ⟨?_, code_sgn (by omega) hc h⟩
    rw [sgn_is] at h ⊢
    exact sgP_has _ _ _ (by omega) (med_cases _ (by omega)) (fin_cases _ (by omega)) h
end Go.Proofs.YtbgbgigpcegenaaGreatDoor.jo
namespace Go.Proofs.YtbgbgigpcegenaaGreatDoor.ch
open Go.RowKit Go.Lib
set_option linter.unusedVariables false
theorem rows_valid : (wa.rowsL.all fun p => p == 0 || validRune (p : Int)) = true := by decide +kernel
theorem vr_of {p : Nat} (h : (p < 55296) ∨ (57343 < p ∧ p ≤ 1114111)) : validRune (p : Int) = true := by
  unfold validRune
  simp
  omega
theorem sgW_valid {l b : Nat} (hl : l < 256) (hb : b < 256) (h : wa.sgW l b ≠ 0) : validRune ((wa.sgW l b : Nat) : Int) = true := by
  have hby := wa.by_sg hl hb h
  unfold wa.byW at hby
  by_cases q : 44032 ≤ wa.sgW l b ∧ wa.sgW l b ≤ 55203
  · exact vr_of (.inl (by omega))
  · rw [if_neg q, if_neg h] at hby
    cases hr : wa.rc (wa.sgW l b) with
    | none => rw [hr] at hby; cases hby
    | some j =>
      obtain ⟨_, j1, j2⟩ := wa.rcF_some _ _ _ _ hr
      have h1 := List.all_eq_true.1 rows_valid (wa.rowJ j) (List.mem_of_getElem? (wa.rowsL_at (by omega)))
      rw [j2] at h1
      simpa [h] using h1
theorem sgJ_valid {c : Nat} (hc : c < 65536) (h : jo.sg c ≠ 0) : validRune ((jo.sg c : Nat) : Int) = true := by
  have := (jo.sg_has hc h).1
  unfold jo.hasJ at this
  exact vr_of (.inl (by omega))
theorem txt_one (p : Int) : pt.txt [p] = strOfNums (encodeRuneZ p) := by unfold pt.txt pt.nums; simp
/-- The text of two bytes. -/
def s2T (c : Int) (l b : Nat) : ByteArray := pt.txt ((sg2 c l b).map Int.ofNat)
def S2P (c : Int) (l b : Nat) (w : World) : Ending → World → Prop := fun e w' => e = .returned (.string (s2T c l b)) ∧ Below w.heap.size w w'
theorem s2P {c : Int} {l b : Nat} {w w' : World} {v : ByteArray} (h : s2T c l b = v) (hb : Below w.heap.size w w') : S2P c l b w (.returned (.string v)) w' := ⟨by rw [h], hb⟩
set_option maxRecDepth 100000 in
set_option maxHeartbeats 2000000 in
theorem signs_any (c : Int) (l b : Nat) (w : World) (hc : c = 4 ∨ c = 5 ∨ c = 6) (hl : l < 256) (hb : b < 256) : Calls Tryz.prog 16 #[.int .i64 c, .int .i64 l, .int .i64 b] w (S2P c l b w) := by
  obtain ⟨PP, hPP⟩ : ∃ PP, PP = S2P c l b w := ⟨_, rfl⟩
  rw [← hPP]
  have HPP := Lib.hid hPP
  clear hPP
  have g0 : (0 : Int) ≤ (l : Int) := by omega
  have g1 : (l : Int) < 256 := by omega
  have g2 : (0 : Int) ≤ (b : Int) := by omega
  have g3 : (b : Int) < 256 := by omega
  rcases hc with rfl | rfl | rfl
  · have HS : Hid (∀ W, Calls Tryz.prog 37 #[.int .i64 l, .int .i64 b] W fun e w' => e = .returned (.int .i32 ((wa.sgW l b : Nat) : Int)) ∧ Below W.heap.size W w') := Lib.hid (fun W => wa.sgn_any l b W hl hb)
    by_cases hz : wa.sgW l b = 0
    · have HV : Hid (s2T 4 l b = ⟨#[]⟩) := Lib.hid (by unfold s2T sg2; rw [if_pos rfl, if_pos hz]; rfl)
      rw [hz] at HS
      clear hz
      go_enter Tryz.func16, Tryz.ntmps16
      go_wp2_with (go_at_call 37; refine (HS.out _).mono ?_; rintro e1 w1 ⟨rfl, hb1⟩; have B1 := Lib.hid hb1; clear hb1)
      rw [HPP.out]
      exact s2P HV.out B1.out
    · have HV : Hid (s2T 4 l b = strOfNums (encodeRuneZ ((wa.sgW l b : Nat) : Int))) := Lib.hid (by unfold s2T sg2; rw [if_pos rfl, if_neg hz]; exact txt_one _)
      have HB := Lib.hid (fun W => pt.bytes_any ((wa.sgW l b : Nat) : Int) W (sgW_valid hl hb hz))
      have hz2 : ¬ ((wa.sgW l b : Nat) : Int) = 0 := by omega
      generalize ((wa.sgW l b : Nat) : Int) = S at *
      clear hz
      go_enter Tryz.func16, Tryz.ntmps16
      go_wp2_with (first | (go_at_call 37; refine (HS.out _).mono ?_; rintro e1 w1 ⟨rfl, hb1⟩; have B1 := Lib.hid hb1; clear hb1) | (go_at_call 32; refine (HB.out _).mono ?_; rintro e2 w2 ⟨rfl, hb2⟩; have B2 := Lib.hid (B1.out.trans (hb2.mono B1.out.size)); clear hb2))
      rw [HPP.out]
      exact s2P HV.out B2.out
  · have hlb : l * 256 + b < 65536 := by omega
    have HS : Hid (∀ W, Calls Tryz.prog 38 #[.int .i64 ((l : Int) * 256 + (b : Int))] W fun e w' => e = .returned (.int .i32 ((jo.sg (l * 256 + b) : Nat) : Int)) ∧ Below W.heap.size W w') := Lib.hid (fun W => by
      have := jo.refsign_any (l * 256 + b) W hlb
      rwa [show ((l * 256 + b : Nat) : Int) = (l : Int) * 256 + (b : Int) by omega] at this)
    by_cases hz : jo.sg (l * 256 + b) = 0
    · have HV : Hid (s2T 5 l b = ⟨#[]⟩) := Lib.hid (by unfold s2T sg2; rw [if_neg (by decide), if_pos rfl, if_pos hz]; rfl)
      rw [hz] at HS
      clear hz
      go_enter Tryz.func16, Tryz.ntmps16
      go_wp2_with (go_at_call 38; refine (HS.out _).mono ?_; rintro e1 w1 ⟨rfl, hb1⟩; have B1 := Lib.hid hb1; clear hb1)
      rw [HPP.out]
      exact s2P HV.out B1.out
    · have HV : Hid (s2T 5 l b = strOfNums (encodeRuneZ ((jo.sg (l * 256 + b) : Nat) : Int))) := Lib.hid (by unfold s2T sg2; rw [if_neg (by decide), if_pos rfl, if_neg hz]; exact txt_one _)
      have HB := Lib.hid (fun W => pt.bytes_any ((jo.sg (l * 256 + b) : Nat) : Int) W (sgJ_valid hlb hz))
      have hz2 : ¬ ((jo.sg (l * 256 + b) : Nat) : Int) = 0 := by omega
      generalize ((jo.sg (l * 256 + b) : Nat) : Int) = S at *
      clear hz
      go_enter Tryz.func16, Tryz.ntmps16
      go_wp2_with (first | (go_at_call 38; refine (HS.out _).mono ?_; rintro e1 w1 ⟨rfl, hb1⟩; have B1 := Lib.hid hb1; clear hb1) | (go_at_call 32; refine (HB.out _).mono ?_; rintro e2 w2 ⟨rfl, hb2⟩; have B2 := Lib.hid (B1.out.trans (hb2.mono B1.out.size)); clear hb2))
      rw [HPP.out]
      exact s2P HV.out B2.out
  · have HS : Hid (∀ W, Calls Tryz.prog 36 #[.int .i64 l, .int .i64 b] W fun e w' => e = .returned (.string (bg.sgT l b)) ∧ Below W.heap.size W w') := Lib.hid (fun W => bg.signs_any l b W hl hb)
    have HV : Hid (s2T 6 l b = bg.sgT l b) := Lib.hid (by unfold s2T sg2; rw [if_neg (by decide), if_neg (by decide)]; rfl)
    generalize bg.sgT l b = T at *
    go_enter Tryz.func16, Tryz.ntmps16
    go_wp2_with (go_at_call 36; refine (HS.out _).mono ?_; rintro e1 w1 ⟨rfl, hb1⟩; have B1 := Lib.hid hb1; clear hb1)
    rw [HPP.out]
    exact s2P HV.out B1.out
end Go.Proofs.YtbgbgigpcegenaaGreatDoor.ch
namespace Go.Proofs.YtbgbgigpcegenaaGreatDoor.ch
open Go.RowKit Go.Lib
set_option linter.unusedVariables false
/-- What the charsets of two bytes a sign ask of the world: the tables of layers 2, 6 and 8. -/
structure K9 (w : World) : Prop where
  t : pt.Tabs w
  j : jo.KD w
  d : bp.DD w
theorem textOf_no (p : Int) (w : World) : Calls Tryz.prog 124 #[.int .i32 p, .bool false] w fun e w' => e = .returned (.tuple #[.string ⟨#[]⟩, .bool false]) ∧ Below w.heap.size w w' := by
  go_enter Tryz.func124, Tryz.ntmps124
  go_wp2_with fail
  go_ret2
  exact ⟨rfl, Below.refl _ _⟩
theorem textOf_yes {p : Int} (h : validRune p = true) (w : World) : Calls Tryz.prog 124 #[.int .i32 p, .bool true] w fun e w' => e = .returned (.tuple #[.string (pt.txt [p]), .bool true]) ∧ Below w.heap.size w w' := by
  have HX := Lib.hid (fun W => bp.txt_one h W)
  generalize pt.txt [p] = T at *
  clear h
  go_enter Tryz.func124, Tryz.ntmps124
  go_wp2_with (go_at_call 47; refine (HX.out _).mono ?_; rintro e2 w2 ⟨rfl, hb2⟩; have B2 := Lib.hid hb2; clear hb2)
  go_ret2
  exact ⟨rfl, B2.out⟩
/-- What two bytes come to. -/
def s2V (c : Int) (l b : Nat) : Value := .tuple #[.string (s2T c l b), .bool (!(sg2 c l b).isEmpty)]
theorem s2V_none {c : Int} {l b : Nat} (h : sg2 c l b = []) : s2V c l b = .tuple #[.string ⟨#[]⟩, .bool false] := by unfold s2V s2T; rw [h]; rfl
theorem s2V_one {c : Int} {l b S : Nat} (h : sg2 c l b = [S]) : s2V c l b = .tuple #[.string (pt.txt [(S : Int)]), .bool true] := by unfold s2V s2T; rw [h]; rfl
set_option maxRecDepth 100000 in
set_option maxHeartbeats 2000000 in
theorem two_any (c : Int) (l b : Nat) (w : World) (hK : K9 w) (hc : c = 4 ∨ c = 5 ∨ c = 6) (hl : l < 256) (hb : b < 256) : Calls Tryz.prog 78 #[.int .i64 c, .int .u8 l, .int .u8 b] w fun e w' => e = .returned (s2V c l b) ∧ Below w.heap.size w w' := by
  obtain ⟨PP, hPP⟩ : ∃ PP, PP = s2V c l b := ⟨_, rfl⟩
  rw [← hPP]
  have HPP := Lib.hid hPP
  clear hPP
  rcases hc with rfl | rfl | rfl
  · have HS := Lib.hid (wr.signL_any l b w hK.t hl hb)
    by_cases hz : wa.sgW l b = 0
    · have e : wa.sgV (wa.sgW l b) = .tuple #[.int .i32 0, .bool false] := by rw [hz]; rfl
      have HV : Hid (PP = .tuple #[.string ⟨#[]⟩, .bool false]) := Lib.hid (by rw [HPP.out]; exact s2V_none (by unfold sg2; rw [if_pos rfl, if_pos hz]))
      have HS2 : Hid (Calls Tryz.prog 57 #[.int .u8 l, .int .u8 b] w fun e w' => e = .returned (.tuple #[.int .i32 0, .bool false]) ∧ Below w.heap.size w w') := Lib.hid (by rw [← e]; exact HS.out)
      have HT := Lib.hid (fun W => textOf_no 0 W)
      clear HS e hz hK
      generalize (l : Int) = L at *
      generalize (b : Int) = B at *
      clear hl hb
      go_enter Tryz.func78, Tryz.ntmps78
      go_wp2_with (first | (go_at_call 57; refine (HS2.out).mono ?_; rintro e1 w1 ⟨rfl, hb1⟩; have B1 := Lib.hid hb1; clear hb1) | (go_at_call 124; refine (HT.out _).mono ?_; rintro e2 w2 ⟨rfl, hb2⟩; have B2 := Lib.hid (B1.out.trans (hb2.mono B1.out.size)); clear hb2))
      go_ret2
      exact ⟨congrArg Ending.returned HV.out.symm, B2.out⟩
    · have e : wa.sgV (wa.sgW l b) = .tuple #[.int .i32 ((wa.sgW l b : Nat) : Int), .bool true] := by unfold wa.sgV; rw [decide_eq_true hz]
      have HV : Hid (PP = .tuple #[.string (pt.txt [((wa.sgW l b : Nat) : Int)]), .bool true]) := Lib.hid (by rw [HPP.out]; exact s2V_one (by unfold sg2; rw [if_pos rfl, if_neg hz]))
      have HS2 : Hid (Calls Tryz.prog 57 #[.int .u8 l, .int .u8 b] w fun e w' => e = .returned (.tuple #[.int .i32 ((wa.sgW l b : Nat) : Int), .bool true]) ∧ Below w.heap.size w w') := Lib.hid (by rw [← e]; exact HS.out)
      have HT := Lib.hid (fun W => textOf_yes (sgW_valid hl hb hz) W)
      clear HS e hz hK
      generalize pt.txt [((wa.sgW l b : Nat) : Int)] = T at *
      generalize ((wa.sgW l b : Nat) : Int) = S at *
      generalize (l : Int) = L at *
      generalize (b : Int) = B at *
      clear hl hb
      go_enter Tryz.func78, Tryz.ntmps78
      go_wp2_with (first | (go_at_call 57; refine (HS2.out).mono ?_; rintro e1 w1 ⟨rfl, hb1⟩; have B1 := Lib.hid hb1; clear hb1) | (go_at_call 124; refine (HT.out _).mono ?_; rintro e2 w2 ⟨rfl, hb2⟩; have B2 := Lib.hid (B1.out.trans (hb2.mono B1.out.size)); clear hb2))
      go_ret2
      exact ⟨congrArg Ending.returned HV.out.symm, B2.out⟩
  · have HS := Lib.hid (jo.sign_any l b w hl hb hK.j)
    by_cases hz : jo.sg (l * 256 + b) = 0
    · have e : jo.sV (jo.sg (l * 256 + b)) = .tuple #[.int .i32 0, .bool false] := by rw [hz]; rfl
      have HV : Hid (PP = .tuple #[.string ⟨#[]⟩, .bool false]) := Lib.hid (by rw [HPP.out]; exact s2V_none (by unfold sg2; rw [if_neg (by omega), if_pos rfl, if_pos hz]))
      have HS2 : Hid (Calls Tryz.prog 55 #[.int .u8 l, .int .u8 b] w fun e w' => e = .returned (.tuple #[.int .i32 0, .bool false]) ∧ Below w.heap.size w w') := Lib.hid (by rw [← e]; exact HS.out)
      have HT := Lib.hid (fun W => textOf_no 0 W)
      clear HS e hz hK
      generalize (l : Int) = L at *
      generalize (b : Int) = B at *
      clear hl hb
      go_enter Tryz.func78, Tryz.ntmps78
      go_wp2_with (first | (go_at_call 55; refine (HS2.out).mono ?_; rintro e1 w1 ⟨rfl, hb1⟩; have B1 := Lib.hid hb1; clear hb1) | (go_at_call 124; refine (HT.out _).mono ?_; rintro e2 w2 ⟨rfl, hb2⟩; have B2 := Lib.hid (B1.out.trans (hb2.mono B1.out.size)); clear hb2))
      go_ret2
      exact ⟨congrArg Ending.returned HV.out.symm, B2.out⟩
    · have e : jo.sV (jo.sg (l * 256 + b)) = .tuple #[.int .i32 ((jo.sg (l * 256 + b) : Nat) : Int), .bool true] := by unfold jo.sV; rw [decide_eq_true hz]
      have HV : Hid (PP = .tuple #[.string (pt.txt [((jo.sg (l * 256 + b) : Nat) : Int)]), .bool true]) := Lib.hid (by rw [HPP.out]; exact s2V_one (by unfold sg2; rw [if_neg (by omega), if_pos rfl, if_neg hz]))
      have HS2 : Hid (Calls Tryz.prog 55 #[.int .u8 l, .int .u8 b] w fun e w' => e = .returned (.tuple #[.int .i32 ((jo.sg (l * 256 + b) : Nat) : Int), .bool true]) ∧ Below w.heap.size w w') := Lib.hid (by rw [← e]; exact HS.out)
      have HT := Lib.hid (fun W => textOf_yes (sgJ_valid (show l * 256 + b < 65536 by omega) hz) W)
      clear HS e hz hK
      generalize pt.txt [((jo.sg (l * 256 + b) : Nat) : Int)] = T at *
      generalize ((jo.sg (l * 256 + b) : Nat) : Int) = S at *
      generalize (l : Int) = L at *
      generalize (b : Int) = B at *
      clear hl hb
      go_enter Tryz.func78, Tryz.ntmps78
      go_wp2_with (first | (go_at_call 55; refine (HS2.out).mono ?_; rintro e1 w1 ⟨rfl, hb1⟩; have B1 := Lib.hid hb1; clear hb1) | (go_at_call 124; refine (HT.out _).mono ?_; rintro e2 w2 ⟨rfl, hb2⟩; have B2 := Lib.hid (B1.out.trans (hb2.mono B1.out.size)); clear hb2))
      go_ret2
      exact ⟨congrArg Ending.returned HV.out.symm, B2.out⟩
  · have HS := bp.signsL_any l b w hK.d hl hb
    have e : bg.sgV l b = .tuple #[.string (s2T 6 l b), .bool (!(sg2 6 l b).isEmpty)] := by
      unfold bg.sgV bg.sgT s2T sg2
      rw [if_neg (by omega), if_neg (by omega)]
    rw [e] at HS
    have HV : Hid (PP = .tuple #[.string (s2T 6 l b), .bool (!(sg2 6 l b).isEmpty)]) := Lib.hid HPP.out
    generalize s2T 6 l b = T at *
    generalize (!(sg2 6 l b).isEmpty) = O at *
    generalize (l : Int) = L at *
    generalize (b : Int) = B at *
    have HS2 := Lib.hid HS
    clear HS e hK hl hb
    go_enter Tryz.func78, Tryz.ntmps78
    go_wp2_with (first | (go_at_call 59; refine (HS2.out).mono ?_; rintro e1 w1 ⟨rfl, hb1⟩; have B1 := Lib.hid hb1; clear hb1))
    go_ret2
    exact ⟨congrArg Ending.returned HV.out.symm, B1.out⟩
/-- One byte, read. -/
theorem big1_ok (t : ByteArray) (k b : Nat) (bs at' : Int) (w : World) (h : oct.Rd w b t k bs 0 at') (hk : k + 1 ≤ t.size) (ht : t.size ≤ maxLen) :
    Calls Tryz.prog 76 #[.pointer (some ⟨b, 0, none⟩), .int .i64 1] w fun e w' => e = .returned (.int .u64 ((bt t k : Nat) : Int)) ∧ oct.Rd w' b t ((k + 1 : Nat) : Int) bs 0 at' ∧ oct.Upd b w w' := by
  have htk := oct.take_ok w b t k 1 (t.size - k) bs at' h (by omega) (by omega) ht
  have hsz : (t.extract k (k + 1)).size ≤ 8 := by rw [ByteArray.size_extract]; omega
  have e2 : (t.extract k (k + 1)).data.toList = [t.data.toList.getD k 0] := by
    have hl : t.data.toList.length = t.size := by rw [Array.length_toList]; rfl
    have e : (t.extract k (k + 1)).data.toList = (t.data.toList.drop k).take 1 := by simp [ByteArray.extract, ByteArray.copySlice]
    rw [e, List.drop_eq_getElem_cons (by omega)]
    simp [List.getD, List.getElem?_eq_getElem (show k < t.data.toList.length by omega)]
  have hc := oct.rbig_of (.pointer (some ⟨b, 0, none⟩)) 1 1 (t.extract k (k + 1)) _ w (by omega) (by omega) rfl hsz htk
  have e : (oct.num (t.extract k (k + 1)).data.toList : Int) = ((bt t k : Nat) : Int) := by rw [e2]; simp [oct.num, bt]
  rw [e] at hc
  exact hc
/-- One byte that isn't there. -/
theorem big1_short (t : ByteArray) (b : Nat) (bs at' : Int) (w : World) (h : oct.Rd w b t t.size bs 0 at') (ht : t.size ≤ maxLen) (z0 : 0 ≤ bs) (z1 : bs ≤ 9223372036854775807) :
    Calls Tryz.prog 76 #[.pointer (some ⟨b, 0, none⟩), .int .i64 1] w fun e w' => e = .returned (.int .u64 0) ∧ oct.Rd w' b t t.size bs 1 (oct.plc bs t.size) ∧ oct.Upd b w w' := by
  have htk := oct.take_short w b t t.size 0 1 bs at' h (by omega) (by omega) ht z0 z1
  exact oct.rbig_of (.pointer (some ⟨b, 0, none⟩)) 1 1 ⟨#[]⟩ _ w (by omega) (by omega) rfl (by decide) htk
end Go.Proofs.YtbgbgigpcegenaaGreatDoor.ch
namespace Go.Proofs.YtbgbgigpcegenaaGreatDoor.ch
open Go.RowKit Go.Lib
set_option linter.unusedVariables false
theorem K9.below {w w' : World} (h : K9 w) (hb : Below w.heap.size w w') : K9 w' := ⟨h.t.below hb, h.j.stay hb, h.d.stay hb⟩
set_option maxRecDepth 100000 in
set_option maxHeartbeats 2000000 in
theorem next_low (c : Int) (t : ByteArray) (k b : Nat) (bs at' : Int) (w : World) (h : oct.Rd w b t k bs 0 at') (hk : k < t.size) (ht : t.size ≤ 8000) (hl : bt t k < 128) :
    Calls Tryz.prog 42 #[.pointer (some ⟨b, 0, none⟩), .int .i64 c] w fun e w' => e = .returned (.tuple #[.string (pt.txt [((bt t k : Nat) : Int)]), .bool true]) ∧ oct.Rd w' b t ((k + 1 : Nat) : Int) bs 0 at' ∧ oct.Upd b w w' := by
  have HC := Lib.hid (big1_ok t k b bs at' w h (by omega) (by unfold maxLen; omega))
  have hv : validRune ((bt t k : Nat) : Int) = true := vr_of (.inl (by omega))
  have HX := Lib.hid (fun W => bp.txt_one hv W)
  have u0 : 0 ≤ ((bt t k : Nat) : Int) := by omega
  have u1 : ((bt t k : Nat) : Int) < 128 := by omega
  have hlt := h.lt
  clear h hv hl
  generalize pt.txt [((bt t k : Nat) : Int)] = T at *
  generalize ((bt t k : Nat) : Int) = U at *
  go_enter Tryz.func42, Tryz.ntmps42
  go_wp2_with (first
    | (go_at_call 76; refine HC.out.mono ?_; rintro e1 w1 ⟨rfl, hR, hU⟩; have R1 := Lib.hid hR; have U1 := Lib.hid hU; clear hR hU)
    | (go_at_call 47; refine (HX.out _).mono ?_; rintro e2 w2 ⟨rfl, hb2⟩; have R2 := Lib.hid (R1.out.below hb2 R1.out.lt); have U2 := Lib.hid (U1.out.trans (oct.Upd.of hb2 (Nat.le_refl _))); clear hb2))
  go_ret2
  exact ⟨rfl, R2.out, U2.out⟩
set_option maxRecDepth 100000 in
set_option maxHeartbeats 2000000 in
theorem next_two (c : Int) (t : ByteArray) (k b : Nat) (bs at' : Int) (w0 w : World) (hK : K9 w0) (hB : Below w0.heap.size w0 w) (hb0 : w0.heap.size ≤ b) (hc : c = 4 ∨ c = 5 ∨ c = 6) (h : oct.Rd w b t k bs 0 at') (hk : k + 1 < t.size) (ht : t.size ≤ 8000) (hl : ¬ bt t k < 128) :
    Calls Tryz.prog 42 #[.pointer (some ⟨b, 0, none⟩), .int .i64 c] w fun e w' => e = .returned (s2V c (bt t k) (bt t (k + 1))) ∧ oct.Rd w' b t ((k + 2 : Nat) : Int) bs 0 at' ∧ oct.Upd b w w' := by
  have HC := Lib.hid (big1_ok t k b bs at' w h (by omega) (by unfold maxLen; omega))
  have HC2 := Lib.hid (fun W hR => big1_ok t (k + 1) b bs at' W hR (by omega) (by unfold maxLen; omega))
  have l1 := bt_lt t k
  have l2 := bt_lt t (k + 1)
  have HT : Hid (∀ W, Below w0.heap.size w0 W → Calls Tryz.prog 78 #[.int .i64 c, .int .u8 ((bt t k : Nat) : Int), .int .u8 ((bt t (k + 1) : Nat) : Int)] W fun e w' => e = .returned (.tuple #[.string (s2T c (bt t k) (bt t (k + 1))), .bool (!(sg2 c (bt t k) (bt t (k + 1))).isEmpty)]) ∧ Below W.heap.size W w') := Lib.hid (fun W hW => two_any c _ _ W (hK.below hW) hc l1 l2)
  have B0 := Lib.hid hB
  have hs0 := hB.size
  have u0 : 0 ≤ ((bt t k : Nat) : Int) := by omega
  have u1 : ((bt t k : Nat) : Int) < 256 := by omega
  have u2 : ¬ ((bt t k : Nat) : Int) < 128 := by omega
  have v0 : 0 ≤ ((bt t (k + 1) : Nat) : Int) := by omega
  have v1 : ((bt t (k + 1) : Nat) : Int) < 256 := by omega
  have HV : Hid (s2V c (bt t k) (bt t (k + 1)) = .tuple #[.string (s2T c (bt t k) (bt t (k + 1))), .bool (!(sg2 c (bt t k) (bt t (k + 1))).isEmpty)]) := Lib.hid rfl
  clear h hl hK hB l1 l2
  generalize s2V c (bt t k) (bt t (k + 1)) = PP at *
  generalize s2T c (bt t k) (bt t (k + 1)) = T at *
  generalize (!(sg2 c (bt t k) (bt t (k + 1))).isEmpty) = O at *
  generalize ((bt t k : Nat) : Int) = U at *
  generalize ((bt t (k + 1) : Nat) : Int) = V at *
  go_enter Tryz.func42, Tryz.ntmps42
  go_wp2_with (first
    | (go_at_call 76; (with_reducible refine (HC2.out _ R1.out).mono ?_); rintro e2 w2 ⟨rfl, hR2, hU2⟩; have R2 := Lib.hid hR2; have U2 := Lib.hid (U1.out.trans hU2); clear hR2 hU2)
    | (go_at_call 76; (with_reducible refine HC.out.mono ?_); rintro e1 w1 ⟨rfl, hR1, hU1⟩; have R1 := Lib.hid hR1; have U1 := Lib.hid hU1; clear hR1 hU1)
    | (go_at_call 77; refine (oct.fault_some _ _ _ _ R2.out.lt R2.out.c3 R2.out.c4).mono ?_; rintro e3 w3 ⟨rfl, hb3⟩; have R3 := Lib.hid (R2.out.below hb3 R2.out.lt); have U3 := Lib.hid (U2.out.trans (oct.Upd.of hb3 (Nat.le_refl _))); clear hb3)
    | (go_at_call 11; refine (oct.bad_any _ _ _).mono ?_; rintro e4 w4 ⟨rfl, hb4⟩; have R4 := Lib.hid (R3.out.below hb4 R3.out.lt); have U4 := Lib.hid (U3.out.trans (oct.Upd.of hb4 (Nat.le_refl _))); clear hb4)
    | (go_at_call 78; refine (HT.out _ (oct.Upd.below B0.out U4.out hb0 hs0)).mono ?_; rintro e5 w5 ⟨rfl, hb5⟩; have R5 := Lib.hid (R4.out.below hb5 R4.out.lt); have U5 := Lib.hid (U4.out.trans (oct.Upd.of hb5 (Nat.le_refl _))); clear hb5))
  go_ret2
  exact ⟨congrArg Ending.returned HV.out.symm, R5.out, U5.out⟩
set_option maxRecDepth 100000 in
set_option maxHeartbeats 2000000 in
theorem next_one (c : Int) (t : ByteArray) (k b : Nat) (bs at' : Int) (w : World) (h : oct.Rd w b t k bs 0 at') (hk : k + 1 = t.size) (ht : t.size ≤ 8000) (z0 : 0 ≤ bs) (z1 : bs ≤ 1000000) (hl : ¬ bt t k < 128) :
    Calls Tryz.prog 42 #[.pointer (some ⟨b, 0, none⟩), .int .i64 c] w fun e w' => e = .returned (.tuple #[.string ⟨#[]⟩, .bool false]) ∧ oct.Upd b w w' := by
  have HC := Lib.hid (big1_ok t k b bs at' w h (by omega) (by unfold maxLen; omega))
  rw [hk] at HC
  have HC2 := Lib.hid (fun W hR => big1_short t b bs at' W hR (by unfold maxLen; omega) z0 (by omega))
  have l1 := bt_lt t k
  have u0 : 0 ≤ ((bt t k : Nat) : Int) := by omega
  have u1 : ((bt t k : Nat) : Int) < 256 := by omega
  have u2 : ¬ ((bt t k : Nat) : Int) < 128 := by omega
  clear h hl l1 hk
  generalize ((bt t k : Nat) : Int) = U at *
  go_enter Tryz.func42, Tryz.ntmps42
  go_wp2_with (first
    | (go_at_call 76; (with_reducible refine (HC2.out _ R1.out).mono ?_); rintro e2 w2 ⟨rfl, hR2, hU2⟩; have R2 := Lib.hid hR2; have U2 := Lib.hid (U1.out.trans hU2); clear hR2 hU2)
    | (go_at_call 76; (with_reducible refine HC.out.mono ?_); rintro e1 w1 ⟨rfl, hR1, hU1⟩; have R1 := Lib.hid hR1; have U1 := Lib.hid hU1; clear hR1 hU1)
    | (go_at_call 77; refine (oct.fault_some _ _ _ _ R2.out.lt R2.out.c3 R2.out.c4).mono ?_; rintro e3 w3 ⟨rfl, hb3⟩; have U3 := Lib.hid (U2.out.trans (oct.Upd.of hb3 (Nat.le_refl _))); clear hb3)
    | (go_at_call 11; refine (oct.bad_any _ _ _).mono ?_; rintro e4 w4 ⟨rfl, hb4⟩; have U4 := Lib.hid (U3.out.trans (oct.Upd.of hb4 (Nat.le_refl _))); clear hb4))
  go_ret2
  exact ⟨rfl, U4.out⟩
end Go.Proofs.YtbgbgigpcegenaaGreatDoor.ch
namespace Go.Proofs.YtbgbgigpcegenaaGreatDoor.sg
open Go.RowKit Go.Lib
set_option linter.unusedVariables false
theorem data_app (t s : ByteArray) : (t ++ s).data.toList = t.data.toList ++ s.data.toList := by simp
theorem sdec_len (c : Int) (l : List UInt8) : (sdec c l).length = l.length := by simp [sdec]
theorem sdec_app (c : Int) (a b : List UInt8) : sdec c (a ++ b) = sdec c a ++ sdec c b := by simp [sdec]
theorem txt_app (a b : List Int) : pt.txt (a ++ b) = pt.txt a ++ pt.txt b := by
  apply ByteArray.ext
  apply Array.ext'
  show (pt.txt (a ++ b)).data.toList = (pt.txt a ++ pt.txt b).data.toList
  rw [data_app, pt.txt_data, pt.txt_data, pt.txt_data]
  simp [pt.nums]
theorem txt_most (l : List Int) : (pt.txt l).size ≤ 4 * l.length := by
  show (strOfNums (pt.nums l)).size ≤ _
  rw [strOfNums_size]; exact pt.nums_len l
/-- Where the signs of a row begin whose text has begun before. -/
def far : Option Nat → Int
  | none => -1
  | some a => (a : Int)
theorem senc_cons_bad {c p : Int} {l : List Int} {a : Nat} (h : byte c p < 0) : senc c a (p :: l) = ([], some a) := by
  show (if byte c p < 0 then _ else _) = _
  rw [if_pos h]
theorem senc_cons_good {c p : Int} {l : List Int} {a k : Nat} (h : byte c p = (k : Int)) : senc c a (p :: l) = (UInt8.ofNat k :: (senc c (a + (encodeRuneZ p).length) l).1, (senc c (a + (encodeRuneZ p).length) l).2) := by
  show (if byte c p < 0 then _ else _) = _
  rw [if_neg (by omega), h]
  rfl
end Go.Proofs.YtbgbgigpcegenaaGreatDoor.sg
namespace Go.Proofs.YtbgbgigpcegenaaGreatDoor.wd
open Go.RowKit Go.Lib
set_option linter.unusedVariables false
theorem fb_zero (d : Option Nat) : fb 0 d = pt.fa d := by cases d <;> simp [fb, pt.fa]
set_option maxRecDepth 100000 in
theorem Decode_any (s : ByteArray) (big : Bool) (w : World) (hs : s.size ≤ 8000) :
    Calls Tryz.prog 19 #[.string s, .bool big] w fun e w' => e = .returned (.tuple #[.string (wt (wscan s big)), .agg #[.int .i64 (pt.fe (wscan s big).2), .int .i64 (pt.fa (wscan s big).2)]]) ∧ Below w.heap.size w w' := by
  have hrd := oct.read_any s (w.alloc (.cells #[.int .i64 0, .int .i64 0] 32))
  rw [World.size_alloc] at hrd
  have hdc := fun w2 h2 => decode_any s big (w.heap.size + 1) 0 w2 h2 hs (by omega) (by omega)
  rw [fb_zero] at hdc
  generalize wt (wscan s big) = T at *
  generalize pt.fe (wscan s big).2 = E at *
  generalize pt.fa (wscan s big).2 = P at *
  have HRD := Lib.hid hrd; have HDC := Lib.hid hdc
  clear hrd hdc
  go_enter Tryz.func19, Tryz.ntmps19
  go_wp2_with (first | (go_at_call 39; refine HRD.out.mono ?_; rintro e1 w1 ⟨rfl, hR, hb1⟩; have F1 := Lib.hid ((pt.f2_new w 0 0 32).below hb1 (by omega)); have R1 := Lib.hid hR; have B1 := Lib.hid (((Below.refl w.heap.size w).alloc (Nat.le_refl _) _).trans (hb1.mono (by omega))); have q1 := hR.lt; clear hR hb1) | (go_at_call 44; refine (HDC.out _ R1.out).mono ?_; rintro e2 w2 ⟨rfl, hu2⟩; obtain ⟨_, c0, c1, f0, f1⟩ := f2_upd F1.out hu2 (by omega); have B2 := Lib.hid (oct.Upd.below B1.out hu2 (by omega) (by omega))))
  have HB := B2.out
  exact bodyPost_ret (v := .tuple #[.string T, .agg #[.int .i64 E, .int .i64 P]]) (by simp [results, Tryz.results19, go_sem, c0, c1]) rfl ⟨rfl, by repeat (first | (with_reducible exact HB) | (with_reducible exact Below.refl _ _) | (with_reducible refine Below.setCell ?_ (by simp) _) | (with_reducible refine Below.alloc ?_ (by simp; omega) _))⟩
end Go.Proofs.YtbgbgigpcegenaaGreatDoor.wd
namespace Go.Proofs.YtbgbgigpcegenaaGreatDoor.wd
open Go.RowKit Go.Lib
set_option linter.unusedVariables false
theorem u8_info : (Tryz.prog.info? 5).map (fun i => (i.zero, i.size, i.bytes)) = some (some (.int .u8 0), 1, 1) := by kernel_rfl
/-- Units as cells. -/
def c16 (l : List Nat) : List Value := l.map fun (u : Nat) => Value.int .u16 (u : Int)
end Go.Proofs.YtbgbgigpcegenaaGreatDoor.wd
namespace Go.Proofs.YtbgbgigpcegenaaGreatDoor.wd
open Go.RowKit Go.Lib
set_option linter.unusedVariables false
theorem mk_bytes (n : Nat) (z : Int) (hz : z = n) (h : n ≤ 64000) (w : World) : (Instr.makeSlice 66 (.int .i64 0) (.int .i64 z)).run Tryz.prog w = .ok (.slice (some ⟨w.heap.size, 0, none⟩) 0 n) (w.alloc (.cells (madeCells #[.int .u8 0] n) 5)) := by
  subst hz
  obtain ⟨i, hi, hzz⟩ := Option.map_eq_some_iff.1 u8_info
  simp only [Prod.mk.injEq] at hzz
  obtain ⟨hz, hs, hb⟩ := hzz
  have hr := run_make (P := Tryz.prog) w 66 5 i (.int .u8 0) Tryz.underlying66 hi hz .i64 .i64 0 (n : Int) (Int.le_refl _) (by omega) (by rw [hb]; omega) (by omega)
  simp only [Int.toNat_natCast, hs, Nat.mul_one] at hr
  exact hr
theorem below_grown0 {B : Nat} {w wr w' : World} {e : TypeId} {v : Value} {n : Nat} {xs : List Value} (hb : Below B w wr) (hB : B ≤ wr.heap.size) (ho : wr.ownsRow B e 1 v n xs) (hg : wr.grownBy w' v.ownBlock) : Below B w w' := by
  refine ⟨hg.os.trans hb.os, hg.tape.trans hb.tape, hg.output.trans hb.output, Nat.le_trans hb.size hg.size, fun i hi => ?_⟩
  rw [hg.block i (by omega) (fun e => by have := ho.lt i e.symm; omega)]
  exact hb.block i hi
end Go.Proofs.YtbgbgigpcegenaaGreatDoor.wd
namespace Go.Proofs.YtbgbgigpcegenaaGreatDoor.wd
open Go.RowKit Go.Lib
set_option linter.unusedVariables false
theorem data_app (t s : ByteArray) : (t ++ s).data.toList = t.data.toList ++ s.data.toList := by simp
end Go.Proofs.YtbgbgigpcegenaaGreatDoor.wd
namespace Go.Proofs.YtbgbgigpcegenaaGreatDoor.ch
open Go.RowKit Go.Lib
set_option linter.unusedVariables false
theorem dok {c : Int} {s : ByteArray} (hc : inC c) (h : (dz c s).2 = none) : dcT c s = pt.txt (dz c s).1 ∧ dcE c s = 0 ∧ dcA c s = 0 := by
  unfold dcT dcE dcA
  rw [if_pos ⟨hc, h⟩, if_pos hc, if_pos hc, if_pos h, h]
  exact ⟨rfl, rfl, rfl⟩
theorem dbad {c : Int} {s : ByteArray} {p : Nat} (hc : inC c) (h : (dz c s).2 = some p) : dcT c s = ⟨#[]⟩ ∧ dcE c s = 2 ∧ dcA c s = (p : Int) := by
  unfold dcT dcE dcA
  rw [if_neg (by rw [h]; simp), if_pos hc, if_pos hc, if_neg (by rw [h]; simp), h]
  exact ⟨rfl, rfl, rfl⟩
end Go.Proofs.YtbgbgigpcegenaaGreatDoor.ch
