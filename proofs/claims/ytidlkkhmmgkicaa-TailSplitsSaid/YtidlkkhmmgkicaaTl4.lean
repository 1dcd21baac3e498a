/- The landed tail: Parse: a contract. -/
import Derived.Test.YtidlkkhmmgkicaaTl3
namespace Go.Proofs.Ytidlkkhmmgkicaa.tl
open Go.RowKit Go.Lib
open Go.Proofs.Ytidlkkhmmgkicaa.un (bs bs_list bs_size bs_app bs_back size_list bt bt_lt bt_get index_bt wrap64 data_app drop_at drop_end u0)
open Go.Proofs.Ytidlkkhmmgkicaa.ta Go.Proofs.Ytidlkkhmmgkicaa.ob Go.Proofs.Ytidlkkhmmgkicaa.bk
set_option linter.unusedVariables false
theorem upd_bk {c p : Nat} {w w' : World} {vs : List Value} (h : Bk w p vs) (hu : oct.Upd c w w') (hne : p ≠ c) : Bk w' p vs :=
  ⟨Nat.lt_of_lt_of_le h.lt hu.size, fun i v hv => (hu.cell (p := ⟨p, i, none⟩) h.lt hne).trans (h.c i v hv), fun i => (hu.frozen (p := ⟨p, i, none⟩) h.lt hne).trans (h.f i)⟩
theorem rd_set {w : World} {b : Nat} {t : ByteArray} {k s e a : Int} (h : oct.Rd w b t k s e a) (q : Addr) (u : Value) (hq : q.block ≠ b) : oct.Rd (w.setCell q u) b t k s e a := by
  have H : ∀ o, (w.setCell q u).cell? ⟨b, o, none⟩ = w.cell? ⟨b, o, none⟩ := fun o => World.cell?_setCell_other _ _ _ _ (fun e => hq (by rw [e]))
  have F : ∀ o, (w.setCell q u).frozen? ⟨b, o, none⟩ = w.frozen? ⟨b, o, none⟩ := fun o => by simp
  exact ⟨by simpa [World.setCell] using h.lt, (H 0).trans h.c0, (H 1).trans h.c1, (H 2).trans h.c2, (H 3).trans h.c3, (H 4).trans h.c4, (F 1).trans h.f1, (F 3).trans h.f3, (F 4).trans h.f4⟩
theorem agree_eq (b s : ByteArray) (hg : oct.Agree b s 0 s.size) : b.extract 0 s.size = s := by
  have hk := hg.kt
  have hs : (b.extract 0 s.size).size = s.size := by rw [ByteArray.size_extract]; omega
  apply ByteArray.ext
  apply Array.ext
  · exact hs
  · intro i h1 h2
    have h3 : i < (b.extract 0 s.size).size := h1
    have h4 : i < s.size := h2
    have e := hg.same i h4
    rw [Nat.zero_add] at e
    have e2 := oct.bt_extract b 0 s.size i (by omega) h4
    rw [Nat.zero_add, Nat.zero_add] at e2
    have e3 : (((b.extract 0 s.size)[i]).toNat : Int) = ((s[i]).toNat : Int) := by rw [PlainAid.get_bt _ i h3, PlainAid.get_bt s i h4, e2, e]
    exact UInt8.toNat_inj.1 (Int.ofNat_inj.1 e3)
theorem eq_agree (b s : ByteArray) (hs : s.size ≤ b.size) (h : b.extract 0 s.size = s) : oct.Agree b s 0 s.size := by
  refine ⟨Nat.le_refl _, by omega, fun i hi => ?_, fun h => absurd h (Nat.lt_irrefl _)⟩
  have e2 := oct.bt_extract b 0 s.size i (by omega) hi
  rw [Nat.zero_add, Nat.zero_add, h] at e2
  rw [Nat.zero_add, e2]
def tag : ByteArray := ⟨#[84, 65, 71]⟩
/-- Want of the letters: found, or not. -/
theorem want_tag (w : World) (r : Nat) (b : ByteArray) (h : oct.Rd w r b 0 0 0 0) (hb : b.size = 128) (ht : b.extract 0 3 = tag) : Calls Try.prog 31 #[.pointer (some ⟨r, 0, none⟩), .string tag] w fun e w' => e = .returned (.bool true) ∧ oct.Rd w' r b 3 0 0 0 ∧ oct.Upd r w w' :=
  oct.want_ok w r b tag 0 3 0 0 h (eq_agree b tag (by show 3 ≤ _; omega) ht) rfl (by unfold maxLen; omega)
theorem want_not (w : World) (r : Nat) (b : ByteArray) (h : oct.Rd w r b 0 0 0 0) (hb : b.size = 128) (ht : ¬ b.extract 0 3 = tag) : Calls Try.prog 31 #[.pointer (some ⟨r, 0, none⟩), .string tag] w fun e w' => e = .returned (.bool false) ∧ oct.Upd r w w' := by
  obtain ⟨m, hg⟩ := oct.agree_ex b tag 0 (by omega)
  have hm := hg.ms
  have hm3 : m < tag.size := by
    rcases Nat.lt_or_ge m tag.size with h1 | h1
    · exact h1
    · obtain rfl : m = tag.size := by omega
      exact absurd (agree_eq b tag hg) ht
  have hm4 : m < 3 := hm3
  refine (oct.want_miss w r b tag 0 m 0 0 h hg hm3 (by omega) (by unfold maxLen; omega) (by show 3 ≤ maxLen; decide) (by omega) (by omega)).mono ?_
  rintro e w' ⟨rfl, _, hU⟩
  exact ⟨rfl, hU⟩
theorem cut_take : ∀ (l : List UInt8) (n : Nat), l.getD n 1 = 0 → cutL (l.take n) = cutL l
  | [], n, h => by simp [cutL]
  | x :: l, 0, h => by
    have : x = 0 := by simpa using h
    subst this
    rfl
  | x :: l, n + 1, h => by
    have ih := cut_take l n (by simpa using h)
    unfold cutL at ih ⊢
    rw [List.take_succ_cons, List.takeWhile_cons, List.takeWhile_cons, ih]
set_option maxRecDepth 100000 in
set_option maxHeartbeats 2000000 in
theorem parse_no (b : ByteArray) (w : World) (hs : b.size ≤ 4000) (h : ¬ b.size = 128) : Calls Try.prog 18 #[.string b] w fun e w' => e = .returned (.tuple #[tlV ⟨#[]⟩ ⟨#[]⟩ ⟨#[]⟩ ⟨#[]⟩ ⟨#[]⟩ 0 0, .bool false]) ∧ Below w.heap.size w w' := by
  unfold tlV
  have n1 : ((b.size : Int) != 128) = true := by rw [bne_iff_ne]; omega
  go_enter Try.func18, Try.ntmps18
  go_wp2_with (go_at_call 30; refine (oct.read_any _ _).mono ?_; rintro e1 w1 ⟨rfl, -, hb1⟩; have R1 := Lib.hid ((Bk.new w 31 [.string ⟨#[]⟩, .string ⟨#[]⟩, .string ⟨#[]⟩, .string ⟨#[]⟩, .string ⟨#[]⟩, .int .u8 0, .int .u8 0]).below hb1); have B1 : Hid (Below w.heap.size w w1) := Lib.hid (((Below.refl _ _).alloc (Nat.le_refl _) _).trans (hb1.mono (by rw [World.size_alloc]; omega))); have r0 := R1.out.c 0 _ rfl; have r1 := R1.out.c 1 _ rfl; have r2 := R1.out.c 2 _ rfl; have r3 := R1.out.c 3 _ rfl; have r4 := R1.out.c 4 _ rfl; have r5 := R1.out.c 5 _ rfl; have r6 := R1.out.c 6 _ rfl; have rf := R1.out.f; clear hb1)
  refine bodyPost_ret (v := .tuple #[.agg #[.string ⟨#[]⟩, .string ⟨#[]⟩, .string ⟨#[]⟩, .string ⟨#[]⟩, .string ⟨#[]⟩, .int .u8 0, .int .u8 0], .bool false]) (by simp [results, Try.results18, go_sem, r0, r1, r2, r3, r4, r5, r6]) rfl ⟨rfl, ?_⟩
  exact (((((((B1.out.setCell (p := ⟨w.heap.size, 0, none⟩) (Nat.le_refl _) _).setCell (p := ⟨w.heap.size, 1, none⟩) (Nat.le_refl _) _).setCell (p := ⟨w.heap.size, 2, none⟩) (Nat.le_refl _) _).setCell (p := ⟨w.heap.size, 3, none⟩) (Nat.le_refl _) _).setCell (p := ⟨w.heap.size, 4, none⟩) (Nat.le_refl _) _).setCell (p := ⟨w.heap.size, 5, none⟩) (Nat.le_refl _) _).setCell (p := ⟨w.heap.size, 6, none⟩) (Nat.le_refl _) _)
set_option maxRecDepth 100000 in
set_option maxHeartbeats 2000000 in
theorem parse_miss (b : ByteArray) (w : World) (hs : b.size = 128) (h : ¬ b.extract 0 3 = tag) : Calls Try.prog 18 #[.string b] w fun e w' => e = .returned (.tuple #[tlV ⟨#[]⟩ ⟨#[]⟩ ⟨#[]⟩ ⟨#[]⟩ ⟨#[]⟩ 0 0, .bool false]) ∧ Below w.heap.size w w' := by
  unfold tlV
  have HW := Lib.hid (fun W r (hr : oct.Rd W r b 0 0 0 0) => want_not W r b hr hs h)
  unfold tag at HW
  have n1 : ((b.size : Int) != 128) = false := by rw [hs]; rfl
  clear hs h
  go_enter Try.func18, Try.ntmps18
  go_wp2_with (first
    | (go_at_call 30; refine (oct.read_any _ _).mono ?_; rintro e1 w1 ⟨rfl, hrd, hb1⟩; have D1 : Hid (oct.Rd w1 (w.heap.size + 1) b 0 0 0 0) := Lib.hid (by rw [World.size_alloc] at hrd; exact hrd); have R1 := Lib.hid ((Bk.new w 31 [.string ⟨#[]⟩, .string ⟨#[]⟩, .string ⟨#[]⟩, .string ⟨#[]⟩, .string ⟨#[]⟩, .int .u8 0, .int .u8 0]).below hb1); have B1 : Hid (Below w.heap.size w w1) := Lib.hid (((Below.refl _ _).alloc (Nat.le_refl _) _).trans (hb1.mono (by rw [World.size_alloc]; omega))); clear hrd hb1)
    | (go_at_call 31; refine (HW.out _ _ D1.out).mono ?_; rintro e2 w2 ⟨rfl, hU⟩; have R2 := Lib.hid (upd_bk R1.out hU (by omega)); have B2 := Lib.hid (oct.Upd.below B1.out hU (by omega) B1.out.size); have r0 := R2.out.c 0 _ rfl; have r1 := R2.out.c 1 _ rfl; have r2 := R2.out.c 2 _ rfl; have r3 := R2.out.c 3 _ rfl; have r4 := R2.out.c 4 _ rfl; have r5 := R2.out.c 5 _ rfl; have r6 := R2.out.c 6 _ rfl; have rf := R2.out.f; clear hU))
  refine bodyPost_ret (v := .tuple #[.agg #[.string ⟨#[]⟩, .string ⟨#[]⟩, .string ⟨#[]⟩, .string ⟨#[]⟩, .string ⟨#[]⟩, .int .u8 0, .int .u8 0], .bool false]) (by simp [results, Try.results18, go_sem, r0, r1, r2, r3, r4, r5, r6]) rfl ⟨rfl, ?_⟩
  exact (((((((B2.out.setCell (p := ⟨w.heap.size, 0, none⟩) (Nat.le_refl _) _).setCell (p := ⟨w.heap.size, 1, none⟩) (Nat.le_refl _) _).setCell (p := ⟨w.heap.size, 2, none⟩) (Nat.le_refl _) _).setCell (p := ⟨w.heap.size, 3, none⟩) (Nat.le_refl _) _).setCell (p := ⟨w.heap.size, 4, none⟩) (Nat.le_refl _) _).setCell (p := ⟨w.heap.size, 5, none⟩) (Nat.le_refl _) _).setCell (p := ⟨w.heap.size, 6, none⟩) (Nat.le_refl _) _)
/-- The blocks that Parse keeps: what it answers, its reader, the tail, its texts. -/
structure Pa (w : World) (b : ByteArray) (p : Nat) (k : Int) (t5 x6 : List Value) (W : World) : Prop where
  r : Bk W w.heap.size [.string ⟨#[]⟩, .string ⟨#[]⟩, .string ⟨#[]⟩, .string ⟨#[]⟩, .string ⟨#[]⟩, .int .u8 0, .int .u8 0]
  rd : oct.Rd W (w.heap.size + 1) b k 0 0 0
  x : Bk W p t5
  y : Bk W (p + 1) x6
  b : Below w.heap.size w W
  h : w.heap.size + 1 < p
section
variable {w W W' : World} {b : ByteArray} {p : Nat} {k : Int} {t5 x6 : List Value}
theorem Pa.below (h : Pa w b p k t5 x6 W) (hb : Below W.heap.size W W') : Pa w b p k t5 x6 W' :=
  ⟨h.r.below hb, h.rd.below hb h.rd.lt, h.x.below hb, h.y.below hb, h.b.trans (hb.mono h.b.size), h.h⟩
theorem Pa.drewN (h : Pa w b p k t5 x6 W) (n : Nat) : Pa w b p k t5 x6 (W.drewN n) :=
  ⟨h.r.drewN n, ⟨h.rd.lt, h.rd.c0, h.rd.c1, h.rd.c2, h.rd.c3, h.rd.c4, h.rd.f1, h.rd.f3, h.rd.f4⟩, h.x.drewN n, h.y.drewN n, below_drewN h.b n, h.h⟩
theorem Pa.upd {k' : Int} (h : Pa w b p k t5 x6 W) (hU : oct.Upd (w.heap.size + 1) W W') (hr : oct.Rd W' (w.heap.size + 1) b k' 0 0 0) : Pa w b p k' t5 x6 W' :=
  have hh := h.h
  ⟨upd_bk h.r hU (by omega), hr, upd_bk h.x hU (by omega), upd_bk h.y hU (by omega), oct.Upd.below h.b hU (by omega) h.b.size, hh⟩
theorem Pa.put5 (h : Pa w b p k t5 x6 W) (i : Nat) (u : Value) (hi : i < t5.length) : Pa w b p k (t5.set i u) x6 (W.setCell ⟨p, i, none⟩ u) :=
  have hh := h.h
  ⟨h.r.other _ _ (by show p ≠ _; omega), rd_set h.rd _ _ (by show p ≠ _; omega), h.x.set i u hi, h.y.other _ _ (by show p ≠ _; omega), h.b.setCell (p := ⟨p, i, none⟩) (by show w.heap.size ≤ p; omega) _, hh⟩
theorem Pa.put6 (h : Pa w b p k t5 x6 W) (i : Nat) (u : Value) (hi : i < x6.length) : Pa w b p k t5 (x6.set i u) (W.setCell ⟨p + 1, i, none⟩ u) :=
  have hh := h.h
  ⟨h.r.other _ _ (by show p + 1 ≠ _; omega), rd_set h.rd _ _ (by show p + 1 ≠ _; omega), h.x.other _ _ (by show p + 1 ≠ _; omega), h.y.set i u hi, h.b.setCell (p := ⟨p + 1, i, none⟩) (by show w.heap.size ≤ p + 1; omega) _, hh⟩
end
theorem bt_ext (b : ByteArray) (i n j : Nat) (hj : j < n) : bt (b.extract i (i + n)) j = bt b (i + j) := by
  unfold bt
  rw [ByteArray.data_extract, Array.toList_extract]
  simp only [List.extract, List.getD_eq_getElem?_getD]
  rw [List.getElem?_take_of_lt (by omega), List.getElem?_drop]
theorem fld_trk (b : ByteArray) (h : b.size = 128) : fld b 97 30 = fld b 97 (wd 4 (trB b)) := by
  by_cases h0 : trB b = 0
  · rw [h0]; rfl
  · have h1 : wd 4 (trB b) = 28 := by unfold wd; rw [if_neg (by omega), if_pos ⟨rfl, h0⟩]
    have h2 : bt b 125 = 0 := by unfold trB at h0; by_cases hz : bt b 125 = 0; exact hz; rw [if_neg hz] at h0; exact absurd rfl h0
    rw [h1]
    unfold fld
    refine congrArg bs ?_
    have e : (b.extract 97 (97 + 28)).data.toList = ((b.extract 97 (97 + 30)).data.toList).take 28 := by
      rw [ByteArray.data_extract, ByteArray.data_extract, Array.toList_extract, Array.toList_extract]
      simp only [List.extract, List.take_take]
      rfl
    rw [e]
    refine (cut_take _ 28 ?_).symm
    have hb := bt_ext b 97 30 28 (by omega)
    have hl : 28 < (b.extract 97 (97 + 30)).data.toList.length := by rw [size_list, ByteArray.size_extract]; omega
    rw [h2] at hb
    unfold bt at hb
    rw [List.getD_eq_getElem?_getD, List.getElem?_eq_getElem hl] at hb ⊢
    exact UInt8.toNat_inj.1 hb
set_option maxRecDepth 100000 in
set_option maxHeartbeats 8000000 in
theorem parse_yes (b : ByteArray) (w : World) (hs : b.size = 128) (h : b.extract 0 3 = tag) : Calls Try.prog 18 #[.string b] w fun e w' => e = .returned (.tuple #[tlV (fld b 3 30) (fld b 33 30) (fld b 63 30) (fld b 93 4) (fld b 97 (wd 4 (trB b))) (trB b) (bt b 127), .bool true]) ∧ Below w.heap.size w w' := by
  unfold tlV
  have HW := Lib.hid (fun W r (hr : oct.Rd W r b 0 0 0 0) => want_tag W r b hr hs h)
  unfold tag at HW
  have HSZ := Lib.hid (fun W => sizes_any W)
  have n1 : ((b.size : Int) != 128) = false := by rw [hs]; rfl
  have HTK0 : Hid (∀ (W : World) (r : Nat), oct.Rd W r b 3 0 0 0 → Calls Try.prog 33 #[.pointer (some ⟨r, 0, none⟩), .int .i64 30] W fun e w' => e = .returned (.string (b.extract 3 (3 + 30))) ∧ oct.Rd w' r b 33 0 0 0 ∧ oct.Upd r W w') := Lib.hid (fun W r hr => oct.take_ok W r b 3 30 (128 - 3) 0 0 hr (by omega) (by omega) (by unfold maxLen; omega))
  have HCU0 : Hid (∀ W, Calls Try.prog 34 #[.string (b.extract 3 (3 + 30)), .string ⟨#[0]⟩] W fun e w' => (∃ v1 v2, e = .returned (.tuple #[.string (fld b 3 30), v1, v2])) ∧ ∃ n, w' = W.drewN n) := Lib.hid (fun W => cut_any (b.extract 3 (3 + 30)) W (by rw [ByteArray.size_extract]; omega))
  have HTK1 : Hid (∀ (W : World) (r : Nat), oct.Rd W r b 33 0 0 0 → Calls Try.prog 33 #[.pointer (some ⟨r, 0, none⟩), .int .i64 30] W fun e w' => e = .returned (.string (b.extract 33 (33 + 30))) ∧ oct.Rd w' r b 63 0 0 0 ∧ oct.Upd r W w') := Lib.hid (fun W r hr => oct.take_ok W r b 33 30 (128 - 33) 0 0 hr (by omega) (by omega) (by unfold maxLen; omega))
  have HCU1 : Hid (∀ W, Calls Try.prog 34 #[.string (b.extract 33 (33 + 30)), .string ⟨#[0]⟩] W fun e w' => (∃ v1 v2, e = .returned (.tuple #[.string (fld b 33 30), v1, v2])) ∧ ∃ n, w' = W.drewN n) := Lib.hid (fun W => cut_any (b.extract 33 (33 + 30)) W (by rw [ByteArray.size_extract]; omega))
  have HTK2 : Hid (∀ (W : World) (r : Nat), oct.Rd W r b 63 0 0 0 → Calls Try.prog 33 #[.pointer (some ⟨r, 0, none⟩), .int .i64 30] W fun e w' => e = .returned (.string (b.extract 63 (63 + 30))) ∧ oct.Rd w' r b 93 0 0 0 ∧ oct.Upd r W w') := Lib.hid (fun W r hr => oct.take_ok W r b 63 30 (128 - 63) 0 0 hr (by omega) (by omega) (by unfold maxLen; omega))
  have HCU2 : Hid (∀ W, Calls Try.prog 34 #[.string (b.extract 63 (63 + 30)), .string ⟨#[0]⟩] W fun e w' => (∃ v1 v2, e = .returned (.tuple #[.string (fld b 63 30), v1, v2])) ∧ ∃ n, w' = W.drewN n) := Lib.hid (fun W => cut_any (b.extract 63 (63 + 30)) W (by rw [ByteArray.size_extract]; omega))
  have HTK3 : Hid (∀ (W : World) (r : Nat), oct.Rd W r b 93 0 0 0 → Calls Try.prog 33 #[.pointer (some ⟨r, 0, none⟩), .int .i64 4] W fun e w' => e = .returned (.string (b.extract 93 (93 + 4))) ∧ oct.Rd w' r b 97 0 0 0 ∧ oct.Upd r W w') := Lib.hid (fun W r hr => oct.take_ok W r b 93 4 (128 - 93) 0 0 hr (by omega) (by omega) (by unfold maxLen; omega))
  have HCU3 : Hid (∀ W, Calls Try.prog 34 #[.string (b.extract 93 (93 + 4)), .string ⟨#[0]⟩] W fun e w' => (∃ v1 v2, e = .returned (.tuple #[.string (fld b 93 4), v1, v2])) ∧ ∃ n, w' = W.drewN n) := Lib.hid (fun W => cut_any (b.extract 93 (93 + 4)) W (by rw [ByteArray.size_extract]; omega))
  have HTK4 : Hid (∀ (W : World) (r : Nat), oct.Rd W r b 97 0 0 0 → Calls Try.prog 33 #[.pointer (some ⟨r, 0, none⟩), .int .i64 30] W fun e w' => e = .returned (.string (b.extract 97 (97 + 30))) ∧ oct.Rd w' r b 127 0 0 0 ∧ oct.Upd r W w') := Lib.hid (fun W r hr => oct.take_ok W r b 97 30 (128 - 97) 0 0 hr (by omega) (by omega) (by unfold maxLen; omega))
  have HCU4 : Hid (∀ W, Calls Try.prog 34 #[.string (b.extract 97 (97 + 30)), .string ⟨#[0]⟩] W fun e w' => (∃ v1 v2, e = .returned (.tuple #[.string (fld b 97 30), v1, v2])) ∧ ∃ n, w' = W.drewN n) := Lib.hid (fun W => cut_any (b.extract 97 (97 + 30)) W (by rw [ByteArray.size_extract]; omega))
  have HBG : Hid (∀ (W : World) (r : Nat), oct.Rd W r b 127 0 0 0 → Calls Try.prog 36 #[.pointer (some ⟨r, 0, none⟩), .int .i64 1] W fun e w' => e = .returned (.int .u64 ((bt b 127 : Nat) : Int)) ∧ oct.Rd w' r b 128 0 0 0 ∧ oct.Upd r W w') := Lib.hid (fun W r hr => by
    have h1 := oct.rbig_of (.pointer (some ⟨r, 0, none⟩)) 1 1 (b.extract 127 (127 + 1)) (fun w' => oct.Rd w' r b 128 0 0 0 ∧ oct.Upd r W w') W (by omega) (by omega) (by omega) (by rw [ByteArray.size_extract]; omega) (oct.take_ok W r b 127 1 1 0 0 hr (by omega) (by omega) (by unfold maxLen; omega))
    have h2 : oct.num (b.extract 127 (127 + 1)).data.toList = bt b 127 := by
      rw [un.ext_one b 127 (by omega), bs_list]
      simp [oct.num, bt]
    rw [h2] at h1
    exact h1)
  rw [fld_trk b hs] at HCU4
  have HCS : Hid (((∀ wx, (Instr.index 9 (.string (b.extract 97 (97 + 30))) (.int .i64 28)).run Try.prog wx = .ok (.int .u8 0) wx) ∧ (∀ wx, (Instr.index 9 (.string (b.extract 97 (97 + 30))) (.int .i64 29)).run Try.prog wx = .ok (.int .u8 (trB b : Int)) wx)) ∨ (∃ U : Int, (∀ wx, (Instr.index 9 (.string (b.extract 97 (97 + 30))) (.int .i64 28)).run Try.prog wx = .ok (.int .u8 U) wx) ∧ (U == 0) = false ∧ (trB b : Int) = 0)) := Lib.hid (by
    have hz : (b.extract 97 (97 + 30)).size = 30 := by rw [ByteArray.size_extract]; omega
    have h28 := fun wx => index_bt (b.extract 97 (97 + 30)) 28 (by omega) wx
    have h29 := fun wx => index_bt (b.extract 97 (97 + 30)) 29 (by omega) wx
    rw [bt_ext b 97 30 28 (by omega)] at h28
    rw [bt_ext b 97 30 29 (by omega)] at h29
    by_cases hc : bt b 125 = 0
    · refine .inl ⟨fun wx => ?_, fun wx => ?_⟩
      · have := h28 wx; rw [show 97 + 28 = 125 from rfl, hc] at this; exact this
      · have := h29 wx; rw [show trB b = bt b 126 by unfold trB; rw [if_pos hc]]; exact this
    · exact .inr ⟨_, h28, by rw [beq_eq_false_iff_ne]; show ((bt b 125 : Nat) : Int) ≠ 0; omega, by unfold trB; rw [if_neg hc]; rfl⟩)
  have hg8 : IntKind.u8.wrap ((bt b 127 : Nat) : Int) = ((bt b 127 : Nat) : Int) := wrap8 _ (bt_lt b 127)
  generalize fld b 3 30 = f0 at *
  generalize fld b 33 30 = f1 at *
  generalize fld b 63 30 = f2 at *
  generalize fld b 93 4 = f3 at *
  generalize fld b 97 (wd 4 (trB b)) = f4 at *
  generalize b.extract 3 (3 + 30) = F0 at *
  generalize b.extract 33 (33 + 30) = F1 at *
  generalize b.extract 63 (63 + 30) = F2 at *
  generalize b.extract 93 (93 + 4) = F3 at *
  generalize b.extract 97 (97 + 30) = F4 at *
  generalize ((trB b : Nat) : Int) = TR at *
  generalize ((bt b 127 : Nat) : Int) = G at *
  clear hs h
  go_enter Try.func18, Try.ntmps18
  go_wp2_with (first
    | (go_at_call 30; refine (oct.read_any _ _).mono ?_; rintro e1 w1 ⟨rfl, hrd, hb1⟩; have D1 : Hid (oct.Rd w1 (w.heap.size + 1) b 0 0 0 0) := Lib.hid (by rw [World.size_alloc] at hrd; exact hrd); have R1 := Lib.hid ((Bk.new w 31 [.string ⟨#[]⟩, .string ⟨#[]⟩, .string ⟨#[]⟩, .string ⟨#[]⟩, .string ⟨#[]⟩, .int .u8 0, .int .u8 0]).below hb1); have B1 : Hid (Below w.heap.size w w1) := Lib.hid (((Below.refl _ _).alloc (Nat.le_refl _) _).trans (hb1.mono (by rw [World.size_alloc]; omega))); clear hrd hb1)
    | (go_at_call 31; refine (HW.out _ _ D1.out).mono ?_; rintro e2 w2 ⟨rfl, hrd, hU⟩; have P2 : Hid (Pa w b w2.heap.size 3 [.string ⟨#[]⟩, .string ⟨#[]⟩, .string ⟨#[]⟩, .string ⟨#[]⟩, .string ⟨#[]⟩, .int .u8 0, .int .u8 0] [.string ⟨#[]⟩, .string ⟨#[]⟩, .string ⟨#[]⟩, .string ⟨#[]⟩, .string ⟨#[]⟩] ((w2.alloc (.cells #[.string ⟨#[]⟩, .string ⟨#[]⟩, .string ⟨#[]⟩, .string ⟨#[]⟩, .string ⟨#[]⟩, .int .u8 0, .int .u8 0] 31)).alloc (.cells #[.string ⟨#[]⟩, .string ⟨#[]⟩, .string ⟨#[]⟩, .string ⟨#[]⟩, .string ⟨#[]⟩] 34))) := Lib.hid (by have g1 := hrd.lt; have hx := (Bk.new w2 31 [.string ⟨#[]⟩, .string ⟨#[]⟩, .string ⟨#[]⟩, .string ⟨#[]⟩, .string ⟨#[]⟩, .int .u8 0, .int .u8 0]).alloc (.cells #[.string ⟨#[]⟩, .string ⟨#[]⟩, .string ⟨#[]⟩, .string ⟨#[]⟩, .string ⟨#[]⟩] 34); have hy := Bk.new (w2.alloc (.cells #[.string ⟨#[]⟩, .string ⟨#[]⟩, .string ⟨#[]⟩, .string ⟨#[]⟩, .string ⟨#[]⟩, .int .u8 0, .int .u8 0] 31)) 34 [.string ⟨#[]⟩, .string ⟨#[]⟩, .string ⟨#[]⟩, .string ⟨#[]⟩, .string ⟨#[]⟩]; rw [World.size_alloc] at hy; have hbb := oct.Upd.below B1.out hU (by omega) B1.out.size; have hBB : Below w2.heap.size w2 ((w2.alloc (.cells #[.string ⟨#[]⟩, .string ⟨#[]⟩, .string ⟨#[]⟩, .string ⟨#[]⟩, .string ⟨#[]⟩, .int .u8 0, .int .u8 0] 31)).alloc (.cells #[.string ⟨#[]⟩, .string ⟨#[]⟩, .string ⟨#[]⟩, .string ⟨#[]⟩, .string ⟨#[]⟩] 34)) := ((Below.refl _ _).alloc (Nat.le_refl _) _).alloc (by rw [World.size_alloc]; omega) _; exact ⟨((upd_bk R1.out hU (by omega)).below hBB), hrd.below hBB g1, hx, hy, hbb.trans (hBB.mono hbb.size), g1⟩); clear hrd hU R1 B1 D1 HW)
    | (go_at_call 32; refine (HSZ.out _).mono ?_; rintro e3 w3 ⟨rfl, hb3⟩; have Q0 := Lib.hid (P2.out.below hb3); clear hb3 P2 HSZ))
  go_loopw [22] (fun i wr => (i = .int .i64 0 ∧ Hid (Pa w b w2.heap.size 3 [.string ⟨#[]⟩, .string ⟨#[]⟩, .string ⟨#[]⟩, .string ⟨#[]⟩, .string ⟨#[]⟩, .int .u8 0, .int .u8 0] [.string ⟨#[]⟩, .string ⟨#[]⟩, .string ⟨#[]⟩, .string ⟨#[]⟩, .string ⟨#[]⟩] wr)) ∨ (i = .int .i64 1 ∧ Hid (Pa w b w2.heap.size 33 [.string ⟨#[]⟩, .string ⟨#[]⟩, .string ⟨#[]⟩, .string ⟨#[]⟩, .string ⟨#[]⟩, .int .u8 0, .int .u8 0] [.string f0, .string ⟨#[]⟩, .string ⟨#[]⟩, .string ⟨#[]⟩, .string ⟨#[]⟩] wr)) ∨ (i = .int .i64 2 ∧ Hid (Pa w b w2.heap.size 63 [.string ⟨#[]⟩, .string ⟨#[]⟩, .string ⟨#[]⟩, .string ⟨#[]⟩, .string ⟨#[]⟩, .int .u8 0, .int .u8 0] [.string f0, .string f1, .string ⟨#[]⟩, .string ⟨#[]⟩, .string ⟨#[]⟩] wr)) ∨ (i = .int .i64 3 ∧ Hid (Pa w b w2.heap.size 93 [.string ⟨#[]⟩, .string ⟨#[]⟩, .string ⟨#[]⟩, .string ⟨#[]⟩, .string ⟨#[]⟩, .int .u8 0, .int .u8 0] [.string f0, .string f1, .string f2, .string ⟨#[]⟩, .string ⟨#[]⟩] wr)) ∨ (i = .int .i64 4 ∧ Hid (Pa w b w2.heap.size 97 [.string ⟨#[]⟩, .string ⟨#[]⟩, .string ⟨#[]⟩, .string ⟨#[]⟩, .string ⟨#[]⟩, .int .u8 0, .int .u8 0] [.string f0, .string f1, .string f2, .string f3, .string ⟨#[]⟩] wr)) ∨ (i = .int .i64 5 ∧ Hid (Pa w b w2.heap.size 127 [.string ⟨#[]⟩, .string ⟨#[]⟩, .string ⟨#[]⟩, .string ⟨#[]⟩, .string ⟨#[]⟩, .int .u8 TR, .int .u8 0] [.string f0, .string f1, .string f2, .string f3, .string f4] wr))) (fun i _ => 5 - (RowKit.intOf i).toNat)
  case atStart => exact .inl ⟨rfl, Q0⟩
  case round =>
    clear Q0
    rcases hrel with ⟨rfl, Q⟩ | ⟨rfl, Q⟩ | ⟨rfl, Q⟩ | ⟨rfl, Q⟩ | ⟨rfl, Q⟩ | ⟨rfl, Q⟩
    · have xi := fun wx => ix5i_0 (.int .i64 30) (.int .i64 30) (.int .i64 30) (.int .i64 4) (.int .i64 30) wx
      go_wp2_with (first
        | (go_at_call 33; refine (HTK0.out _ _ Q.out.rd).mono ?_; rintro e4 w4 ⟨rfl, hrd, hU⟩; have Q1 := Lib.hid (Q.out.upd hU hrd); clear hrd hU)
        | (go_at_call 34; refine (HCU0.out _).mono ?_; rintro e5 w5 ⟨⟨v1, v2, rfl⟩, n, rfl⟩; have Q2 := Lib.hid (Q1.out.drewN n); have yj := Q2.out.y.c 0 _ rfl; have yf := Q2.out.y.f 0))
      go_roundw
      case rel => exact .inr (.inl ⟨rfl, Lib.hid (Q2.out.put6 0 _ (by simp))⟩)
      case measure => simp [RowKit.intOf]
    · have xi := fun wx => ix5i_1 (.int .i64 30) (.int .i64 30) (.int .i64 30) (.int .i64 4) (.int .i64 30) wx
      go_wp2_with (first
        | (go_at_call 33; refine (HTK1.out _ _ Q.out.rd).mono ?_; rintro e4 w4 ⟨rfl, hrd, hU⟩; have Q1 := Lib.hid (Q.out.upd hU hrd); clear hrd hU)
        | (go_at_call 34; refine (HCU1.out _).mono ?_; rintro e5 w5 ⟨⟨v1, v2, rfl⟩, n, rfl⟩; have Q2 := Lib.hid (Q1.out.drewN n); have yj := Q2.out.y.c 1 _ rfl; have yf := Q2.out.y.f 1))
      go_roundw
      case rel => exact .inr (.inr (.inl ⟨rfl, Lib.hid (Q2.out.put6 1 _ (by simp))⟩))
      case measure => simp [RowKit.intOf]
    · have xi := fun wx => ix5i_2 (.int .i64 30) (.int .i64 30) (.int .i64 30) (.int .i64 4) (.int .i64 30) wx
      go_wp2_with (first
        | (go_at_call 33; refine (HTK2.out _ _ Q.out.rd).mono ?_; rintro e4 w4 ⟨rfl, hrd, hU⟩; have Q1 := Lib.hid (Q.out.upd hU hrd); clear hrd hU)
        | (go_at_call 34; refine (HCU2.out _).mono ?_; rintro e5 w5 ⟨⟨v1, v2, rfl⟩, n, rfl⟩; have Q2 := Lib.hid (Q1.out.drewN n); have yj := Q2.out.y.c 2 _ rfl; have yf := Q2.out.y.f 2))
      go_roundw
      case rel => exact .inr (.inr (.inr (.inl ⟨rfl, Lib.hid (Q2.out.put6 2 _ (by simp))⟩)))
      case measure => simp [RowKit.intOf]
    · have xi := fun wx => ix5i_3 (.int .i64 30) (.int .i64 30) (.int .i64 30) (.int .i64 4) (.int .i64 30) wx
      go_wp2_with (first
        | (go_at_call 33; refine (HTK3.out _ _ Q.out.rd).mono ?_; rintro e4 w4 ⟨rfl, hrd, hU⟩; have Q1 := Lib.hid (Q.out.upd hU hrd); clear hrd hU)
        | (go_at_call 34; refine (HCU3.out _).mono ?_; rintro e5 w5 ⟨⟨v1, v2, rfl⟩, n, rfl⟩; have Q2 := Lib.hid (Q1.out.drewN n); have yj := Q2.out.y.c 3 _ rfl; have yf := Q2.out.y.f 3))
      go_roundw
      case rel => exact .inr (.inr (.inr (.inr (.inl ⟨rfl, Lib.hid (Q2.out.put6 3 _ (by simp))⟩))))
      case measure => simp [RowKit.intOf]
    · have xi := fun wx => ix5i_4 (.int .i64 30) (.int .i64 30) (.int .i64 30) (.int .i64 4) (.int .i64 30) wx
      rcases HCS.out with ⟨x28, x29⟩ | ⟨U, x28, n28, hTR⟩
      · go_wp2_with (first
          | (go_at_call 33; refine (HTK4.out _ _ Q.out.rd).mono ?_; rintro e4 w4 ⟨rfl, hrd, hU⟩; have Q1 := Lib.hid (Q.out.upd hU hrd); clear hrd hU)
          | (go_at_call 34; refine (HCU4.out _).mono ?_; rintro e5 w5 ⟨⟨v1, v2, rfl⟩, n, rfl⟩; have Q2 := Lib.hid (Q1.out.drewN n); have yj := Q2.out.y.c 4 _ rfl; have yf := Q2.out.y.f 4; have xj := Q2.out.x.c 5 _ rfl; have xf := Q2.out.x.f 5))
        go_roundw
        case rel => exact .inr (.inr (.inr (.inr (.inr (⟨rfl, Lib.hid ((Q2.out.put6 4 _ (by simp)).put5 5 _ (by simp))⟩)))))
        case measure => simp [RowKit.intOf]
      · go_wp2_with (first
          | (go_at_call 33; refine (HTK4.out _ _ Q.out.rd).mono ?_; rintro e4 w4 ⟨rfl, hrd, hU⟩; have Q1 := Lib.hid (Q.out.upd hU hrd); clear hrd hU)
          | (go_at_call 34; refine (HCU4.out _).mono ?_; rintro e5 w5 ⟨⟨v1, v2, rfl⟩, n, rfl⟩; have Q2 := Lib.hid (Q1.out.drewN n); have yj := Q2.out.y.c 4 _ rfl; have yf := Q2.out.y.f 4))
        go_roundw
        case rel => exact .inr (.inr (.inr (.inr (.inr (⟨rfl, Lib.hid (by rw [hTR]; exact Q2.out.put6 4 _ (by simp))⟩)))))
        case measure => simp [RowKit.intOf]
    · have y0 := Q.out.y.c 0 _ rfl
      have y1 := Q.out.y.c 1 _ rfl
      have y2 := Q.out.y.c 2 _ rfl
      have y3 := Q.out.y.c 3 _ rfl
      have y4 := Q.out.y.c 4 _ rfl
      have hne : ¬ w2.heap.size = w.heap.size := by have := Q.out.h; omega
      have hne2 : ¬ w.heap.size = w2.heap.size := fun e => hne e.symm
      go_wp2_with (first
        | (go_at_call 35; refine (named_any f0 f1 f2 f3 f4 _).mono ?_; rintro e7 w7 ⟨rfl, hb7⟩; have Q7 := Lib.hid (Q.out.below hb7); have x0 := Q7.out.x.c 0 _ rfl; have x1 := Q7.out.x.c 1 _ rfl; have x2 := Q7.out.x.c 2 _ rfl; have x3 := Q7.out.x.c 3 _ rfl; have x4 := Q7.out.x.c 4 _ rfl; have x5 := Q7.out.x.c 5 _ rfl; have x6 := Q7.out.x.c 6 _ rfl; have xf := Q7.out.x.f; clear hb7)
        | (go_at_call 36; (have Q8 := Lib.hid (((((Q7.out.put5 0 (.string f0) (by simp)).put5 1 (.string f1) (by simp)).put5 2 (.string f2) (by simp)).put5 3 (.string f3) (by simp)).put5 4 (.string f4) (by simp))); refine (HBG.out _ _ Q8.out.rd).mono ?_; rintro e9 w9 ⟨rfl, hrd, hU⟩; have Q9 := Lib.hid (Q8.out.upd hU hrd); clear x0 x1 x2 x3 x4 x5 x6 xf hrd hU; have x0 := Q9.out.x.c 0 _ rfl; have x1 := Q9.out.x.c 1 _ rfl; have x2 := Q9.out.x.c 2 _ rfl; have x3 := Q9.out.x.c 3 _ rfl; have x4 := Q9.out.x.c 4 _ rfl; have x5 := Q9.out.x.c 5 _ rfl; have x6 := Q9.out.x.c 6 _ rfl; have xf := Q9.out.x.f; have r0 := Q9.out.r.c 0 _ rfl; have r1 := Q9.out.r.c 1 _ rfl; have r2 := Q9.out.r.c 2 _ rfl; have r3 := Q9.out.r.c 3 _ rfl; have r4 := Q9.out.r.c 4 _ rfl; have r5 := Q9.out.r.c 5 _ rfl; have r6 := Q9.out.r.c 6 _ rfl; have rf := Q9.out.r.f))
      refine bodyPost_ret (v := .tuple #[.agg #[.string f0, .string f1, .string f2, .string f3, .string f4, .int .u8 TR, .int .u8 G], .bool true]) (by simp [results, Try.results18, go_sem, r0, r1, r2, r3, r4, r5, r6]) rfl ⟨rfl, ?_⟩
      exact ((((((((Q9.out.b.setCell (p := ⟨w2.heap.size, 6, none⟩) (by have := Q.out.h; show w.heap.size ≤ w2.heap.size; omega) _).setCell (p := ⟨w.heap.size, 0, none⟩) (Nat.le_refl _) _).setCell (p := ⟨w.heap.size, 1, none⟩) (Nat.le_refl _) _).setCell (p := ⟨w.heap.size, 2, none⟩) (Nat.le_refl _) _).setCell (p := ⟨w.heap.size, 3, none⟩) (Nat.le_refl _) _).setCell (p := ⟨w.heap.size, 4, none⟩) (Nat.le_refl _) _).setCell (p := ⟨w.heap.size, 5, none⟩) (Nat.le_refl _) _).setCell (p := ⟨w.heap.size, 6, none⟩) (Nat.le_refl _) _)
theorem parse_any (b : ByteArray) (w : World) (hs : b.size ≤ 4000) : Calls Try.prog 18 #[.string b] w fun e w' => e = .returned (.tuple #[paV b, .bool (isT b)]) ∧ Below w.heap.size w w' := by
  unfold paV
  by_cases h : b.size = 128
  · by_cases h2 : b.extract 0 3 = tag
    · have h3 : isT b = true := by unfold isT; rw [decide_eq_true h, Bool.true_and]; exact decide_eq_true h2
      rw [h3, if_pos rfl]
      exact parse_yes b w h h2
    · have h3 : isT b = false := by unfold isT; rw [decide_eq_true h, Bool.true_and]; exact decide_eq_false h2
      rw [h3, if_neg (by simp)]
      exact parse_miss b w h h2
  · have h3 : isT b = false := by unfold isT; rw [decide_eq_false h]; rfl
    rw [h3, if_neg (by simp)]
    exact parse_no b w hs h
end Go.Proofs.Ytidlkkhmmgkicaa.tl
