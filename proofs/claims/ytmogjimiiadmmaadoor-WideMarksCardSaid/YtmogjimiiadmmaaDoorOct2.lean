/- A reader of layer 1: what its five cells hold, and its calls: contracts. -/
import Derived.Test.YtmogjimiiadmmaaDoorOct1
namespace Go.Proofs.YtmogjimiiadmmaaDoor.oct
open Go.RowKit
set_option linter.unusedVariables false

/-- w' is w, but for new blocks, draws, and what stands in block b. -/
structure Upd (b : Nat) (w w' : World) : Prop where
  os : w'.os = w.os
  tape : w'.tape = w.tape
  output : w'.output = w.output
  size : w.heap.size ≤ w'.heap.size
  block : ∀ k, k < w.heap.size → k ≠ b → w'.heap[k]? = w.heap[k]?
theorem Upd.refl (b : Nat) (w : World) : Upd b w w := ⟨rfl, rfl, rfl, Nat.le_refl _, fun _ _ _ => rfl⟩
theorem Upd.trans {b : Nat} {x y z : World} (h : Upd b x y) (k : Upd b y z) : Upd b x z :=
  ⟨k.os.trans h.os, k.tape.trans h.tape, k.output.trans h.output, Nat.le_trans h.size k.size, fun i hi hb => (k.block i (Nat.lt_of_lt_of_le hi h.size) hb).trans (h.block i hi hb)⟩
theorem Upd.of {b B : Nat} {w w' : World} (h : Below B w w') (hB : w.heap.size ≤ B) : Upd b w w' := ⟨h.os, h.tape, h.output, h.size, fun k hk _ => h.block k (by omega)⟩
theorem Upd.setCell {b : Nat} {x y : World} (h : Upd b x y) (o : Nat) (u : Value) : Upd b x (y.setCell ⟨b, o, none⟩ u) :=
  h.trans ⟨rfl, rfl, rfl, by simp [World.setCell], fun k _ hk => Below.heap_setCell _ _ _ _ (by simpa using hk)⟩
theorem Upd.below {b B : Nat} {x y z : World} (h : Below B x y) (k : Upd b y z) (hB : B ≤ b) (hs : B ≤ y.heap.size) : Below B x z :=
  h.trans ⟨k.os, k.tape, k.output, k.size, fun i hi => k.block i (by omega) (by omega)⟩
theorem Upd.cell {b : Nat} {w w' : World} (h : Upd b w w') {p : Addr} (h1 : p.block < w.heap.size) (h2 : p.block ≠ b) : w'.cell? p = w.cell? p := World.cell?_of_block (w := w) (h.block p.block h1 h2)
theorem Upd.frozen {b : Nat} {w w' : World} (h : Upd b w w') {p : Addr} (h1 : p.block < w.heap.size) (h2 : p.block ≠ b) : w'.frozen? p = w.frozen? p := World.frozen?_of_block (w := w) (h.block p.block h1 h2)

/-- Block b is a reader of text t, at k, its base bs, its fault e at at'. -/
structure Rd (w : World) (b : Nat) (t : ByteArray) (k bs e at' : Int) : Prop where
  lt : b < w.heap.size
  c0 : w.cell? ⟨b, 0, none⟩ = some (.string t)
  c1 : w.cell? ⟨b, 1, none⟩ = some (.int .i64 k)
  c2 : w.cell? ⟨b, 2, none⟩ = some (.int .i64 bs)
  c3 : w.cell? ⟨b, 3, none⟩ = some (.int .i64 e)
  c4 : w.cell? ⟨b, 4, none⟩ = some (.int .i64 at')
  f1 : w.frozen? ⟨b, 1, none⟩ = false
  f3 : w.frozen? ⟨b, 3, none⟩ = false
  f4 : w.frozen? ⟨b, 4, none⟩ = false
theorem Rd.below {w w' : World} {b : Nat} {t : ByteArray} {k bs e at' : Int} {B : Nat} (h : Rd w b t k bs e at') (hb : Below B w w') (hB : b < B) : Rd w' b t k bs e at' := by
  have H : ∀ o, w'.cell? ⟨b, o, none⟩ = w.cell? ⟨b, o, none⟩ := fun o => hb.cell (p := ⟨b, o, none⟩) hB
  have F : ∀ o, w'.frozen? ⟨b, o, none⟩ = w.frozen? ⟨b, o, none⟩ := fun o => hb.frozen (p := ⟨b, o, none⟩) hB
  exact ⟨Nat.lt_of_lt_of_le h.lt hb.size, (H 0).trans h.c0, (H 1).trans h.c1, (H 2).trans h.c2, (H 3).trans h.c3, (H 4).trans h.c4, (F 1).trans h.f1, (F 3).trans h.f3, (F 4).trans h.f4⟩
theorem Rd.upd {w w' : World} {b c : Nat} {t : ByteArray} {k bs e at' : Int} (h : Rd w b t k bs e at') (hb : Upd c w w') (hB : b ≠ c) : Rd w' b t k bs e at' := by
  have H : ∀ o, w'.cell? ⟨b, o, none⟩ = w.cell? ⟨b, o, none⟩ := fun o => hb.cell (p := ⟨b, o, none⟩) h.lt hB
  have F : ∀ o, w'.frozen? ⟨b, o, none⟩ = w.frozen? ⟨b, o, none⟩ := fun o => hb.frozen (p := ⟨b, o, none⟩) h.lt hB
  exact ⟨Nat.lt_of_lt_of_le h.lt hb.size, (H 0).trans h.c0, (H 1).trans h.c1, (H 2).trans h.c2, (H 3).trans h.c3, (H 4).trans h.c4, (F 1).trans h.f1, (F 3).trans h.f3, (F 4).trans h.f4⟩

theorem left_on (w : World) (b : Nat) (t : ByteArray) (k : Nat) (bs at' : Int) (h : Rd w b t k bs 0 at') (hk : k ≤ t.size) (ht : t.size ≤ maxLen) :
    Calls Tryd.prog 52 #[.pointer (some ⟨b, 0, none⟩)] w fun e' w' => e' = .returned (.int .i64 ((t.size - k : Nat) : Int)) ∧ Below w.heap.size w w' := by
  unfold maxLen at ht
  have H := Lib.hid h
  have hlt := h.lt
  clear h
  go_enter Tryd.func52, Tryd.ntmps52
  go_wp2_with (go_at_call 61; refine (stopped_some _ _ 0 at' H.out.lt H.out.c3 H.out.c4).mono ?_; rintro e1 w1 ⟨rfl, hb1⟩; have c0 := (H.out.below hb1 hlt).c0; have c1 := (H.out.below hb1 hlt).c1)
  go_quiet (fail)
  go_wp2
  go_ret
  exact ⟨ret_int (by omega), below_drewN hb1 _⟩
theorem left_l (w : World) (b : Nat) (t : ByteArray) (k l : Nat) (bs at' : Int) (h : Rd w b t k bs 0 at') (hk : k + l = t.size) (ht : t.size ≤ maxLen) :
    Calls Tryd.prog 52 #[.pointer (some ⟨b, 0, none⟩)] w fun e' w' => e' = .returned (.int .i64 (l : Int)) ∧ Below w.heap.size w w' := by
  have := left_on w b t k bs at' h (by omega) ht
  rwa [show t.size - k = l from by omega] at this
theorem left_off (w : World) (b : Nat) (t : ByteArray) (k bs e at' : Int) (h : Rd w b t k bs e at') (he : (e != 0) = true) :
    Calls Tryd.prog 52 #[.pointer (some ⟨b, 0, none⟩)] w fun e' w' => e' = .returned (.int .i64 0) ∧ Below w.heap.size w w' := by
  go_enter Tryd.func52, Tryd.ntmps52
  go_wp2_with (go_at_call 61; refine (stopped_some _ _ _ _ h.lt h.c3 h.c4).mono ?_; rintro e1 w1 ⟨rfl, hb1⟩)
  go_ret
  exact ⟨rfl, hb1⟩
/-- Where a byte of the text stands in the greater one. -/
def plc (bs n : Int) : Int := if 9223372036854775807 - n < bs then 9223372036854775807 else bs + n
theorem plc_small {bs n : Int} (h : bs + n ≤ 9223372036854775807) : plc bs n = bs + n := by unfold plc; rw [if_neg (by omega)]
theorem plc_lo {bs n : Int} (h : 0 ≤ bs) (hn : 0 ≤ n) : 0 ≤ plc bs n := by unfold plc; split <;> omega
theorem plc_hi {bs n : Int} : plc bs n ≤ 9223372036854775807 := by unfold plc; split <;> omega
theorem place_on (w : World) (b : Nat) (bs n : Int) (hb : b < w.heap.size) (h2 : w.cell? ⟨b, 2, none⟩ = some (.int .i64 bs)) (h0 : 0 ≤ bs) (h1 : bs ≤ 9223372036854775807) (hn : 0 ≤ n) (hn' : n ≤ 9223372036854775807) :
    Calls Tryd.prog 62 #[.pointer (some ⟨b, 0, none⟩), .int .i64 n] w fun e' w' => e' = .returned (.int .i64 (plc bs n)) ∧ w = w' := by
  by_cases hh : 9223372036854775807 - n < bs
  · have hp : Hid (plc bs n = 9223372036854775807) := Lib.hid (by unfold plc; rw [if_pos hh])
    go_enter Tryd.func62, Tryd.ntmps62
    go_wp2
    go_ret
    exact ⟨ret_int hp.out.symm, rfl⟩
  · have hp : Hid (plc bs n = bs + n) := Lib.hid (by unfold plc; rw [if_neg hh])
    go_enter Tryd.func62, Tryd.ntmps62
    go_wp2
    go_ret
    exact ⟨ret_int hp.out.symm, rfl⟩
theorem at_on (w : World) (b : Nat) (t : ByteArray) (k : Nat) (bs e at' : Int) (h : Rd w b t k bs e at') (hk : k ≤ t.size) (ht : t.size ≤ maxLen) (h0 : 0 ≤ bs) (h1 : bs ≤ 9223372036854775807) :
    Calls Tryd.prog 53 #[.pointer (some ⟨b, 0, none⟩)] w fun e' w' => e' = .returned (.int .i64 (plc bs k)) ∧ w = w' := by
  unfold maxLen at ht
  have H := Lib.hid h
  have c1 := h.c1
  have hlt := h.lt
  clear h
  go_enter Tryd.func53, Tryd.ntmps53
  go_wp2_with (go_at_call 62; refine (place_on _ _ _ _ H.out.lt H.out.c2 h0 h1 (by omega) (by omega)).mono ?_; rintro e1 w1 ⟨rfl, rfl⟩)
  go_ret
  exact ⟨rfl, rfl⟩
theorem rd_fault {w : World} {b : Nat} {t : ByteArray} {k bs e at' c n : Int} (h : Rd w b t k bs e at') : Rd ((w.setCell ⟨b, 3, none⟩ (.int .i64 c)).setCell ⟨b, 4, none⟩ (.int .i64 n)) b t k bs c n := by
  have hc4 : (w.setCell ⟨b, 3, none⟩ (.int .i64 c)).cell? ⟨b, 4, none⟩ = some (.int .i64 at') := by rw [World.cell?_setCell_other _ _ _ _ (by simp)]; exact h.c4
  refine ⟨by simpa [World.setCell] using h.lt, ?_, ?_, ?_, ?_, World.cell?_setCell_same _ _ _ hc4, by simpa using h.f1, by simpa using h.f3, by simpa using h.f4⟩
  · rw [World.cell?_setCell_other _ _ _ _ (by simp), World.cell?_setCell_other _ _ _ _ (by simp)]; exact h.c0
  · rw [World.cell?_setCell_other _ _ _ _ (by simp), World.cell?_setCell_other _ _ _ _ (by simp)]; exact h.c1
  · rw [World.cell?_setCell_other _ _ _ _ (by simp), World.cell?_setCell_other _ _ _ _ (by simp)]; exact h.c2
  · rw [World.cell?_setCell_other _ _ _ _ (by simp)]; exact World.cell?_setCell_same _ _ _ h.c3
theorem rd_read {w : World} {b : Nat} {t : ByteArray} {k bs e at' n : Int} (h : Rd w b t k bs e at') : Rd (w.setCell ⟨b, 1, none⟩ (.int .i64 n)) b t n bs e at' := by
  refine ⟨by simpa [World.setCell] using h.lt, ?_, World.cell?_setCell_same _ _ _ h.c1, ?_, ?_, ?_, by simpa using h.f1, by simpa using h.f3, by simpa using h.f4⟩
  · rw [World.cell?_setCell_other _ _ _ _ (by simp)]; exact h.c0
  · rw [World.cell?_setCell_other _ _ _ _ (by simp)]; exact h.c2
  · rw [World.cell?_setCell_other _ _ _ _ (by simp)]; exact h.c3
  · rw [World.cell?_setCell_other _ _ _ _ (by simp)]; exact h.c4
theorem fail_on (w : World) (b : Nat) (t : ByteArray) (k bs at' c n : Int) (h : Rd w b t k bs 0 at') (hc : (c == 0) = false) :
    Calls Tryd.prog 81 #[.pointer (some ⟨b, 0, none⟩), .int .i64 c, .int .i64 n] w fun e' w' => e' = .returned (.tuple #[]) ∧ Rd w' b t k bs c n ∧ Upd b w w' := by
  have H := Lib.hid h
  have hlt := h.lt
  clear h
  go_enter Tryd.func81, Tryd.ntmps81
  go_wp2_with (go_at_call 61; refine (stopped_some _ _ 0 at' H.out.lt H.out.c3 H.out.c4).mono ?_; rintro e1 w1 ⟨rfl, hb1⟩; have c3 := (H.out.below hb1 hlt).c3; have c4 := (H.out.below hb1 hlt).c4; have f3 := (H.out.below hb1 hlt).f3; have f4 := (H.out.below hb1 hlt).f4)
  go_end0
  exact ⟨rfl, rd_fault (H.out.below hb1 hlt), ((Upd.of hb1 (Nat.le_refl _)).setCell _ _).setCell _ _⟩
theorem fail_ok (w : World) (b : Nat) (t : ByteArray) (k bs e at' n : Int) (h : Rd w b t k bs e at') :
    Calls Tryd.prog 81 #[.pointer (some ⟨b, 0, none⟩), .int .i64 0, .int .i64 n] w fun e' w' => e' = .returned (.tuple #[]) ∧ Below w.heap.size w w' := by
  by_cases he : (e != 0) = true
  all_goals
    go_enter Tryd.func81, Tryd.ntmps81
    go_wp2_with (go_at_call 61; refine (stopped_some _ _ _ _ h.lt h.c3 h.c4).mono ?_; rintro e1 w1 ⟨rfl, hb1⟩)
    exact bodyPost_ret (v := .tuple #[]) (by simp [results, Tryd.results81, go_sem]) rfl ⟨rfl, hb1⟩
theorem fail_off (w : World) (b : Nat) (t : ByteArray) (k bs e at' c n : Int) (h : Rd w b t k bs e at') (he : (e != 0) = true) :
    Calls Tryd.prog 81 #[.pointer (some ⟨b, 0, none⟩), .int .i64 c, .int .i64 n] w fun e' w' => e' = .returned (.tuple #[]) ∧ Below w.heap.size w w' := by
  go_enter Tryd.func81, Tryd.ntmps81
  go_wp2_with (go_at_call 61; refine (stopped_some _ _ _ _ h.lt h.c3 h.c4).mono ?_; rintro e1 w1 ⟨rfl, hb1⟩)
  exact bodyPost_ret (v := .tuple #[]) (by simp [results, Tryd.results81, go_sem]) rfl ⟨rfl, hb1⟩
theorem short_on (w : World) (b : Nat) (t : ByteArray) (k bs at' : Int) (h : Rd w b t k bs 0 at') (ht : t.size ≤ maxLen) (h0 : 0 ≤ bs) (h1 : bs ≤ 9223372036854775807) :
    Calls Tryd.prog 79 #[.pointer (some ⟨b, 0, none⟩)] w fun e' w' => e' = .returned (.tuple #[]) ∧ Rd w' b t k bs 1 (plc bs t.size) ∧ Upd b w w' := by
  unfold maxLen at ht
  have H := Lib.hid h
  have c0 := h.c0
  clear h
  go_enter Tryd.func79, Tryd.ntmps79
  go_wp2_with (first | (go_at_call 62; refine (place_on _ _ _ _ H.out.lt H.out.c2 h0 h1 (by omega) (by omega)).mono ?_; rintro e1 w1 ⟨rfl, rfl⟩) | (go_at_call 81; refine (fail_on _ _ _ _ _ _ _ _ H.out rfl).mono ?_; rintro e2 w2 ⟨rfl, hR, hU⟩))
  go_end0
  exact ⟨rfl, hR, hU⟩
theorem ret_str {a b : ByteArray} (h : a = b) : Ending.returned (.string a) = .returned (.string b) := by rw [h]
theorem slice_km (t : ByteArray) (k m : Nat) (h : k + m ≤ t.size) (wx : World) : (Instr.slice 9 (.string t) (some (.int .i64 (k : Int))) (some (.int .i64 ((k : Int) + (m : Int)))) none).run Tryd.prog wx = .ok (.string (t.extract k (k + m))) wx := by
  rw [run_slice_string _ _ _ _ _ _ _ Tryd.underlying9 (by omega) (by omega) (by omega)]
  rfl
theorem peek_m (w : World) (b : Nat) (t : ByteArray) (k m l : Nat) (bs at' n : Int) (h : Rd w b t k bs 0 at') (hk : k + l = t.size) (ht : t.size ≤ maxLen) (hn : n < 0 ∧ m = 0 ∨ n = m ∧ m ≤ l ∨ (l : Int) < n ∧ m = l) :
    Calls Tryd.prog 80 #[.pointer (some ⟨b, 0, none⟩), .int .i64 n] w fun e' w' => e' = .returned (.string (t.extract k (k + m))) ∧ Below w.heap.size w w' := by
  unfold maxLen at ht
  have H := Lib.hid h
  have HK := Lib.hid hk
  have hlt := h.lt
  have hlb : k + l ≤ t.size := by omega
  have hlb' : l ≤ t.size := by omega
  have hk' : k ≤ t.size := by omega
  clear h hk
  rcases hn with ⟨hn, hm⟩ | ⟨hn, hm⟩ | ⟨hn, hm⟩
  · subst hm
    go_enter Tryd.func80, Tryd.ntmps80
    go_wp2_with (first | (go_at_call 61; refine (stopped_some _ _ 0 at' H.out.lt H.out.c3 H.out.c4).mono ?_; rintro e1 w1 ⟨rfl, hb1⟩; have h1 := H.out.below hb1 hlt) | (go_at_call 52; refine (left_l _ _ _ _ _ _ _ (H.out.below hb1 hlt) HK.out (by unfold maxLen; exact ht)).mono ?_; rintro e1 w2 ⟨rfl, hb2⟩; have c0 := (H.out.below (hb1.trans (hb2.mono hb1.size)) hlt).c0; have c1 := (H.out.below (hb1.trans (hb2.mono hb1.size)) hlt).c1))
    go_quiet (fail)
    go_wp2
    go_ret
    exact ⟨ret_str (by simp), below_drewN (hb1.trans (hb2.mono hb1.size)) _⟩
  · subst hn
    have hml : (m : Int) ≤ (l : Int) := by omega
    go_enter Tryd.func80, Tryd.ntmps80
    go_wp2_with (first | (go_at_call 61; refine (stopped_some _ _ 0 at' H.out.lt H.out.c3 H.out.c4).mono ?_; rintro e1 w1 ⟨rfl, hb1⟩; have h1 := H.out.below hb1 hlt) | (go_at_call 52; refine (left_l _ _ _ _ _ _ _ (H.out.below hb1 hlt) HK.out (by unfold maxLen; exact ht)).mono ?_; rintro e1 w2 ⟨rfl, hb2⟩; have c0 := (H.out.below (hb1.trans (hb2.mono hb1.size)) hlt).c0; have c1 := (H.out.below (hb1.trans (hb2.mono hb1.size)) hlt).c1))
    have b1 : (k : Int) ≤ (k : Int) + (m : Int) := by omega
    have b2 : k + m ≤ t.size := by omega
    have b3 : (0 : Int) ≤ (k : Int) + (m : Int) := by omega
    have e2 : ((k : Int) + (m : Int)).toNat = k + m := by omega
    have e1 : IntKind.i64.wrap ((k : Int) + (m : Int)) = (k : Int) + (m : Int) := IntWalk.i64_in _ (by omega)
    have hsl := slice_km t k m (by omega)
    clear b1 b3 e2
    go_quiet (fail)
    clear e1 hsl
    go_wp2
    go_ret
    exact ⟨ret_str rfl, below_drewN (hb1.trans (hb2.mono hb1.size)) _⟩
  · have hml : ¬ n < 0 := by omega
    subst hm
    go_enter Tryd.func80, Tryd.ntmps80
    go_wp2_with (first | (go_at_call 61; refine (stopped_some _ _ 0 at' H.out.lt H.out.c3 H.out.c4).mono ?_; rintro e1 w1 ⟨rfl, hb1⟩; have h1 := H.out.below hb1 hlt) | (go_at_call 52; refine (left_l _ _ _ _ _ _ _ (H.out.below hb1 hlt) HK.out (by unfold maxLen; exact ht)).mono ?_; rintro e1 w2 ⟨rfl, hb2⟩; have c0 := (H.out.below (hb1.trans (hb2.mono hb1.size)) hlt).c0; have c1 := (H.out.below (hb1.trans (hb2.mono hb1.size)) hlt).c1))
    have b1 : (k : Int) ≤ (k : Int) + (m : Int) := by omega
    have b3 : (0 : Int) ≤ (k : Int) + (m : Int) := by omega
    have e2 : ((k : Int) + (m : Int)).toNat = k + m := by omega
    have e1 : IntKind.i64.wrap ((k : Int) + (m : Int)) = (k : Int) + (m : Int) := IntWalk.i64_in _ (by omega)
    have hsl := slice_km t k m (by omega)
    clear b1 b3 e2
    go_quiet (fail)
    clear e1 hsl
    go_wp2
    go_ret
    exact ⟨ret_str rfl, below_drewN (hb1.trans (hb2.mono hb1.size)) _⟩
theorem take_ok (w : World) (b : Nat) (t : ByteArray) (k n l : Nat) (bs at' : Int) (h : Rd w b t k bs 0 at') (hk : k + l = t.size) (hn : n ≤ l) (ht : t.size ≤ maxLen) :
    Calls Tryd.prog 76 #[.pointer (some ⟨b, 0, none⟩), .int .i64 n] w fun e' w' => e' = .returned (.string (t.extract k (k + n))) ∧ Rd w' b t ((k + n : Nat) : Int) bs 0 at' ∧ Upd b w w' := by
  have ht' := ht
  unfold maxLen at ht
  have H := Lib.hid h
  have HK := Lib.hid hk
  have hlt := h.lt
  have hk' : k ≤ t.size := by omega
  have hnl : (n : Int) ≤ (l : Int) := by omega
  have hkn : k + n ≤ t.size := by omega
  clear h hk
  go_enter Tryd.func76, Tryd.ntmps76
  go_wp2_with (first | (go_at_call 61; refine (stopped_some _ _ 0 at' H.out.lt H.out.c3 H.out.c4).mono ?_; rintro e1 w1 ⟨rfl, hb1⟩; have h1 := Lib.hid (H.out.below hb1 hlt); have l1 := hb1.size) | (go_at_call 52; refine (left_l _ _ _ _ _ _ _ h1.out HK.out ht').mono ?_; rintro e1 w2 ⟨rfl, hb2⟩; have h2 := Lib.hid (h1.out.below hb2 (Nat.lt_of_lt_of_le hlt l1)); have l2 := hb2.size) | (go_at_call 80; refine (peek_m _ _ _ _ n _ _ _ _ h2.out HK.out ht' (Or.inr (Or.inl ⟨rfl, hn⟩))).mono ?_; rintro e1 w3 ⟨rfl, hb3⟩; have h3 := Lib.hid (h2.out.below hb3 (by omega)); have c1 := h3.out.c1; have f1 := h3.out.f1))
  go_ret
  exact ⟨rfl, rd_read h3.out, ((((Upd.of hb1 (Nat.le_refl _)).trans (Upd.of hb2 (Nat.le_refl _))).trans (Upd.of hb3 (Nat.le_refl _)))).setCell _ _⟩
end Go.Proofs.YtmogjimiiadmmaaDoor.oct
