/- One thing read, by the program and by the document (do): contracts. -/
import Derived.Test.YtkhcmgnempjjcaaOct15
import Derived.Deep.RegionHeld3
namespace Go.Proofs.Ytkhcmgnempjjcaa
open Go.RowKit Go.PlainAid
set_option linter.unusedVariables false
/-- Block b holds an operation. -/
structure Ob (w : World) (b : Nat) (q on oc : Int) (os : ByteArray) : Prop where
  lt : b < w.heap.size
  c0 : w.cell? ⟨b, 0, none⟩ = some (.int .i64 q)
  c1 : w.cell? ⟨b, 1, none⟩ = some (.int .i64 on)
  c2 : w.cell? ⟨b, 2, none⟩ = some (.int .i64 oc)
  c3 : w.cell? ⟨b, 3, none⟩ = some (.string os)
theorem Ob.below {w w' : World} {b : Nat} {q on oc : Int} {os : ByteArray} {B : Nat} (h : Ob w b q on oc os) (hb : Below B w w') (hB : b < B) : Ob w' b q on oc os := by
  have H : ∀ o, w'.cell? ⟨b, o, none⟩ = w.cell? ⟨b, o, none⟩ := fun o => hb.cell (p := ⟨b, o, none⟩) hB
  exact ⟨Nat.lt_of_lt_of_le h.lt hb.size, (H 0).trans h.c0, (H 1).trans h.c1, (H 2).trans h.c2, (H 3).trans h.c3⟩
theorem Ob.upd {w w' : World} {b c : Nat} {q on oc : Int} {os : ByteArray} (h : Ob w b q on oc os) (hb : Upd c w w') (hB : b ≠ c) : Ob w' b q on oc os := by
  have H : ∀ o, w'.cell? ⟨b, o, none⟩ = w.cell? ⟨b, o, none⟩ := fun o => hb.cell (p := ⟨b, o, none⟩) h.lt hB
  exact ⟨Nat.lt_of_lt_of_le h.lt hb.size, (H 0).trans h.c0, (H 1).trans h.c1, (H 2).trans h.c2, (H 3).trans h.c3⟩
theorem Mb.upd {w w' : World} {b c : Nat} {t : ByteArray} {k bs e at' : Int} (h : Mb w b t k bs e at') (hb : Upd c w w') (hB : b ≠ c) : Mb w' b t k bs e at' := by
  have H : ∀ o, w'.cell? ⟨b, o, none⟩ = w.cell? ⟨b, o, none⟩ := fun o => hb.cell (p := ⟨b, o, none⟩) h.lt hB
  have F : ∀ o, w'.frozen? ⟨b, o, none⟩ = w.frozen? ⟨b, o, none⟩ := fun o => hb.frozen (p := ⟨b, o, none⟩) h.lt hB
  exact ⟨Nat.lt_of_lt_of_le h.lt hb.size, (H 0).trans h.c0, (H 1).trans h.c1, (H 2).trans h.c2, (H 3).trans h.c3, (H 4).trans h.c4, fun o => (F o).trans (h.fr o)⟩
theorem ob_new (w : World) (q on oc : Int) (os : ByteArray) : Ob (w.alloc (.cells #[.int .i64 q, .int .i64 on, .int .i64 oc, .string os] 45)) w.heap.size q on oc os := by
  refine ⟨by simp, ?_, ?_, ?_, ?_⟩
  iterate 4 (rw [World.cell?_alloc_mark]; rfl)
theorem Upd.newer {b c : Nat} {x y z : World} (h : Upd b x y) (k : Upd c y z) (hc : x.heap.size ≤ c) : Upd b x z :=
  ⟨k.os.trans h.os, k.tape.trans h.tape, k.output.trans h.output, Nat.le_trans h.size k.size, fun i hi hb => (k.block i (Nat.lt_of_lt_of_le hi h.size) (by omega)).trans (h.block i hi hb)⟩
theorem Upd.drew {b : Nat} {x y : World} (h : Upd b x y) : Upd b x y.drew := ⟨h.os, h.tape, h.output, h.size, h.block⟩
/-- The three blocks that a call of do lays: the document's reader, the operation, the answer. -/
structure Fr (w W : World) (b : Nat) (t : ByteArray) (k bs e at' q on oc : Int) (os : ByteArray) : Prop where
  bel : Below w.heap.size w W
  rd : Rd W b t k bs e at'
  m : Mb W w.heap.size t k bs e at'
  o : Ob W (w.heap.size + 1) q on oc os
  r : Mb W (w.heap.size + 1 + 1) ⟨#[]⟩ 0 0 0 0
theorem Fr.new {w : World} {b : Nat} {t : ByteArray} {k bs e at' : Int} (h : Rd w b t k bs e at') (q on oc : Int) (os : ByteArray) : Fr w (((w.alloc (.cells #[.string t, .int .i64 k, .int .i64 bs, .int .i64 e, .int .i64 at'] 43)).alloc (.cells #[.int .i64 q, .int .i64 on, .int .i64 oc, .string os] 45)).alloc (.cells #[.string ⟨#[]⟩, .int .i64 0, .int .i64 0, .int .i64 0, .int .i64 0] 43)) b t k bs e at' q on oc os := by
  have h0 : Below w.heap.size w (((w.alloc (.cells #[.string t, .int .i64 k, .int .i64 bs, .int .i64 e, .int .i64 at'] 43)).alloc (.cells #[.int .i64 q, .int .i64 on, .int .i64 oc, .string os] 45)).alloc (.cells #[.string ⟨#[]⟩, .int .i64 0, .int .i64 0, .int .i64 0, .int .i64 0] 43)) := ((((Below.refl w.heap.size w).alloc (Nat.le_refl _) _).alloc (by simp) _).alloc (by simp; omega) _)
  refine ⟨h0, h.below h0 h.lt, ((mb_new w t k bs e at').alloc _).alloc _, ?_, ?_⟩
  · have h1 := ob_new (w.alloc (.cells #[.string t, .int .i64 k, .int .i64 bs, .int .i64 e, .int .i64 at'] 43)) q on oc os
    rw [World.size_alloc] at h1
    exact h1.below ((Below.refl _ _).alloc (Nat.le_refl _) _) h1.lt
  · have h1 := mb_new ((w.alloc (.cells #[.string t, .int .i64 k, .int .i64 bs, .int .i64 e, .int .i64 at'] 43)).alloc (.cells #[.int .i64 q, .int .i64 on, .int .i64 oc, .string os] 45)) ⟨#[]⟩ 0 0 0 0
    rw [World.size_alloc, World.size_alloc] at h1
    exact h1
theorem Fr.below {w W W' : World} {b : Nat} {t : ByteArray} {k bs e at' q on oc : Int} {os : ByteArray} (h : Fr w W b t k bs e at' q on oc os) (hb : Below W.heap.size W W') : Fr w W' b t k bs e at' q on oc os :=
  ⟨h.bel.trans (hb.mono h.bel.size), h.rd.below hb h.rd.lt, h.m.below hb h.m.lt, h.o.below hb h.o.lt, h.r.below hb h.r.lt⟩
set_option maxRecDepth 100000 in
theorem do_take (w : World) (b : Nat) (t : ByteArray) (k bs e at' k' e' a' on oc : Int) (os s : ByteArray) (h : Rd w b t k bs e at')
    (hM : ∀ w, Calls Try.prog 40 #[.agg #[.string t, .int .i64 k, .int .i64 bs, .int .i64 e, .int .i64 at'], .int .i64 on] w fun e2 w' => e2 = .returned (.tuple #[.agg #[.string t, .int .i64 k', .int .i64 bs, .int .i64 e', .int .i64 a'], .string s]) ∧ Below w.heap.size w w')
    (hP : ∀ w, Rd w b t k bs e at' → Calls Try.prog 32 #[.pointer (some ⟨b, 0, none⟩), .int .i64 on] w fun e2 w' => e2 = .returned (.string s) ∧ Rd w' b t k' bs e' a' ∧ Upd b w w') :
    Calls Try.prog 26 #[.pointer (some ⟨b, 0, none⟩), .agg #[.string t, .int .i64 k, .int .i64 bs, .int .i64 e, .int .i64 at'], .agg #[.int .i64 0, .int .i64 on, .int .i64 oc, .string os]] w fun e2 w' => e2 = .returned (.tuple #[.agg #[.string t, .int .i64 k', .int .i64 bs, .int .i64 e', .int .i64 a'], .bool true]) ∧ Rd w' b t k' bs e' a' ∧ Upd b w w' := by
  have HM := Lib.hid hM; have HP := Lib.hid hP; have H := Lib.hid h
  have hlt := h.lt
  clear hM hP h
  go_enter Try.func26, Try.ntmps26
  have F0 := Lib.hid (Fr.new H.out 0 on oc os)
  go_wp2_with (go_at_call 40; refine (HM.out _).mono ?_; rintro e1 w1 ⟨rfl, hb1⟩; have F1 := Lib.hid (F0.out.below hb1))
  have F2 := Lib.hid (F1.out.below ((Below.refl _ _).alloc (Nat.le_refl _) (.cells #[.string t, .int .i64 k', .int .i64 bs, .int .i64 e', .int .i64 a'] 43)))
  have X2 := Lib.hid (mb_new w1 t k' bs e' a')
  have hX : w.heap.size + 1 + 1 < w1.heap.size := F1.out.r.lt
  generalize hW : w1.alloc (.cells #[.string t, .int .i64 k', .int .i64 bs, .int .i64 e', .int .i64 a'] 43) = W at *
  obtain ⟨X, hXe⟩ : ∃ X, X = w1.heap.size := ⟨_, rfl⟩
  rw [← hXe] at X2 hX ⊢
  clear hW hXe F0 F1 hb1
  obtain ⟨_, x0, x1, x2, x3, x4, xf⟩ := X2.out
  obtain ⟨_, o0, o1, o2, o3⟩ := F2.out.o
  obtain ⟨_, r0, r1, r2, r3, r4, rf⟩ := F2.out.r
  have hXb : X ≠ b := by omega
  have hbR : b ≠ w.heap.size + 1 + 1 := by omega
  have hRb : w.heap.size + 1 + 1 ≠ b := by omega
  have F3 := Lib.hid (F2.out.below ((Below.refl _ W).drew))
  have X3 := Lib.hid (X2.out.below ((Below.refl _ W).drew) X2.out.lt)
  go_region_with (go_at_call 32; refine (HP.out _ F3.out.rd).mono ?_; rintro e2 w2 ⟨rfl, hR, hU⟩; obtain ⟨_, x0, x1, x2, x3, x4, xf⟩ := X3.out.upd hU hXb; obtain ⟨_, r0, r1, r2, r3, r4, rf⟩ := F3.out.r.upd hU hRb)
  all_goals
    go_wp2
    refine bodyPost_ret (v := .tuple #[.agg #[.string t, .int .i64 k', .int .i64 bs, .int .i64 e', .int .i64 a'], .bool true]) (by simp [results, Try.results26, go_sem, r0, r1, r2, r3, r4]) rfl ⟨rfl, ?_, ?_⟩
    · exact hR.upd (by repeat (first | (with_reducible exact Upd.refl _ _) | (with_reducible refine Upd.setCell ?_ _ _) | (with_reducible refine Upd.drew ?_))) hbR
    · exact ((Upd.of F3.out.bel (Nat.le_refl _)).trans hU).newer (c := w.heap.size + 1 + 1) (by repeat (first | (with_reducible exact Upd.refl _ _) | (with_reducible refine Upd.setCell ?_ _ _) | (with_reducible refine Upd.drew ?_))) (by omega)
end Go.Proofs.Ytkhcmgnempjjcaa
