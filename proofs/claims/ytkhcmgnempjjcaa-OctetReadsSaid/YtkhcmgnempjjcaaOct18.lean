/- One thing read, by the program and by the document (do), more of it: contracts. -/
import Derived.Test.YtkhcmgnempjjcaaOct16
import Derived.Deep.RegionHeld3
import Derived.Deep.DeepCutAuto
namespace Go.Proofs.Ytkhcmgnempjjcaa
open Go.RowKit Go.PlainAid
set_option linter.unusedVariables false
theorem Mb.setCell {w : World} {b c : Nat} {t : ByteArray} {k bs e at' : Int} (h : Mb w b t k bs e at') (o : Nat) (v : Value) (hc : b ≠ c) : Mb (w.setCell ⟨c, o, none⟩ v) b t k bs e at' := h.upd ((Upd.refl c w).setCell o v) hc
theorem mb_set {w : World} {b : Nat} {t t' : ByteArray} {k bs e a k' bs' e' a' : Int} (h : Mb w b t k bs e a) : Mb (((((w.setCell ⟨b, 0, none⟩ (.string t')).setCell ⟨b, 1, none⟩ (.int .i64 k')).setCell ⟨b, 2, none⟩ (.int .i64 bs')).setCell ⟨b, 3, none⟩ (.int .i64 e')).setCell ⟨b, 4, none⟩ (.int .i64 a')) b t' k' bs' e' a' := by
  obtain ⟨h1, c0, c1, c2, c3, c4, fr⟩ := h
  refine ⟨by simpa [World.setCell] using h1, ?_, ?_, ?_, ?_, ?_, fun o => by simpa using fr o⟩ <;> go_simp
theorem Fr.upd {w W W' : World} {b c : Nat} {t : ByteArray} {k bs e at' q on oc : Int} {os : ByteArray} (h : Fr w W b t k bs e at' q on oc os) (hu : Upd c W W') (hc : w.heap.size + 1 + 1 < c) (hb : b < w.heap.size) : Fr w W' b t k bs e at' q on oc os :=
  ⟨Upd.below h.bel hu (by omega) h.bel.size, h.rd.upd hu (by omega), h.m.upd hu (by omega), h.o.upd hu (by omega), h.r.upd hu (by omega)⟩
/-- What the walk holds behind the document's answer: its reader lies in block X. -/
structure Mid (w W : World) (X b : Nat) (t : ByteArray) (k bs e at' k' e' a' q on oc : Int) (os : ByteArray) : Prop where
  fr : Fr w W b t k bs e at' q on oc os
  x : Mb W X t k' bs e' a'
  gt : w.heap.size + 1 + 1 < X
theorem Mid.late {w W : World} {b : Nat} {t : ByteArray} {k bs e at' q on oc : Int} {os : ByteArray} (h : Fr w W b t k bs e at' q on oc os) (k' e' a' : Int) : Mid w (W.alloc (.cells #[.string t, .int .i64 k', .int .i64 bs, .int .i64 e', .int .i64 a'] 43)) W.heap.size b t k bs e at' k' e' a' q on oc os :=
  ⟨h.below ((Below.refl _ _).alloc (Nat.le_refl _) _), mb_new _ _ _ _ _ _, h.r.lt⟩
theorem Mid.soon {w W : World} {b X : Nat} {t : ByteArray} {k bs e at' q on oc : Int} {os : ByteArray} (h : Fr w W b t k bs e at' q on oc os) (z : Mb W X ⟨#[]⟩ 0 0 0 0) (hX : w.heap.size + 1 + 1 < X) (hb : b < w.heap.size) (k' e' a' : Int) :
    Mid w (((((W.setCell ⟨X, 0, none⟩ (.string t)).setCell ⟨X, 1, none⟩ (.int .i64 k')).setCell ⟨X, 2, none⟩ (.int .i64 bs)).setCell ⟨X, 3, none⟩ (.int .i64 e')).setCell ⟨X, 4, none⟩ (.int .i64 a')) X b t k bs e at' k' e' a' q on oc os :=
  ⟨h.upd (c := X) (by repeat (first | (with_reducible exact Upd.refl _ _) | (with_reducible refine Upd.setCell ?_ _ _) | (with_reducible refine Upd.drew ?_))) hX hb, mb_set z, hX⟩
set_option maxRecDepth 100000 in
set_option maxHeartbeats 1000000 in
theorem do_rest (w : World) (b : Nat) (t : ByteArray) (k bs e at' k' e' a' on oc l : Int) (os s : ByteArray) (h : Rd w b t k bs e at')
    (hL : ∀ w, Calls Try.prog 27 #[.agg #[.string t, .int .i64 k, .int .i64 bs, .int .i64 e, .int .i64 at']] w fun e2 w' => e2 = .returned (.int .i64 l) ∧ Below w.heap.size w w')
    (hM : ∀ w, Calls Try.prog 40 #[.agg #[.string t, .int .i64 k, .int .i64 bs, .int .i64 e, .int .i64 at'], .int .i64 l] w fun e2 w' => e2 = .returned (.tuple #[.agg #[.string t, .int .i64 k', .int .i64 bs, .int .i64 e', .int .i64 a'], .string s]) ∧ Below w.heap.size w w')
    (hP : ∀ w, Rd w b t k bs e at' → Calls Try.prog 33 #[.pointer (some ⟨b, 0, none⟩)] w fun e2 w' => e2 = .returned (.string s) ∧ Rd w' b t k' bs e' a' ∧ Upd b w w') :
    Calls Try.prog 26 #[.pointer (some ⟨b, 0, none⟩), .agg #[.string t, .int .i64 k, .int .i64 bs, .int .i64 e, .int .i64 at'], .agg #[.int .i64 1, .int .i64 on, .int .i64 oc, .string os]] w fun e2 w' => e2 = .returned (.tuple #[.agg #[.string t, .int .i64 k', .int .i64 bs, .int .i64 e', .int .i64 a'], .bool true]) ∧ Rd w' b t k' bs e' a' ∧ Upd b w w' := by
  have HL := Lib.hid hL; have HM := Lib.hid hM; have HP := Lib.hid hP; have H := Lib.hid h
  have hlt := h.lt
  clear hL hM hP h
  have F0 := Lib.hid (Fr.new H.out 1 on oc os)
  go_enter Try.func26, Try.ntmps26
  go_upto_region 6 with fail
  go_cut [10, 11] (fun s10 s11 wx => ∃ X : Nat, s10 = .pointer (some ⟨X, 0, none⟩) ∧ s11 = .string s ∧ Mid w wx X b t k bs e at' k' e' a' 1 on oc os)
  case first =>
    generalize hW : (((w.alloc (.cells #[.string t, .int .i64 k, .int .i64 bs, .int .i64 e, .int .i64 at'] 43)).alloc (.cells #[.int .i64 1, .int .i64 on, .int .i64 oc, .string os] 45)).alloc (.cells #[.string ⟨#[]⟩, .int .i64 0, .int .i64 0, .int .i64 0, .int .i64 0] 43)) = W at *
    clear hW
    have F1 := Lib.hid (F0.out.below ((Below.refl _ W).drew))
    obtain ⟨_, m0, m1, m2, m3, m4, mf⟩ := F0.out.m; obtain ⟨_, o0, o1, o2, o3⟩ := F0.out.o
    go_region_held3 (fun w' => w'.cell? ⟨w.heap.size, 0, none⟩ = some (.string t) ∧ w'.cell? ⟨w.heap.size, 1, none⟩ = some (.int .i64 k) ∧ w'.cell? ⟨w.heap.size, 2, none⟩ = some (.int .i64 bs) ∧ w'.cell? ⟨w.heap.size, 3, none⟩ = some (.int .i64 e) ∧ w'.cell? ⟨w.heap.size, 4, none⟩ = some (.int .i64 at') ∧ w'.cell? ⟨w.heap.size + 1, 1, none⟩ = some (.int .i64 on)) (go_keep) (first
      | (go_at_call 27; refine (HL.out _).mono ?_; rintro e1 w1 ⟨rfl, hb1⟩; first | (have F2 := Lib.hid (F1.out.below (by with_reducible exact hb1)); obtain ⟨_, m0, m1, m2, m3, m4, mf⟩ := F2.out.m; obtain ⟨_, o0, o1, o2, o3⟩ := F2.out.o) | (have F2 := Lib.hid ((F1.out.below ((Below.refl _ _).alloc (Nat.le_refl _) (.cells #[.string ⟨#[]⟩, .int .i64 0, .int .i64 0, .int .i64 0, .int .i64 0] 43))).below hb1); have Z2 : Hid (Mb w1 W.heap.size ⟨#[]⟩ 0 0 0 0) := Lib.hid ((mb_new W.drew ⟨#[]⟩ 0 0 0 0).below hb1 (by simp)); obtain ⟨_, m0, m1, m2, m3, m4, mf⟩ := F2.out.m; obtain ⟨_, o0, o1, o2, o3⟩ := F2.out.o; obtain ⟨_, z0, z1, z2, z3, z4, zf⟩ := Z2.out))
      | (go_at_call 40; refine (HM.out _).mono ?_; rintro e1 w2 ⟨rfl, hb2⟩; first | (have F3 := Lib.hid (F2.out.below (by with_reducible exact hb2)); have Z3 := Lib.hid (Z2.out.below (by with_reducible exact hb2) Z2.out.lt); have gW := F0.out.r.lt; obtain ⟨_, m0, m1, m2, m3, m4, mf⟩ := F3.out.m; obtain ⟨_, o0, o1, o2, o3⟩ := F3.out.o; obtain ⟨_, z0, z1, z2, z3, z4, zf⟩ := Z3.out; have y0 : ¬ W.heap.size = w.heap.size := (by omega); have y1 : ¬ W.heap.size = w.heap.size + 1 := (by omega); have y2 : ¬ w.heap.size = W.heap.size := (by omega); have y3 : ¬ w.heap.size + 1 = W.heap.size := (by omega)) | (have F3 := Lib.hid (F2.out.below (by with_reducible exact hb2)); obtain ⟨_, m0, m1, m2, m3, m4, mf⟩ := F3.out.m; obtain ⟨_, o0, o1, o2, o3⟩ := F3.out.o) | (have F3 := Lib.hid ((F2.out.below ((Below.refl _ _).alloc (Nat.le_refl _) (.cells #[.string ⟨#[]⟩, .int .i64 0, .int .i64 0, .int .i64 0, .int .i64 0] 43))).below hb2); have Z3 := Lib.hid ((mb_new w1 ⟨#[]⟩ 0 0 0 0).below hb2 (by simp)); have gW := F2.out.r.lt; obtain ⟨_, m0, m1, m2, m3, m4, mf⟩ := F3.out.m; obtain ⟨_, o0, o1, o2, o3⟩ := F3.out.o; obtain ⟨_, z0, z1, z2, z3, z4, zf⟩ := Z3.out; have y0 : ¬ w1.heap.size = w.heap.size := (by omega); have y1 : ¬ w1.heap.size = w.heap.size + 1 := (by omega); have y2 : ¬ w.heap.size = w1.heap.size := (by omega); have y3 : ¬ w.heap.size + 1 = w1.heap.size := (by omega))))
    all_goals go_wp2_with fail
    all_goals go_meet
    all_goals first | (with_reducible exact ⟨_, rfl, rfl, Mid.late F3.out _ _ _⟩) | (with_reducible exact ⟨_, rfl, rfl, Mid.soon F3.out Z3.out gW hlt _ _ _⟩)
  case rest =>
    obtain ⟨X, rfl, rfl, hmid⟩ := hcut
    have hX : w.heap.size + 1 + 1 < X := hmid.gt; have hXb : X ≠ b := (by omega); have hOb : w.heap.size + 1 ≠ b := (by omega); have hXR : ¬ X = w.heap.size + 1 + 1 := (by omega); have hXR' : ¬ w.heap.size + 1 + 1 = X := (by omega); have hbR : b ≠ w.heap.size + 1 + 1 := (by omega); have hRb : w.heap.size + 1 + 1 ≠ b := (by omega); have F3 := Lib.hid (hmid.fr.below ((Below.refl _ wc).drew)); have X3 := Lib.hid (hmid.x.below ((Below.refl _ wc).drew) hmid.x.lt); obtain ⟨_, x0, x1, x2, x3, x4, xf⟩ := hmid.x; obtain ⟨_, o0, o1, o2, o3⟩ := hmid.fr.o; obtain ⟨_, r0, r1, r2, r3, r4, rf⟩ := hmid.fr.r; clear hmid
    go_wp2_with fail
    go_region_held3 (fun w' => w'.cell? ⟨X, 0, none⟩ = some (.string t) ∧ w'.cell? ⟨X, 1, none⟩ = some (.int .i64 k') ∧ w'.cell? ⟨X, 2, none⟩ = some (.int .i64 bs) ∧ w'.cell? ⟨X, 3, none⟩ = some (.int .i64 e') ∧ w'.cell? ⟨X, 4, none⟩ = some (.int .i64 a') ∧ w'.cell? ⟨w.heap.size + 1, 1, none⟩ = some (.int .i64 on)) (go_keep) (first | (go_at_call 33; refine (HP.out _ F3.out.rd).mono ?_; rintro e2 w2 ⟨rfl, hR, hU⟩; obtain ⟨_, o0, o1, o2, o3⟩ := F3.out.o.upd hU hOb; obtain ⟨_, x0, x1, x2, x3, x4, xf⟩ := X3.out.upd hU hXb; obtain ⟨_, r0, r1, r2, r3, r4, rf⟩ := F3.out.r.upd hU hRb))
    all_goals
      go_wp2
      refine bodyPost_ret (v := .tuple #[.agg #[.string t, .int .i64 k', .int .i64 bs, .int .i64 e', .int .i64 a'], .bool true]) (by simp [results, Try.results26, go_sem, r0, r1, r2, r3, r4]) rfl ⟨rfl, ?_, ?_⟩
      · exact hR.upd (by repeat (first | (with_reducible exact Upd.refl _ _) | (with_reducible refine Upd.setCell ?_ _ _) | (with_reducible refine Upd.drew ?_))) hbR
      · exact ((Upd.of F3.out.bel (Nat.le_refl _)).trans hU).newer (c := w.heap.size + 1 + 1) (by repeat (first | (with_reducible exact Upd.refl _ _) | (with_reducible refine Upd.setCell ?_ _ _) | (with_reducible refine Upd.drew ?_))) (by omega)
end Go.Proofs.Ytkhcmgnempjjcaa
