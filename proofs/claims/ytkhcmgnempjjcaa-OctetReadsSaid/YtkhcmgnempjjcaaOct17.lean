/- One thing read, by the program and by the document (do): contracts. -/
import Derived.Test.YtkhcmgnempjjcaaOct16
import Derived.Deep.RegionHeld3
namespace Go.Proofs.Ytkhcmgnempjjcaa
open Go.RowKit Go.PlainAid
set_option linter.unusedVariables false
set_option maxRecDepth 100000 in
set_option maxHeartbeats 1000000 in
theorem do_safe (w : World) (b : Nat) (t : ByteArray) (k bs e at' k' e' a' on oc : Int) (os : ByteArray) (v : Int) (h : Rd w b t k bs e at')
    (hM : ∀ w, Calls Try.prog 43 #[.agg #[.string t, .int .i64 k, .int .i64 bs, .int .i64 e, .int .i64 at']] w fun e2 w' => e2 = .returned (.tuple #[.agg #[.string t, .int .i64 k', .int .i64 bs, .int .i64 e', .int .i64 a'], .int .i64 v]) ∧ Below w.heap.size w w')
    (hP : ∀ w, Rd w b t k bs e at' → Calls Try.prog 24 #[.pointer (some ⟨b, 0, none⟩)] w fun e2 w' => e2 = .returned (.int .i64 v) ∧ Rd w' b t k' bs e' a' ∧ Upd b w w') :
    Calls Try.prog 26 #[.pointer (some ⟨b, 0, none⟩), .agg #[.string t, .int .i64 k, .int .i64 bs, .int .i64 e, .int .i64 at'], .agg #[.int .i64 5, .int .i64 on, .int .i64 oc, .string os]] w fun e2 w' => e2 = .returned (.tuple #[.agg #[.string t, .int .i64 k', .int .i64 bs, .int .i64 e', .int .i64 a'], .bool true]) ∧ Rd w' b t k' bs e' a' ∧ Upd b w w' := by
  have HM := Lib.hid hM; have HP := Lib.hid hP; have H := Lib.hid h
  have hlt := h.lt
  clear hM hP h
  go_enter Try.func26, Try.ntmps26
  have F0 := Lib.hid (Fr.new H.out 5 on oc os)
  go_wp2_with (go_at_call 43; refine (HM.out _).mono ?_; rintro e1 w1 ⟨rfl, hb1⟩; have F1 := Lib.hid (F0.out.below hb1))
  have F2 := Lib.hid (F1.out.below ((Below.refl _ _).alloc (Nat.le_refl _) (.cells #[.string t, .int .i64 k', .int .i64 bs, .int .i64 e', .int .i64 a'] 43)))
  have X2 := Lib.hid (mb_new w1 t k' bs e' a')
  have hX : w.heap.size + 1 + 1 < w1.heap.size := F1.out.r.lt
  generalize hW : w1.alloc (.cells #[.string t, .int .i64 k', .int .i64 bs, .int .i64 e', .int .i64 a'] 43) = W at *
  obtain ⟨X, hXe⟩ : ∃ X, X = w1.heap.size := ⟨_, rfl⟩
  rw [← hXe] at X2 hX ⊢
  clear hW hXe F0 F1 hb1
  obtain ⟨_, x0, x1, x2, x3, x4, xf⟩ := X2.out
  obtain ⟨_, o0, o1, o2, o3⟩ := F2.out.o
  obtain ⟨_, r0, r1, r2, r3, r4, rf⟩ := F2.out.r
  have hXb : X ≠ b := by omega
  have hOb : w.heap.size + 1 ≠ b := by omega
  have hXR : ¬ X = w.heap.size + 1 + 1 := by omega
  have hXR' : ¬ w.heap.size + 1 + 1 = X := by omega
  have hbR : b ≠ w.heap.size + 1 + 1 := by omega
  have hRb : w.heap.size + 1 + 1 ≠ b := by omega
  have F3 := Lib.hid (F2.out.below ((Below.refl _ W).drew))
  have X3 := Lib.hid (X2.out.below ((Below.refl _ W).drew) X2.out.lt)
  go_region_held3 (fun w' => w'.cell? ⟨X, 0, none⟩ = some (.string t) ∧ w'.cell? ⟨X, 1, none⟩ = some (.int .i64 k') ∧ w'.cell? ⟨X, 2, none⟩ = some (.int .i64 bs) ∧ w'.cell? ⟨X, 3, none⟩ = some (.int .i64 e') ∧ w'.cell? ⟨X, 4, none⟩ = some (.int .i64 a') ∧ w'.cell? ⟨w.heap.size + 1, 1, none⟩ = some (.int .i64 on) ∧ w'.cell? ⟨w.heap.size + 1, 3, none⟩ = some (.string os)) (go_keep) (first | (go_at_call 24; refine (HP.out _ F3.out.rd).mono ?_; rintro e2 w2 ⟨rfl, hR, hU⟩; obtain ⟨_, o0, o1, o2, o3⟩ := F3.out.o.upd hU hOb; obtain ⟨_, x0, x1, x2, x3, x4, xf⟩ := X3.out.upd hU hXb; obtain ⟨_, r0, r1, r2, r3, r4, rf⟩ := F3.out.r.upd hU hRb))
  all_goals
    go_wp2
    refine bodyPost_ret (v := .tuple #[.agg #[.string t, .int .i64 k', .int .i64 bs, .int .i64 e', .int .i64 a'], .bool true]) (by simp [results, Try.results26, go_sem, r0, r1, r2, r3, r4]) rfl ⟨rfl, ?_, ?_⟩
    · exact hR.upd (by repeat (first | (with_reducible exact Upd.refl _ _) | (with_reducible refine Upd.setCell ?_ _ _) | (with_reducible refine Upd.drew ?_))) hbR
    · exact ((Upd.of F3.out.bel (Nat.le_refl _)).trans hU).newer (c := w.heap.size + 1 + 1) (by repeat (first | (with_reducible exact Upd.refl _ _) | (with_reducible refine Upd.setCell ?_ _ _) | (with_reducible refine Upd.drew ?_))) (by omega)
set_option maxRecDepth 100000 in
set_option maxHeartbeats 1000000 in
theorem do_want (w : World) (b : Nat) (t : ByteArray) (k bs e at' k' e' a' on oc : Int) (os : ByteArray) (v : Bool) (h : Rd w b t k bs e at')
    (hM : ∀ w, Calls Try.prog 44 #[.agg #[.string t, .int .i64 k, .int .i64 bs, .int .i64 e, .int .i64 at'], .string os] w fun e2 w' => e2 = .returned (.tuple #[.agg #[.string t, .int .i64 k', .int .i64 bs, .int .i64 e', .int .i64 a'], .bool v]) ∧ Below w.heap.size w w')
    (hP : ∀ w, Rd w b t k bs e at' → Calls Try.prog 30 #[.pointer (some ⟨b, 0, none⟩), .string os] w fun e2 w' => e2 = .returned (.bool v) ∧ Rd w' b t k' bs e' a' ∧ Upd b w w') :
    Calls Try.prog 26 #[.pointer (some ⟨b, 0, none⟩), .agg #[.string t, .int .i64 k, .int .i64 bs, .int .i64 e, .int .i64 at'], .agg #[.int .i64 6, .int .i64 on, .int .i64 oc, .string os]] w fun e2 w' => e2 = .returned (.tuple #[.agg #[.string t, .int .i64 k', .int .i64 bs, .int .i64 e', .int .i64 a'], .bool true]) ∧ Rd w' b t k' bs e' a' ∧ Upd b w w' := by
  have HM := Lib.hid hM; have HP := Lib.hid hP; have H := Lib.hid h
  have hlt := h.lt
  clear hM hP h
  go_enter Try.func26, Try.ntmps26
  have F0 := Lib.hid (Fr.new H.out 6 on oc os)
  go_wp2_with (go_at_call 44; refine (HM.out _).mono ?_; rintro e1 w1 ⟨rfl, hb1⟩; have F1 := Lib.hid (F0.out.below hb1))
  have F2 := Lib.hid (F1.out.below ((Below.refl _ _).alloc (Nat.le_refl _) (.cells #[.string t, .int .i64 k', .int .i64 bs, .int .i64 e', .int .i64 a'] 43)))
  have X2 := Lib.hid (mb_new w1 t k' bs e' a')
  have hX : w.heap.size + 1 + 1 < w1.heap.size := F1.out.r.lt
  generalize hW : w1.alloc (.cells #[.string t, .int .i64 k', .int .i64 bs, .int .i64 e', .int .i64 a'] 43) = W at *
  obtain ⟨X, hXe⟩ : ∃ X, X = w1.heap.size := ⟨_, rfl⟩
  rw [← hXe] at X2 hX ⊢
  clear hW hXe F0 F1 hb1
  obtain ⟨_, x0, x1, x2, x3, x4, xf⟩ := X2.out
  obtain ⟨_, o0, o1, o2, o3⟩ := F2.out.o
  obtain ⟨_, r0, r1, r2, r3, r4, rf⟩ := F2.out.r
  have hXb : X ≠ b := by omega
  have hOb : w.heap.size + 1 ≠ b := by omega
  have hXR : ¬ X = w.heap.size + 1 + 1 := by omega
  have hXR' : ¬ w.heap.size + 1 + 1 = X := by omega
  have hbR : b ≠ w.heap.size + 1 + 1 := by omega
  have hRb : w.heap.size + 1 + 1 ≠ b := by omega
  have F3 := Lib.hid (F2.out.below ((Below.refl _ W).drew))
  have X3 := Lib.hid (X2.out.below ((Below.refl _ W).drew) X2.out.lt)
  go_region_held3 (fun w' => w'.cell? ⟨X, 0, none⟩ = some (.string t) ∧ w'.cell? ⟨X, 1, none⟩ = some (.int .i64 k') ∧ w'.cell? ⟨X, 2, none⟩ = some (.int .i64 bs) ∧ w'.cell? ⟨X, 3, none⟩ = some (.int .i64 e') ∧ w'.cell? ⟨X, 4, none⟩ = some (.int .i64 a') ∧ w'.cell? ⟨w.heap.size + 1, 1, none⟩ = some (.int .i64 on) ∧ w'.cell? ⟨w.heap.size + 1, 3, none⟩ = some (.string os)) (go_keep) (first | (go_at_call 30; refine (HP.out _ F3.out.rd).mono ?_; rintro e2 w2 ⟨rfl, hR, hU⟩; obtain ⟨_, o0, o1, o2, o3⟩ := F3.out.o.upd hU hOb; obtain ⟨_, x0, x1, x2, x3, x4, xf⟩ := X3.out.upd hU hXb; obtain ⟨_, r0, r1, r2, r3, r4, rf⟩ := F3.out.r.upd hU hRb))
  all_goals
    go_wp2
    refine bodyPost_ret (v := .tuple #[.agg #[.string t, .int .i64 k', .int .i64 bs, .int .i64 e', .int .i64 a'], .bool true]) (by simp [results, Try.results26, go_sem, r0, r1, r2, r3, r4]) rfl ⟨rfl, ?_, ?_⟩
    · exact hR.upd (by repeat (first | (with_reducible exact Upd.refl _ _) | (with_reducible refine Upd.setCell ?_ _ _) | (with_reducible refine Upd.drew ?_))) hbR
    · exact ((Upd.of F3.out.bel (Nat.le_refl _)).trans hU).newer (c := w.heap.size + 1 + 1) (by repeat (first | (with_reducible exact Upd.refl _ _) | (with_reducible refine Upd.setCell ?_ _ _) | (with_reducible refine Upd.drew ?_))) (by omega)
set_option maxRecDepth 100000 in
set_option maxHeartbeats 1000000 in
theorem do_until (w : World) (b : Nat) (t : ByteArray) (k bs e at' k' e' a' on oc : Int) (os s : ByteArray) (h : Rd w b t k bs e at')
    (hM : ∀ w, Calls Try.prog 45 #[.agg #[.string t, .int .i64 k, .int .i64 bs, .int .i64 e, .int .i64 at'], .string os] w fun e2 w' => e2 = .returned (.tuple #[.agg #[.string t, .int .i64 k', .int .i64 bs, .int .i64 e', .int .i64 a'], .string s]) ∧ Below w.heap.size w w')
    (hP : ∀ w, Rd w b t k bs e at' → Calls Try.prog 35 #[.pointer (some ⟨b, 0, none⟩), .string os] w fun e2 w' => e2 = .returned (.string s) ∧ Rd w' b t k' bs e' a' ∧ Upd b w w') :
    Calls Try.prog 26 #[.pointer (some ⟨b, 0, none⟩), .agg #[.string t, .int .i64 k, .int .i64 bs, .int .i64 e, .int .i64 at'], .agg #[.int .i64 7, .int .i64 on, .int .i64 oc, .string os]] w fun e2 w' => e2 = .returned (.tuple #[.agg #[.string t, .int .i64 k', .int .i64 bs, .int .i64 e', .int .i64 a'], .bool true]) ∧ Rd w' b t k' bs e' a' ∧ Upd b w w' := by
  have HM := Lib.hid hM; have HP := Lib.hid hP; have H := Lib.hid h
  have hlt := h.lt
  clear hM hP h
  go_enter Try.func26, Try.ntmps26
  have F0 := Lib.hid (Fr.new H.out 7 on oc os)
  go_wp2_with (go_at_call 45; refine (HM.out _).mono ?_; rintro e1 w1 ⟨rfl, hb1⟩; have F1 := Lib.hid (F0.out.below hb1))
  have F2 := Lib.hid (F1.out.below ((Below.refl _ _).alloc (Nat.le_refl _) (.cells #[.string t, .int .i64 k', .int .i64 bs, .int .i64 e', .int .i64 a'] 43)))
  have X2 := Lib.hid (mb_new w1 t k' bs e' a')
  have hX : w.heap.size + 1 + 1 < w1.heap.size := F1.out.r.lt
  generalize hW : w1.alloc (.cells #[.string t, .int .i64 k', .int .i64 bs, .int .i64 e', .int .i64 a'] 43) = W at *
  obtain ⟨X, hXe⟩ : ∃ X, X = w1.heap.size := ⟨_, rfl⟩
  rw [← hXe] at X2 hX ⊢
  clear hW hXe F0 F1 hb1
  obtain ⟨_, x0, x1, x2, x3, x4, xf⟩ := X2.out
  obtain ⟨_, o0, o1, o2, o3⟩ := F2.out.o
  obtain ⟨_, r0, r1, r2, r3, r4, rf⟩ := F2.out.r
  have hXb : X ≠ b := by omega
  have hOb : w.heap.size + 1 ≠ b := by omega
  have hXR : ¬ X = w.heap.size + 1 + 1 := by omega
  have hXR' : ¬ w.heap.size + 1 + 1 = X := by omega
  have hbR : b ≠ w.heap.size + 1 + 1 := by omega
  have hRb : w.heap.size + 1 + 1 ≠ b := by omega
  have F3 := Lib.hid (F2.out.below ((Below.refl _ W).drew))
  have X3 := Lib.hid (X2.out.below ((Below.refl _ W).drew) X2.out.lt)
  go_region_held3 (fun w' => w'.cell? ⟨X, 0, none⟩ = some (.string t) ∧ w'.cell? ⟨X, 1, none⟩ = some (.int .i64 k') ∧ w'.cell? ⟨X, 2, none⟩ = some (.int .i64 bs) ∧ w'.cell? ⟨X, 3, none⟩ = some (.int .i64 e') ∧ w'.cell? ⟨X, 4, none⟩ = some (.int .i64 a') ∧ w'.cell? ⟨w.heap.size + 1, 1, none⟩ = some (.int .i64 on) ∧ w'.cell? ⟨w.heap.size + 1, 3, none⟩ = some (.string os)) (go_keep) (first | (go_at_call 35; refine (HP.out _ F3.out.rd).mono ?_; rintro e2 w2 ⟨rfl, hR, hU⟩; obtain ⟨_, o0, o1, o2, o3⟩ := F3.out.o.upd hU hOb; obtain ⟨_, x0, x1, x2, x3, x4, xf⟩ := X3.out.upd hU hXb; obtain ⟨_, r0, r1, r2, r3, r4, rf⟩ := F3.out.r.upd hU hRb))
  all_goals
    go_wp2
    refine bodyPost_ret (v := .tuple #[.agg #[.string t, .int .i64 k', .int .i64 bs, .int .i64 e', .int .i64 a'], .bool true]) (by simp [results, Try.results26, go_sem, r0, r1, r2, r3, r4]) rfl ⟨rfl, ?_, ?_⟩
    · exact hR.upd (by repeat (first | (with_reducible exact Upd.refl _ _) | (with_reducible refine Upd.setCell ?_ _ _) | (with_reducible refine Upd.drew ?_))) hbR
    · exact ((Upd.of F3.out.bel (Nat.le_refl _)).trans hU).newer (c := w.heap.size + 1 + 1) (by repeat (first | (with_reducible exact Upd.refl _ _) | (with_reducible refine Upd.setCell ?_ _ _) | (with_reducible refine Upd.drew ?_))) (by omega)
end Go.Proofs.Ytkhcmgnempjjcaa
