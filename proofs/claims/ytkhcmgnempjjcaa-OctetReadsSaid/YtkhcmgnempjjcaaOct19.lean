/- One thing read, by the program and by the document (do): numbers, a look, a fault, nothing: contracts. -/
import Derived.Test.YtkhcmgnempjjcaaOct18
namespace Go.Proofs.Ytkhcmgnempjjcaa
open Go.RowKit Go.PlainAid
set_option linter.unusedVariables false
set_option maxRecDepth 100000 in
set_option maxHeartbeats 1000000 in
theorem do_big (w : World) (b : Nat) (t : ByteArray) (k bs e at' k' e' a' on oc l V : Int) (os s : ByteArray) (h : Rd w b t k bs e at')
    (hL : ∀ w, Calls Try.prog 13 #[.int .i64 on] w fun e2 w' => e2 = .returned (.int .i64 l) ∧ w = w')
    (hM : ∀ w, Calls Try.prog 40 #[.agg #[.string t, .int .i64 k, .int .i64 bs, .int .i64 e, .int .i64 at'], .int .i64 l] w fun e2 w' => e2 = .returned (.tuple #[.agg #[.string t, .int .i64 k', .int .i64 bs, .int .i64 e', .int .i64 a'], .string s]) ∧ Below w.heap.size w w')
    (hN : ∀ w, Calls Try.prog 42 #[.string s] w fun e2 w' => e2 = .returned (.int .u64 V) ∧ w = w')
    (hP : ∀ w, Rd w b t k bs e at' → Calls Try.prog 17 #[.pointer (some ⟨b, 0, none⟩), .int .i64 on] w fun e2 w' => e2 = .returned (.int .u64 V) ∧ Rd w' b t k' bs e' a' ∧ Upd b w w') :
    Calls Try.prog 26 #[.pointer (some ⟨b, 0, none⟩), .agg #[.string t, .int .i64 k, .int .i64 bs, .int .i64 e, .int .i64 at'], .agg #[.int .i64 3, .int .i64 on, .int .i64 oc, .string os]] w fun e2 w' => e2 = .returned (.tuple #[.agg #[.string t, .int .i64 k', .int .i64 bs, .int .i64 e', .int .i64 a'], .bool true]) ∧ Rd w' b t k' bs e' a' ∧ Upd b w w' := by
  have HL := Lib.hid hL; have HM := Lib.hid hM; have HN := Lib.hid hN; have HP := Lib.hid hP; have H := Lib.hid h
  
  have hlt := h.lt
  clear hL hM hN hP h
  have F0 := Lib.hid (Fr.new H.out 3 on oc os)
  go_enter Try.func26, Try.ntmps26
  go_upto_region 11 with fail
  go_cut [12, 13] (fun s10 s11 wx => ∃ X : Nat, s10 = .pointer (some ⟨X, 0, none⟩) ∧ s11 = .string s ∧ Mid w wx X b t k bs e at' k' e' a' 3 on oc os)
  case first =>
    generalize hW : (((w.alloc (.cells #[.string t, .int .i64 k, .int .i64 bs, .int .i64 e, .int .i64 at'] 43)).alloc (.cells #[.int .i64 3, .int .i64 on, .int .i64 oc, .string os] 45)).alloc (.cells #[.string ⟨#[]⟩, .int .i64 0, .int .i64 0, .int .i64 0, .int .i64 0] 43)) = W at *
    clear hW
    have F1 := Lib.hid (F0.out.below ((Below.refl _ W).drew))
    obtain ⟨_, m0, m1, m2, m3, m4, mf⟩ := F0.out.m; obtain ⟨_, o0, o1, o2, o3⟩ := F0.out.o
    go_region_held3 (fun w' => w'.cell? ⟨w.heap.size, 0, none⟩ = some (.string t) ∧ w'.cell? ⟨w.heap.size, 1, none⟩ = some (.int .i64 k) ∧ w'.cell? ⟨w.heap.size, 2, none⟩ = some (.int .i64 bs) ∧ w'.cell? ⟨w.heap.size, 3, none⟩ = some (.int .i64 e) ∧ w'.cell? ⟨w.heap.size, 4, none⟩ = some (.int .i64 at') ∧ w'.cell? ⟨w.heap.size + 1, 1, none⟩ = some (.int .i64 on)) (go_keep) (first
      | (go_at_call 13; refine (HL.out _).mono ?_; rintro e1 w1 ⟨rfl, rfl⟩)
      | (go_at_call 40; refine (HM.out _).mono ?_; rintro e1 w2 ⟨rfl, hb2⟩; first | (have F3 := Lib.hid (F1.out.below (by with_reducible exact hb2)); obtain ⟨_, m0, m1, m2, m3, m4, mf⟩ := F3.out.m; obtain ⟨_, o0, o1, o2, o3⟩ := F3.out.o) | (have F3 := Lib.hid ((F1.out.below ((Below.refl _ _).alloc (Nat.le_refl _) (.cells #[.string ⟨#[]⟩, .int .i64 0, .int .i64 0, .int .i64 0, .int .i64 0] 43))).below hb2); have Z3 : Hid (Mb w2 W.heap.size ⟨#[]⟩ 0 0 0 0) := Lib.hid ((mb_new W.drew ⟨#[]⟩ 0 0 0 0).below hb2 (by simp)); have gW := F0.out.r.lt; obtain ⟨_, m0, m1, m2, m3, m4, mf⟩ := F3.out.m; obtain ⟨_, o0, o1, o2, o3⟩ := F3.out.o; obtain ⟨_, z0, z1, z2, z3, z4, zf⟩ := Z3.out; have y0 : ¬ W.heap.size = w.heap.size := (by omega); have y1 : ¬ W.heap.size = w.heap.size + 1 := (by omega); have y2 : ¬ w.heap.size = W.heap.size := (by omega); have y3 : ¬ w.heap.size + 1 = W.heap.size := (by omega))))
    all_goals go_wp2_with fail
    all_goals go_meet
    all_goals first | (with_reducible exact ⟨_, rfl, rfl, Mid.late F3.out _ _ _⟩) | (with_reducible exact ⟨_, rfl, rfl, Mid.soon F3.out Z3.out gW hlt _ _ _⟩)
  case rest =>
    obtain ⟨X, rfl, rfl, hmid⟩ := hcut
    have hX : w.heap.size + 1 + 1 < X := hmid.gt; have hXb : X ≠ b := (by omega); have hOb : w.heap.size + 1 ≠ b := (by omega); have hXR : ¬ X = w.heap.size + 1 + 1 := (by omega); have hXR' : ¬ w.heap.size + 1 + 1 = X := (by omega); have hbR : b ≠ w.heap.size + 1 + 1 := (by omega); have hRb : w.heap.size + 1 + 1 ≠ b := (by omega); have F3 := Lib.hid (hmid.fr.below ((Below.refl _ wc).drew)); have X3 := Lib.hid (hmid.x.below ((Below.refl _ wc).drew) hmid.x.lt); obtain ⟨_, x0, x1, x2, x3, x4, xf⟩ := hmid.x; obtain ⟨_, o0, o1, o2, o3⟩ := hmid.fr.o; obtain ⟨_, r0, r1, r2, r3, r4, rf⟩ := hmid.fr.r; clear hmid
    go_wp2_with fail
    go_region_held3 (fun w' => w'.cell? ⟨X, 0, none⟩ = some (.string t) ∧ w'.cell? ⟨X, 1, none⟩ = some (.int .i64 k') ∧ w'.cell? ⟨X, 2, none⟩ = some (.int .i64 bs) ∧ w'.cell? ⟨X, 3, none⟩ = some (.int .i64 e') ∧ w'.cell? ⟨X, 4, none⟩ = some (.int .i64 a') ∧ w'.cell? ⟨w.heap.size + 1, 1, none⟩ = some (.int .i64 on)) (go_keep) (first
      | (go_at_call 17; refine (HP.out _ F3.out.rd).mono ?_; rintro e2 w2 ⟨rfl, hR, hU⟩; obtain ⟨_, o0, o1, o2, o3⟩ := F3.out.o.upd hU hOb; obtain ⟨_, x0, x1, x2, x3, x4, xf⟩ := X3.out.upd hU hXb; obtain ⟨_, r0, r1, r2, r3, r4, rf⟩ := F3.out.r.upd hU hRb)
      | (go_at_call 42; refine (HN.out _).mono ?_; rintro e3 w3 ⟨rfl, rfl⟩))
    all_goals (go_wp2; refine bodyPost_ret (v := .tuple #[.agg #[.string t, .int .i64 k', .int .i64 bs, .int .i64 e', .int .i64 a'], .bool true]) (by simp [results, Try.results26, go_sem, r0, r1, r2, r3, r4]) rfl ⟨rfl, ?_, ?_⟩; exact hR.upd (by repeat (first | (with_reducible exact Upd.refl _ _) | (with_reducible refine Upd.setCell ?_ _ _) | (with_reducible refine Upd.drew ?_))) hbR; exact ((Upd.of F3.out.bel (Nat.le_refl _)).trans hU).newer (c := w.heap.size + 1 + 1) (by repeat (first | (with_reducible exact Upd.refl _ _) | (with_reducible refine Upd.setCell ?_ _ _) | (with_reducible refine Upd.drew ?_))) (by omega))
set_option maxRecDepth 100000 in
set_option maxHeartbeats 1000000 in
theorem do_small (w : World) (b : Nat) (t : ByteArray) (k bs e at' k' e' a' on oc l V : Int) (os s s2 : ByteArray) (h : Rd w b t k bs e at')
    (hL : ∀ w, Calls Try.prog 13 #[.int .i64 on] w fun e2 w' => e2 = .returned (.int .i64 l) ∧ w = w')
    (hM : ∀ w, Calls Try.prog 40 #[.agg #[.string t, .int .i64 k, .int .i64 bs, .int .i64 e, .int .i64 at'], .int .i64 l] w fun e2 w' => e2 = .returned (.tuple #[.agg #[.string t, .int .i64 k', .int .i64 bs, .int .i64 e', .int .i64 a'], .string s]) ∧ Below w.heap.size w w')
    (hB : ∀ w, Calls Try.prog 12 #[.string s] w fun e2 w' => e2 = .returned (.string s2) ∧ w = w')
    (hN : ∀ w, Calls Try.prog 42 #[.string s2] w fun e2 w' => e2 = .returned (.int .u64 V) ∧ w = w')
    (hP : ∀ w, Rd w b t k bs e at' → Calls Try.prog 18 #[.pointer (some ⟨b, 0, none⟩), .int .i64 on] w fun e2 w' => e2 = .returned (.int .u64 V) ∧ Rd w' b t k' bs e' a' ∧ Upd b w w') :
    Calls Try.prog 26 #[.pointer (some ⟨b, 0, none⟩), .agg #[.string t, .int .i64 k, .int .i64 bs, .int .i64 e, .int .i64 at'], .agg #[.int .i64 4, .int .i64 on, .int .i64 oc, .string os]] w fun e2 w' => e2 = .returned (.tuple #[.agg #[.string t, .int .i64 k', .int .i64 bs, .int .i64 e', .int .i64 a'], .bool true]) ∧ Rd w' b t k' bs e' a' ∧ Upd b w w' := by
  have HL := Lib.hid hL; have HM := Lib.hid hM; have HN := Lib.hid hN; have HP := Lib.hid hP; have H := Lib.hid h
  have HB := Lib.hid hB
  have hlt := h.lt
  clear hL hM hN hP h hB
  have F0 := Lib.hid (Fr.new H.out 4 on oc os)
  go_enter Try.func26, Try.ntmps26
  go_upto_region 14 with fail
  go_cut [14, 15] (fun s10 s11 wx => ∃ X : Nat, s10 = .pointer (some ⟨X, 0, none⟩) ∧ s11 = .string s ∧ Mid w wx X b t k bs e at' k' e' a' 4 on oc os)
  case first =>
    generalize hW : (((w.alloc (.cells #[.string t, .int .i64 k, .int .i64 bs, .int .i64 e, .int .i64 at'] 43)).alloc (.cells #[.int .i64 4, .int .i64 on, .int .i64 oc, .string os] 45)).alloc (.cells #[.string ⟨#[]⟩, .int .i64 0, .int .i64 0, .int .i64 0, .int .i64 0] 43)) = W at *
    clear hW
    have F1 := Lib.hid (F0.out.below ((Below.refl _ W).drew))
    obtain ⟨_, m0, m1, m2, m3, m4, mf⟩ := F0.out.m; obtain ⟨_, o0, o1, o2, o3⟩ := F0.out.o
    go_region_held3 (fun w' => w'.cell? ⟨w.heap.size, 0, none⟩ = some (.string t) ∧ w'.cell? ⟨w.heap.size, 1, none⟩ = some (.int .i64 k) ∧ w'.cell? ⟨w.heap.size, 2, none⟩ = some (.int .i64 bs) ∧ w'.cell? ⟨w.heap.size, 3, none⟩ = some (.int .i64 e) ∧ w'.cell? ⟨w.heap.size, 4, none⟩ = some (.int .i64 at') ∧ w'.cell? ⟨w.heap.size + 1, 1, none⟩ = some (.int .i64 on)) (go_keep) (first
      | (go_at_call 13; refine (HL.out _).mono ?_; rintro e1 w1 ⟨rfl, rfl⟩)
      | (go_at_call 40; refine (HM.out _).mono ?_; rintro e1 w2 ⟨rfl, hb2⟩; first | (have F3 := Lib.hid (F1.out.below (by with_reducible exact hb2)); obtain ⟨_, m0, m1, m2, m3, m4, mf⟩ := F3.out.m; obtain ⟨_, o0, o1, o2, o3⟩ := F3.out.o) | (have F3 := Lib.hid ((F1.out.below ((Below.refl _ _).alloc (Nat.le_refl _) (.cells #[.string ⟨#[]⟩, .int .i64 0, .int .i64 0, .int .i64 0, .int .i64 0] 43))).below hb2); have Z3 : Hid (Mb w2 W.heap.size ⟨#[]⟩ 0 0 0 0) := Lib.hid ((mb_new W.drew ⟨#[]⟩ 0 0 0 0).below hb2 (by simp)); have gW := F0.out.r.lt; obtain ⟨_, m0, m1, m2, m3, m4, mf⟩ := F3.out.m; obtain ⟨_, o0, o1, o2, o3⟩ := F3.out.o; obtain ⟨_, z0, z1, z2, z3, z4, zf⟩ := Z3.out; have y0 : ¬ W.heap.size = w.heap.size := (by omega); have y1 : ¬ W.heap.size = w.heap.size + 1 := (by omega); have y2 : ¬ w.heap.size = W.heap.size := (by omega); have y3 : ¬ w.heap.size + 1 = W.heap.size := (by omega))))
    all_goals go_wp2_with fail
    all_goals go_meet
    all_goals first | (with_reducible exact ⟨_, rfl, rfl, Mid.late F3.out _ _ _⟩) | (with_reducible exact ⟨_, rfl, rfl, Mid.soon F3.out Z3.out gW hlt _ _ _⟩)
  case rest =>
    obtain ⟨X, rfl, rfl, hmid⟩ := hcut
    have hX : w.heap.size + 1 + 1 < X := hmid.gt; have hXb : X ≠ b := (by omega); have hOb : w.heap.size + 1 ≠ b := (by omega); have hXR : ¬ X = w.heap.size + 1 + 1 := (by omega); have hXR' : ¬ w.heap.size + 1 + 1 = X := (by omega); have hbR : b ≠ w.heap.size + 1 + 1 := (by omega); have hRb : w.heap.size + 1 + 1 ≠ b := (by omega); have F3 := Lib.hid (hmid.fr.below ((Below.refl _ wc).drew)); have X3 := Lib.hid (hmid.x.below ((Below.refl _ wc).drew) hmid.x.lt); obtain ⟨_, x0, x1, x2, x3, x4, xf⟩ := hmid.x; obtain ⟨_, o0, o1, o2, o3⟩ := hmid.fr.o; obtain ⟨_, r0, r1, r2, r3, r4, rf⟩ := hmid.fr.r; clear hmid
    go_wp2_with fail
    go_region_held3 (fun w' => w'.cell? ⟨X, 0, none⟩ = some (.string t) ∧ w'.cell? ⟨X, 1, none⟩ = some (.int .i64 k') ∧ w'.cell? ⟨X, 2, none⟩ = some (.int .i64 bs) ∧ w'.cell? ⟨X, 3, none⟩ = some (.int .i64 e') ∧ w'.cell? ⟨X, 4, none⟩ = some (.int .i64 a') ∧ w'.cell? ⟨w.heap.size + 1, 1, none⟩ = some (.int .i64 on)) (go_keep) (first
      | (go_at_call 18; refine (HP.out _ F3.out.rd).mono ?_; rintro e2 w2 ⟨rfl, hR, hU⟩; obtain ⟨_, o0, o1, o2, o3⟩ := F3.out.o.upd hU hOb; obtain ⟨_, x0, x1, x2, x3, x4, xf⟩ := X3.out.upd hU hXb; obtain ⟨_, r0, r1, r2, r3, r4, rf⟩ := F3.out.r.upd hU hRb)
      | (go_at_call 42; refine (HN.out _).mono ?_; rintro e3 w3 ⟨rfl, rfl⟩) | (go_at_call 12; refine (HB.out _).mono ?_; rintro e3 w3 ⟨rfl, rfl⟩))
    all_goals (go_wp2; refine bodyPost_ret (v := .tuple #[.agg #[.string t, .int .i64 k', .int .i64 bs, .int .i64 e', .int .i64 a'], .bool true]) (by simp [results, Try.results26, go_sem, r0, r1, r2, r3, r4]) rfl ⟨rfl, ?_, ?_⟩; exact hR.upd (by repeat (first | (with_reducible exact Upd.refl _ _) | (with_reducible refine Upd.setCell ?_ _ _) | (with_reducible refine Upd.drew ?_))) hbR; exact ((Upd.of F3.out.bel (Nat.le_refl _)).trans hU).newer (c := w.heap.size + 1 + 1) (by repeat (first | (with_reducible exact Upd.refl _ _) | (with_reducible refine Upd.setCell ?_ _ _) | (with_reducible refine Upd.drew ?_))) (by omega))
set_option maxRecDepth 100000 in
set_option maxHeartbeats 1000000 in
theorem do_peek (w : World) (b : Nat) (t : ByteArray) (k bs e at' on oc : Int) (os s : ByteArray) (h : Rd w b t k bs e at')
    (hM : ∀ w, Calls Try.prog 41 #[.agg #[.string t, .int .i64 k, .int .i64 bs, .int .i64 e, .int .i64 at'], .int .i64 on] w fun e2 w' => e2 = .returned (.string s) ∧ Below w.heap.size w w')
    (hP : ∀ w, Rd w b t k bs e at' → Calls Try.prog 34 #[.pointer (some ⟨b, 0, none⟩), .int .i64 on] w fun e2 w' => e2 = .returned (.string s) ∧ Below w.heap.size w w') :
    Calls Try.prog 26 #[.pointer (some ⟨b, 0, none⟩), .agg #[.string t, .int .i64 k, .int .i64 bs, .int .i64 e, .int .i64 at'], .agg #[.int .i64 2, .int .i64 on, .int .i64 oc, .string os]] w fun e2 w' => e2 = .returned (.tuple #[.agg #[.string t, .int .i64 k, .int .i64 bs, .int .i64 e, .int .i64 at'], .bool true]) ∧ Rd w' b t k bs e at' ∧ Upd b w w' := by
  have HM := Lib.hid hM; have HP := Lib.hid hP; have H := Lib.hid h
  have hlt := h.lt
  clear hM hP h
  have F0 := Lib.hid (Fr.new H.out 2 on oc os)
  go_enter Try.func26, Try.ntmps26
  go_wp2_with fail
  generalize hW : (((w.alloc (.cells #[.string t, .int .i64 k, .int .i64 bs, .int .i64 e, .int .i64 at'] 43)).alloc (.cells #[.int .i64 2, .int .i64 on, .int .i64 oc, .string os] 45)).alloc (.cells #[.string ⟨#[]⟩, .int .i64 0, .int .i64 0, .int .i64 0, .int .i64 0] 43)) = W at *
  clear hW
  have F1 := Lib.hid (F0.out.below ((Below.refl _ W).drew))
  have hbR : b ≠ w.heap.size + 1 + 1 := by omega
  have y5 : ¬ w.heap.size = w.heap.size + 1 + 1 := by omega
  have y6 : ¬ w.heap.size + 1 + 1 = w.heap.size := by omega
  obtain ⟨_, m0, m1, m2, m3, m4, mf⟩ := F0.out.m; obtain ⟨_, o0, o1, o2, o3⟩ := F0.out.o
  obtain ⟨_, r0, r1, r2, r3, r4, rf⟩ := F0.out.r
  go_region_held3 (fun w' => w'.cell? ⟨w.heap.size, 0, none⟩ = some (.string t) ∧ w'.cell? ⟨w.heap.size, 1, none⟩ = some (.int .i64 k) ∧ w'.cell? ⟨w.heap.size, 2, none⟩ = some (.int .i64 bs) ∧ w'.cell? ⟨w.heap.size, 3, none⟩ = some (.int .i64 e) ∧ w'.cell? ⟨w.heap.size, 4, none⟩ = some (.int .i64 at') ∧ w'.cell? ⟨w.heap.size + 1, 1, none⟩ = some (.int .i64 on)) (go_keep) (first
    | (go_at_call 34; first | (refine (HP.out _ ?_).mono ?_; (with_reducible exact F1.out.rd); rintro e1 w1 ⟨rfl, hb1⟩; have F2 := Lib.hid (F1.out.below hb1); obtain ⟨_, m0, m1, m2, m3, m4, mf⟩ := F2.out.m; obtain ⟨_, o0, o1, o2, o3⟩ := F2.out.o; obtain ⟨_, r0, r1, r2, r3, r4, rf⟩ := F2.out.r) | (refine (HP.out _ ?_).mono ?_; (with_reducible exact F2.out.rd); rintro e1 w2 ⟨rfl, hb2⟩; have F3 := Lib.hid (F2.out.below hb2); obtain ⟨_, m0, m1, m2, m3, m4, mf⟩ := F3.out.m; obtain ⟨_, o0, o1, o2, o3⟩ := F3.out.o; obtain ⟨_, r0, r1, r2, r3, r4, rf⟩ := F3.out.r))
    | (go_at_call 41; refine (HM.out _).mono ?_; rintro e1 w1 ⟨rfl, hb1⟩; first | (have F2 := Lib.hid (F1.out.below (by with_reducible exact hb1)); obtain ⟨_, m0, m1, m2, m3, m4, mf⟩ := F2.out.m; obtain ⟨_, o0, o1, o2, o3⟩ := F2.out.o; obtain ⟨_, r0, r1, r2, r3, r4, rf⟩ := F2.out.r) | (have F3 := Lib.hid (F2.out.below (by with_reducible exact hb1)); obtain ⟨_, m0, m1, m2, m3, m4, mf⟩ := F3.out.m; obtain ⟨_, o0, o1, o2, o3⟩ := F3.out.o; obtain ⟨_, r0, r1, r2, r3, r4, rf⟩ := F3.out.r)))
  all_goals
    go_wp2
    refine bodyPost_ret (v := .tuple #[.agg #[.string t, .int .i64 k, .int .i64 bs, .int .i64 e, .int .i64 at'], .bool true]) (by simp [results, Try.results26, go_sem, r0, r1, r2, r3, r4]) rfl ⟨rfl, ?_, ?_⟩
    · exact F3.out.rd.upd (by repeat (first | (with_reducible exact Upd.refl _ _) | (with_reducible refine Upd.setCell ?_ _ _) | (with_reducible refine Upd.drew ?_))) hbR
    · exact (Upd.of F3.out.bel (Nat.le_refl _)).newer (c := w.heap.size + 1 + 1) (by repeat (first | (with_reducible exact Upd.refl _ _) | (with_reducible refine Upd.setCell ?_ _ _) | (with_reducible refine Upd.drew ?_))) (by omega)
set_option maxRecDepth 100000 in
theorem do_fail (w : World) (b : Nat) (t : ByteArray) (k bs e at' k' e' a' on oc : Int) (os : ByteArray) (h : Rd w b t k bs e at')
    (hM : ∀ w, Calls Try.prog 46 #[.agg #[.string t, .int .i64 k, .int .i64 bs, .int .i64 e, .int .i64 at'], .int .i64 oc, .int .i64 on] w fun e2 w' => e2 = .returned (.agg #[.string t, .int .i64 k', .int .i64 bs, .int .i64 e', .int .i64 a']) ∧ Below w.heap.size w w')
    (hP : ∀ w, Rd w b t k bs e at' → Calls Try.prog 31 #[.pointer (some ⟨b, 0, none⟩), .int .i64 oc, .int .i64 on] w fun e2 w' => e2 = .returned (.tuple #[]) ∧ Rd w' b t k' bs e' a' ∧ Upd b w w') :
    Calls Try.prog 26 #[.pointer (some ⟨b, 0, none⟩), .agg #[.string t, .int .i64 k, .int .i64 bs, .int .i64 e, .int .i64 at'], .agg #[.int .i64 8, .int .i64 on, .int .i64 oc, .string os]] w fun e2 w' => e2 = .returned (.tuple #[.agg #[.string t, .int .i64 k', .int .i64 bs, .int .i64 e', .int .i64 a'], .bool true]) ∧ Rd w' b t k' bs e' a' ∧ Upd b w w' := by
  have HM := Lib.hid hM; have HP := Lib.hid hP; have H := Lib.hid h
  have hlt := h.lt
  clear hM hP h
  have F0 := Lib.hid (Fr.new H.out 8 on oc os)
  have hMb : w.heap.size ≠ b := by omega
  have hOb : w.heap.size + 1 ≠ b := by omega
  have hRb : w.heap.size + 1 + 1 ≠ b := by omega
  have hbR : b ≠ w.heap.size + 1 + 1 := by omega
  go_enter Try.func26, Try.ntmps26
  go_wp2_with (first
    | (go_at_call 31; refine (HP.out _ F0.out.rd).mono ?_; rintro e2 w2 ⟨rfl, hR, hU⟩; have M2 := Lib.hid (F0.out.m.upd hU hMb); have O2 := Lib.hid (F0.out.o.upd hU hOb); have R2 := Lib.hid (F0.out.r.upd hU hRb); obtain ⟨_, m0, m1, m2, m3, m4, mf⟩ := M2.out; obtain ⟨_, o0, o1, o2, o3⟩ := O2.out)
    | (go_at_call 46; refine (HM.out _).mono ?_; rintro e3 w3 ⟨rfl, hb3⟩; have lR := R2.out.lt; obtain ⟨_, r0, r1, r2, r3, r4, rf⟩ := R2.out.below hb3 R2.out.lt; have hR3 := hR.below hb3 hR.lt))
  refine bodyPost_ret (v := .tuple #[.agg #[.string t, .int .i64 k', .int .i64 bs, .int .i64 e', .int .i64 a'], .bool true]) (by simp [results, Try.results26, go_sem, r0, r1, r2, r3, r4]) rfl ⟨rfl, ?_, ?_⟩
  · exact hR3.upd (by repeat (first | (with_reducible exact Upd.refl _ _) | (with_reducible refine Upd.setCell ?_ _ _) | (with_reducible refine Upd.drew ?_))) hbR
  · exact (((Upd.of F0.out.bel (Nat.le_refl _)).trans hU).trans (Upd.of hb3 (Nat.le_refl _))).newer (c := w.heap.size + 1 + 1) (by repeat (first | (with_reducible exact Upd.refl _ _) | (with_reducible refine Upd.setCell ?_ _ _) | (with_reducible refine Upd.drew ?_))) (by omega)
set_option maxRecDepth 100000 in
theorem do_none (w : World) (b : Nat) (t : ByteArray) (k bs e at' q on oc : Int) (os : ByteArray) (h : Rd w b t k bs e at')
    (h0 : (q == 0) = false) (h1 : (q == 1) = false) (h2 : (q == 2) = false) (h3 : (q == 3) = false) (h4 : (q == 4) = false) (h5 : (q == 5) = false) (h6 : (q == 6) = false) (h7 : (q == 7) = false) (h8 : (q == 8) = false) :
    Calls Try.prog 26 #[.pointer (some ⟨b, 0, none⟩), .agg #[.string t, .int .i64 k, .int .i64 bs, .int .i64 e, .int .i64 at'], .agg #[.int .i64 q, .int .i64 on, .int .i64 oc, .string os]] w fun e2 w' => e2 = .returned (.tuple #[.agg #[.string t, .int .i64 k, .int .i64 bs, .int .i64 e, .int .i64 at'], .bool true]) ∧ Rd w' b t k bs e at' ∧ Upd b w w' := by
  have H := Lib.hid h
  have hlt := h.lt
  clear h
  go_enter Try.func26, Try.ntmps26
  go_wp2
  have hb : Below w.heap.size w (((w.alloc (.cells #[.string t, .int .i64 k, .int .i64 bs, .int .i64 e, .int .i64 at'] 43)).alloc (.cells #[.int .i64 q, .int .i64 on, .int .i64 oc, .string os] 45)).alloc (.cells #[.string t, .int .i64 k, .int .i64 bs, .int .i64 e, .int .i64 at'] 43)) :=
    (((Below.refl w.heap.size w).alloc (Nat.le_refl _) _).alloc (by simp) _).alloc (by simp; omega) _
  exact bodyPost_ret (v := .tuple #[.agg #[.string t, .int .i64 k, .int .i64 bs, .int .i64 e, .int .i64 at'], .bool true]) (by simp [results, Try.results26, go_sem]) rfl ⟨rfl, H.out.below hb hlt, Upd.of hb (Nat.le_refl _)⟩
end Go.Proofs.Ytkhcmgnempjjcaa
