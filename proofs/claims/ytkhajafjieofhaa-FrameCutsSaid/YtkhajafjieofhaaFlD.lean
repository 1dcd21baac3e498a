/- The landed frame: Check: a contract. -/
import Derived.Test.YtkhajafjieofhaaFlC
namespace Go.Proofs.Ytkhajafjieofhaa.fl
open Go.RowKit Go.Lib
open Go.Proofs.Ytkhajafjieofhaa.un (bs bs_list bs_size bs_app bs_back size_list wrap64)
open Go.Proofs.Ytkhajafjieofhaa.fr Go.Proofs.Ytkhajafjieofhaa.bk
open Go.Proofs.Ytkhajafjieofhaa.fn (vF vH erI)
set_option linter.unusedVariables false
set_option maxRecDepth 100000 in
set_option maxHeartbeats 4000000 in
theorem check_any (v : Int) (f : Fr) (a : Int) (w : World) (hi : f.id.length ≤ 4000) : Calls Try.prog 23 #[vF f a, .int .i64 v] w fun e w' => e = .returned (.agg #[.int .i64 (erI v f), .int .i64 0]) ∧ Below w.heap.size w w' := by
  unfold vF
  obtain ⟨PP, hPP⟩ : ∃ PP : Ending → World → Prop, PP = fun e w' => e = .returned (.agg #[.int .i64 (erI v f), .int .i64 0]) ∧ Below w.heap.size w w' := ⟨_, rfl⟩
  rw [← hPP]
  have HP : Hid (∀ (x : Int) w', erI v f = x → Below w.heap.size w w' → PP (.returned (.agg #[.int .i64 x, .int .i64 0])) w') := Lib.hid (fun x w' h hb => by rw [hPP, h]; exact ⟨rfl, hb⟩)
  clear hPP
  unfold erI at HP
  have HO : Hid (okF v f = (nmd v f.id && !(decide (v = 2) && (decide (0 < f.st.toNat) || decide (0 < f.fm.toNat))) && !(decide (0 < f.gr.toNat) && !grpd v f.fm.toNat))) := Lib.hid rfl
  have HN := Lib.hid (fun W => named_any v (bs f.id) W (by rw [bs_size]; exact hi))
  rw [bs_list] at HN
  have HG := Lib.hid (fun W => grouped_any v (bs f.id) (f.st.toNat : Int) f.fm.toNat W (by have := UInt8.toNat_lt f.fm; omega))
  have hs : 0 < f.st.toNat ↔ ¬ (f.st.toNat : Int) = 0 := by omega
  have hf : 0 < f.fm.toNat ↔ ¬ (f.fm.toNat : Int) = 0 := by omega
  have hg : 0 < f.gr.toNat ↔ ¬ (f.gr.toNat : Int) = 0 := by omega
  simp only [hs, hf, hg] at HO
  clear hs hf hg hi
  generalize grpd v f.fm.toNat = G at *
  generalize nmd v f.id = N at *
  generalize okF v f = O at *
  generalize bs f.id = I at *
  generalize bs f.bd = B at *
  generalize ((f.st.toNat : Nat) : Int) = s at *
  generalize ((f.fm.toNat : Nat) : Int) = m at *
  generalize ((f.gr.toNat : Nat) : Int) = g at *
  have Q0 := Lib.hid ((Bk.new w 31 [.string I, .int .u8 s, .int .u8 m, .int .u8 g, .string B, .int .i64 a]).alloc (.cells #[.int .i64 0, .int .i64 0] 34))
  have R0 : Hid (Bk ((w.alloc (.cells #[.string I, .int .u8 s, .int .u8 m, .int .u8 g, .string B, .int .i64 a] 31)).alloc (.cells #[.int .i64 0, .int .i64 0] 34)) (w.heap.size + 1) [.int .i64 0, .int .i64 0]) := Lib.hid (by have X := Bk.new (w.alloc (.cells #[.string I, .int .u8 s, .int .u8 m, .int .u8 g, .string B, .int .i64 a] 31)) 34 [.int .i64 0, .int .i64 0]; rw [World.size_alloc] at X; exact X)
  have B0 : Hid (Below w.heap.size w ((w.alloc (.cells #[.string I, .int .u8 s, .int .u8 m, .int .u8 g, .string B, .int .i64 a] 31)).alloc (.cells #[.int .i64 0, .int .i64 0] 34))) := Lib.hid (((Below.refl _ _).alloc (Nat.le_refl _) _).alloc (by rw [World.size_alloc]; omega) _)
  by_cases hs : s = 0
  case neg =>
    obtain ⟨ns, ms⟩ := nb hs
    by_cases hg : g = 0
    · subst hg
      cases N with
      | false =>
        have HV : Hid ((if O = true then (0 : Int) else 5) = 5) := Lib.hid (by rw [HO.out]; simp [*])
        go_enter Try.func23, Try.ntmps23
        go_wp2_with (first
          | (go_at_call 18; refine (HN.out _).mono ?_; rintro e2 w2 ⟨rfl, rfl⟩))
        (try simp only [Exit.inBlock, Exit.then])
        refine bodyPost_ret (v := .agg #[.int .i64 5, .int .i64 0]) (by simp [results, Try.results23, go_sem]) rfl (HP.out _ _ HV.out ?_)
        repeat (first | (with_reducible exact Below.refl _ _) | (with_reducible refine Below.setCell ?_ (by simp) _) | (with_reducible refine Below.alloc ?_ (by simp) _))
      | true =>
        by_cases h2 : v = 2
        · subst h2
          have HV : Hid ((if O = true then (0 : Int) else 5) = 5) := Lib.hid (by rw [HO.out]; simp [*])
          go_enter Try.func23, Try.ntmps23
          go_wp2_with (first
            | (go_at_call 18; refine (HN.out _).mono ?_; rintro e2 w2 ⟨rfl, rfl⟩))
          (try simp only [Exit.inBlock, Exit.then])
          refine bodyPost_ret (v := .agg #[.int .i64 5, .int .i64 0]) (by simp [results, Try.results23, go_sem]) rfl (HP.out _ _ HV.out ?_)
          repeat (first | (with_reducible exact Below.refl _ _) | (with_reducible refine Below.setCell ?_ (by simp) _) | (with_reducible refine Below.alloc ?_ (by simp) _))
        · obtain ⟨q2, _⟩ := nb h2
          have HV : Hid ((if O = true then (0 : Int) else 5) = 0) := Lib.hid (by rw [HO.out]; simp [*])
          go_enter Try.func23, Try.ntmps23
          go_wp2_with (first
            | (go_at_call 18; refine (HN.out _).mono ?_; rintro e2 w2 ⟨rfl, rfl⟩))
          (try simp only [Exit.inBlock, Exit.then])
          refine bodyPost_ret (v := .agg #[.int .i64 0, .int .i64 0]) (by simp [results, Try.results23, go_sem]) rfl (HP.out _ _ HV.out ?_)
          repeat (first | (with_reducible exact Below.refl _ _) | (with_reducible refine Below.setCell ?_ (by simp) _) | (with_reducible refine Below.alloc ?_ (by simp) _))
    obtain ⟨ng, mg⟩ := nb hg
    cases G with
    | true =>
      cases N with
      | false =>
        have HV : Hid ((if O = true then (0 : Int) else 5) = 5) := Lib.hid (by rw [HO.out]; simp [*])
        go_enter Try.func23, Try.ntmps23
        go_wp2_with (first
          | (go_at_call 10; refine (HG.out _).mono ?_; rintro e1 w1 ⟨rfl, hb1⟩; have Q1 := Lib.hid (Q0.out.below hb1); have R1 := Lib.hid (R0.out.below hb1); have B1 := Lib.hid (B0.out.trans (hb1.mono B0.out.size)); have y0 := Q1.out.c 0 _ rfl; have y1 := Q1.out.c 1 _ rfl; have y2 := Q1.out.c 2 _ rfl; have y3 := Q1.out.c 3 _ rfl; have y4 := Q1.out.c 4 _ rfl; have y5 := Q1.out.c 5 _ rfl; have r0 := R1.out.c 0 _ rfl; have r1 := R1.out.c 1 _ rfl; have rf := R1.out.f; clear hb1)
          | (go_at_call 18; refine (HN.out _).mono ?_; rintro e2 w2 ⟨rfl, rfl⟩))
        (try simp only [Exit.inBlock, Exit.then])
        refine bodyPost_ret (v := .agg #[.int .i64 5, .int .i64 0]) (by simp [results, Try.results23, go_sem, r0, r1]) rfl (HP.out _ _ HV.out ?_)
        repeat (first | (with_reducible exact B1.out) | (with_reducible exact Below.refl _ _) | (with_reducible refine Below.setCell ?_ (by simp) _) | (with_reducible refine Below.alloc ?_ (by simp; omega) _))
      | true =>
        by_cases h2 : v = 2
        · subst h2
          have HV : Hid ((if O = true then (0 : Int) else 5) = 5) := Lib.hid (by rw [HO.out]; simp [*])
          go_enter Try.func23, Try.ntmps23
          go_wp2_with (first
            | (go_at_call 10; refine (HG.out _).mono ?_; rintro e1 w1 ⟨rfl, hb1⟩; have Q1 := Lib.hid (Q0.out.below hb1); have R1 := Lib.hid (R0.out.below hb1); have B1 := Lib.hid (B0.out.trans (hb1.mono B0.out.size)); have y0 := Q1.out.c 0 _ rfl; have y1 := Q1.out.c 1 _ rfl; have y2 := Q1.out.c 2 _ rfl; have y3 := Q1.out.c 3 _ rfl; have y4 := Q1.out.c 4 _ rfl; have y5 := Q1.out.c 5 _ rfl; have r0 := R1.out.c 0 _ rfl; have r1 := R1.out.c 1 _ rfl; have rf := R1.out.f; clear hb1)
            | (go_at_call 18; refine (HN.out _).mono ?_; rintro e2 w2 ⟨rfl, rfl⟩))
          (try simp only [Exit.inBlock, Exit.then])
          refine bodyPost_ret (v := .agg #[.int .i64 5, .int .i64 0]) (by simp [results, Try.results23, go_sem, r0, r1]) rfl (HP.out _ _ HV.out ?_)
          repeat (first | (with_reducible exact B1.out) | (with_reducible exact Below.refl _ _) | (with_reducible refine Below.setCell ?_ (by simp) _) | (with_reducible refine Below.alloc ?_ (by simp; omega) _))
        · obtain ⟨q2, _⟩ := nb h2
          have HV : Hid ((if O = true then (0 : Int) else 5) = 0) := Lib.hid (by rw [HO.out]; simp [*])
          go_enter Try.func23, Try.ntmps23
          go_wp2_with (first
            | (go_at_call 10; refine (HG.out _).mono ?_; rintro e1 w1 ⟨rfl, hb1⟩; have Q1 := Lib.hid (Q0.out.below hb1); have R1 := Lib.hid (R0.out.below hb1); have B1 := Lib.hid (B0.out.trans (hb1.mono B0.out.size)); have y0 := Q1.out.c 0 _ rfl; have y1 := Q1.out.c 1 _ rfl; have y2 := Q1.out.c 2 _ rfl; have y3 := Q1.out.c 3 _ rfl; have y4 := Q1.out.c 4 _ rfl; have y5 := Q1.out.c 5 _ rfl; have r0 := R1.out.c 0 _ rfl; have r1 := R1.out.c 1 _ rfl; have rf := R1.out.f; clear hb1)
            | (go_at_call 18; refine (HN.out _).mono ?_; rintro e2 w2 ⟨rfl, rfl⟩))
          (try simp only [Exit.inBlock, Exit.then])
          refine bodyPost_ret (v := .agg #[.int .i64 0, .int .i64 0]) (by simp [results, Try.results23, go_sem, r0, r1]) rfl (HP.out _ _ HV.out ?_)
          repeat (first | (with_reducible exact B1.out) | (with_reducible exact Below.refl _ _) | (with_reducible refine Below.setCell ?_ (by simp) _) | (with_reducible refine Below.alloc ?_ (by simp; omega) _))
    | false =>
      cases N with
      | false =>
        have HV : Hid ((if O = true then (0 : Int) else 5) = 5) := Lib.hid (by rw [HO.out]; simp [*])
        go_enter Try.func23, Try.ntmps23
        go_wp2_with (first
          | (go_at_call 10; refine (HG.out _).mono ?_; rintro e1 w1 ⟨rfl, hb1⟩; have Q1 := Lib.hid (Q0.out.below hb1); have R1 := Lib.hid (R0.out.below hb1); have B1 := Lib.hid (B0.out.trans (hb1.mono B0.out.size)); have y0 := Q1.out.c 0 _ rfl; have y1 := Q1.out.c 1 _ rfl; have y2 := Q1.out.c 2 _ rfl; have y3 := Q1.out.c 3 _ rfl; have y4 := Q1.out.c 4 _ rfl; have y5 := Q1.out.c 5 _ rfl; have r0 := R1.out.c 0 _ rfl; have r1 := R1.out.c 1 _ rfl; have rf := R1.out.f; clear hb1)
          | (go_at_call 18; refine (HN.out _).mono ?_; rintro e2 w2 ⟨rfl, rfl⟩))
        (try simp only [Exit.inBlock, Exit.then])
        refine bodyPost_ret (v := .agg #[.int .i64 5, .int .i64 0]) (by simp [results, Try.results23, go_sem, r0, r1]) rfl (HP.out _ _ HV.out ?_)
        repeat (first | (with_reducible exact B1.out) | (with_reducible exact Below.refl _ _) | (with_reducible refine Below.setCell ?_ (by simp) _) | (with_reducible refine Below.alloc ?_ (by simp; omega) _))
      | true =>
        by_cases h2 : v = 2
        · subst h2
          have HV : Hid ((if O = true then (0 : Int) else 5) = 5) := Lib.hid (by rw [HO.out]; simp [*])
          go_enter Try.func23, Try.ntmps23
          go_wp2_with (first
            | (go_at_call 10; refine (HG.out _).mono ?_; rintro e1 w1 ⟨rfl, hb1⟩; have Q1 := Lib.hid (Q0.out.below hb1); have R1 := Lib.hid (R0.out.below hb1); have B1 := Lib.hid (B0.out.trans (hb1.mono B0.out.size)); have y0 := Q1.out.c 0 _ rfl; have y1 := Q1.out.c 1 _ rfl; have y2 := Q1.out.c 2 _ rfl; have y3 := Q1.out.c 3 _ rfl; have y4 := Q1.out.c 4 _ rfl; have y5 := Q1.out.c 5 _ rfl; have r0 := R1.out.c 0 _ rfl; have r1 := R1.out.c 1 _ rfl; have rf := R1.out.f; clear hb1)
            | (go_at_call 18; refine (HN.out _).mono ?_; rintro e2 w2 ⟨rfl, rfl⟩))
          (try simp only [Exit.inBlock, Exit.then])
          refine bodyPost_ret (v := .agg #[.int .i64 5, .int .i64 0]) (by simp [results, Try.results23, go_sem, r0, r1]) rfl (HP.out _ _ HV.out ?_)
          repeat (first | (with_reducible exact B1.out) | (with_reducible exact Below.refl _ _) | (with_reducible refine Below.setCell ?_ (by simp) _) | (with_reducible refine Below.alloc ?_ (by simp; omega) _))
        · obtain ⟨q2, _⟩ := nb h2
          have HV : Hid ((if O = true then (0 : Int) else 5) = 5) := Lib.hid (by rw [HO.out]; simp [*])
          go_enter Try.func23, Try.ntmps23
          go_wp2_with (first
            | (go_at_call 10; refine (HG.out _).mono ?_; rintro e1 w1 ⟨rfl, hb1⟩; have Q1 := Lib.hid (Q0.out.below hb1); have R1 := Lib.hid (R0.out.below hb1); have B1 := Lib.hid (B0.out.trans (hb1.mono B0.out.size)); have y0 := Q1.out.c 0 _ rfl; have y1 := Q1.out.c 1 _ rfl; have y2 := Q1.out.c 2 _ rfl; have y3 := Q1.out.c 3 _ rfl; have y4 := Q1.out.c 4 _ rfl; have y5 := Q1.out.c 5 _ rfl; have r0 := R1.out.c 0 _ rfl; have r1 := R1.out.c 1 _ rfl; have rf := R1.out.f; clear hb1)
            | (go_at_call 18; refine (HN.out _).mono ?_; rintro e2 w2 ⟨rfl, rfl⟩))
          (try simp only [Exit.inBlock, Exit.then])
          refine bodyPost_ret (v := .agg #[.int .i64 5, .int .i64 0]) (by simp [results, Try.results23, go_sem, r0, r1]) rfl (HP.out _ _ HV.out ?_)
          repeat (first | (with_reducible exact B1.out) | (with_reducible exact Below.refl _ _) | (with_reducible refine Below.setCell ?_ (by simp) _) | (with_reducible refine Below.alloc ?_ (by simp; omega) _))
  subst hs
  by_cases hf : m = 0
  case neg =>
    obtain ⟨nf, mf⟩ := nb hf
    by_cases hg : g = 0
    · subst hg
      cases N with
      | false =>
        have HV : Hid ((if O = true then (0 : Int) else 5) = 5) := Lib.hid (by rw [HO.out]; simp [*])
        go_enter Try.func23, Try.ntmps23
        go_wp2_with (first
          | (go_at_call 18; refine (HN.out _).mono ?_; rintro e2 w2 ⟨rfl, rfl⟩))
        (try simp only [Exit.inBlock, Exit.then])
        refine bodyPost_ret (v := .agg #[.int .i64 5, .int .i64 0]) (by simp [results, Try.results23, go_sem]) rfl (HP.out _ _ HV.out ?_)
        repeat (first | (with_reducible exact Below.refl _ _) | (with_reducible refine Below.setCell ?_ (by simp) _) | (with_reducible refine Below.alloc ?_ (by simp) _))
      | true =>
        by_cases h2 : v = 2
        · subst h2
          have HV : Hid ((if O = true then (0 : Int) else 5) = 5) := Lib.hid (by rw [HO.out]; simp [*])
          go_enter Try.func23, Try.ntmps23
          go_wp2_with (first
            | (go_at_call 18; refine (HN.out _).mono ?_; rintro e2 w2 ⟨rfl, rfl⟩))
          (try simp only [Exit.inBlock, Exit.then])
          refine bodyPost_ret (v := .agg #[.int .i64 5, .int .i64 0]) (by simp [results, Try.results23, go_sem]) rfl (HP.out _ _ HV.out ?_)
          repeat (first | (with_reducible exact Below.refl _ _) | (with_reducible refine Below.setCell ?_ (by simp) _) | (with_reducible refine Below.alloc ?_ (by simp) _))
        · obtain ⟨q2, _⟩ := nb h2
          have HV : Hid ((if O = true then (0 : Int) else 5) = 0) := Lib.hid (by rw [HO.out]; simp [*])
          go_enter Try.func23, Try.ntmps23
          go_wp2_with (first
            | (go_at_call 18; refine (HN.out _).mono ?_; rintro e2 w2 ⟨rfl, rfl⟩))
          (try simp only [Exit.inBlock, Exit.then])
          refine bodyPost_ret (v := .agg #[.int .i64 0, .int .i64 0]) (by simp [results, Try.results23, go_sem]) rfl (HP.out _ _ HV.out ?_)
          repeat (first | (with_reducible exact Below.refl _ _) | (with_reducible refine Below.setCell ?_ (by simp) _) | (with_reducible refine Below.alloc ?_ (by simp) _))
    obtain ⟨ng, mg⟩ := nb hg
    cases G with
    | true =>
      cases N with
      | false =>
        have HV : Hid ((if O = true then (0 : Int) else 5) = 5) := Lib.hid (by rw [HO.out]; simp [*])
        go_enter Try.func23, Try.ntmps23
        go_wp2_with (first
          | (go_at_call 10; refine (HG.out _).mono ?_; rintro e1 w1 ⟨rfl, hb1⟩; have Q1 := Lib.hid (Q0.out.below hb1); have R1 := Lib.hid (R0.out.below hb1); have B1 := Lib.hid (B0.out.trans (hb1.mono B0.out.size)); have y0 := Q1.out.c 0 _ rfl; have y1 := Q1.out.c 1 _ rfl; have y2 := Q1.out.c 2 _ rfl; have y3 := Q1.out.c 3 _ rfl; have y4 := Q1.out.c 4 _ rfl; have y5 := Q1.out.c 5 _ rfl; have r0 := R1.out.c 0 _ rfl; have r1 := R1.out.c 1 _ rfl; have rf := R1.out.f; clear hb1)
          | (go_at_call 18; refine (HN.out _).mono ?_; rintro e2 w2 ⟨rfl, rfl⟩))
        (try simp only [Exit.inBlock, Exit.then])
        refine bodyPost_ret (v := .agg #[.int .i64 5, .int .i64 0]) (by simp [results, Try.results23, go_sem, r0, r1]) rfl (HP.out _ _ HV.out ?_)
        repeat (first | (with_reducible exact B1.out) | (with_reducible exact Below.refl _ _) | (with_reducible refine Below.setCell ?_ (by simp) _) | (with_reducible refine Below.alloc ?_ (by simp; omega) _))
      | true =>
        by_cases h2 : v = 2
        · subst h2
          have HV : Hid ((if O = true then (0 : Int) else 5) = 5) := Lib.hid (by rw [HO.out]; simp [*])
          go_enter Try.func23, Try.ntmps23
          go_wp2_with (first
            | (go_at_call 10; refine (HG.out _).mono ?_; rintro e1 w1 ⟨rfl, hb1⟩; have Q1 := Lib.hid (Q0.out.below hb1); have R1 := Lib.hid (R0.out.below hb1); have B1 := Lib.hid (B0.out.trans (hb1.mono B0.out.size)); have y0 := Q1.out.c 0 _ rfl; have y1 := Q1.out.c 1 _ rfl; have y2 := Q1.out.c 2 _ rfl; have y3 := Q1.out.c 3 _ rfl; have y4 := Q1.out.c 4 _ rfl; have y5 := Q1.out.c 5 _ rfl; have r0 := R1.out.c 0 _ rfl; have r1 := R1.out.c 1 _ rfl; have rf := R1.out.f; clear hb1)
            | (go_at_call 18; refine (HN.out _).mono ?_; rintro e2 w2 ⟨rfl, rfl⟩))
          (try simp only [Exit.inBlock, Exit.then])
          refine bodyPost_ret (v := .agg #[.int .i64 5, .int .i64 0]) (by simp [results, Try.results23, go_sem, r0, r1]) rfl (HP.out _ _ HV.out ?_)
          repeat (first | (with_reducible exact B1.out) | (with_reducible exact Below.refl _ _) | (with_reducible refine Below.setCell ?_ (by simp) _) | (with_reducible refine Below.alloc ?_ (by simp; omega) _))
        · obtain ⟨q2, _⟩ := nb h2
          have HV : Hid ((if O = true then (0 : Int) else 5) = 0) := Lib.hid (by rw [HO.out]; simp [*])
          go_enter Try.func23, Try.ntmps23
          go_wp2_with (first
            | (go_at_call 10; refine (HG.out _).mono ?_; rintro e1 w1 ⟨rfl, hb1⟩; have Q1 := Lib.hid (Q0.out.below hb1); have R1 := Lib.hid (R0.out.below hb1); have B1 := Lib.hid (B0.out.trans (hb1.mono B0.out.size)); have y0 := Q1.out.c 0 _ rfl; have y1 := Q1.out.c 1 _ rfl; have y2 := Q1.out.c 2 _ rfl; have y3 := Q1.out.c 3 _ rfl; have y4 := Q1.out.c 4 _ rfl; have y5 := Q1.out.c 5 _ rfl; have r0 := R1.out.c 0 _ rfl; have r1 := R1.out.c 1 _ rfl; have rf := R1.out.f; clear hb1)
            | (go_at_call 18; refine (HN.out _).mono ?_; rintro e2 w2 ⟨rfl, rfl⟩))
          (try simp only [Exit.inBlock, Exit.then])
          refine bodyPost_ret (v := .agg #[.int .i64 0, .int .i64 0]) (by simp [results, Try.results23, go_sem, r0, r1]) rfl (HP.out _ _ HV.out ?_)
          repeat (first | (with_reducible exact B1.out) | (with_reducible exact Below.refl _ _) | (with_reducible refine Below.setCell ?_ (by simp) _) | (with_reducible refine Below.alloc ?_ (by simp; omega) _))
    | false =>
      cases N with
      | false =>
        have HV : Hid ((if O = true then (0 : Int) else 5) = 5) := Lib.hid (by rw [HO.out]; simp [*])
        go_enter Try.func23, Try.ntmps23
        go_wp2_with (first
          | (go_at_call 10; refine (HG.out _).mono ?_; rintro e1 w1 ⟨rfl, hb1⟩; have Q1 := Lib.hid (Q0.out.below hb1); have R1 := Lib.hid (R0.out.below hb1); have B1 := Lib.hid (B0.out.trans (hb1.mono B0.out.size)); have y0 := Q1.out.c 0 _ rfl; have y1 := Q1.out.c 1 _ rfl; have y2 := Q1.out.c 2 _ rfl; have y3 := Q1.out.c 3 _ rfl; have y4 := Q1.out.c 4 _ rfl; have y5 := Q1.out.c 5 _ rfl; have r0 := R1.out.c 0 _ rfl; have r1 := R1.out.c 1 _ rfl; have rf := R1.out.f; clear hb1)
          | (go_at_call 18; refine (HN.out _).mono ?_; rintro e2 w2 ⟨rfl, rfl⟩))
        (try simp only [Exit.inBlock, Exit.then])
        refine bodyPost_ret (v := .agg #[.int .i64 5, .int .i64 0]) (by simp [results, Try.results23, go_sem, r0, r1]) rfl (HP.out _ _ HV.out ?_)
        repeat (first | (with_reducible exact B1.out) | (with_reducible exact Below.refl _ _) | (with_reducible refine Below.setCell ?_ (by simp) _) | (with_reducible refine Below.alloc ?_ (by simp; omega) _))
      | true =>
        by_cases h2 : v = 2
        · subst h2
          have HV : Hid ((if O = true then (0 : Int) else 5) = 5) := Lib.hid (by rw [HO.out]; simp [*])
          go_enter Try.func23, Try.ntmps23
          go_wp2_with (first
            | (go_at_call 10; refine (HG.out _).mono ?_; rintro e1 w1 ⟨rfl, hb1⟩; have Q1 := Lib.hid (Q0.out.below hb1); have R1 := Lib.hid (R0.out.below hb1); have B1 := Lib.hid (B0.out.trans (hb1.mono B0.out.size)); have y0 := Q1.out.c 0 _ rfl; have y1 := Q1.out.c 1 _ rfl; have y2 := Q1.out.c 2 _ rfl; have y3 := Q1.out.c 3 _ rfl; have y4 := Q1.out.c 4 _ rfl; have y5 := Q1.out.c 5 _ rfl; have r0 := R1.out.c 0 _ rfl; have r1 := R1.out.c 1 _ rfl; have rf := R1.out.f; clear hb1)
            | (go_at_call 18; refine (HN.out _).mono ?_; rintro e2 w2 ⟨rfl, rfl⟩))
          (try simp only [Exit.inBlock, Exit.then])
          refine bodyPost_ret (v := .agg #[.int .i64 5, .int .i64 0]) (by simp [results, Try.results23, go_sem, r0, r1]) rfl (HP.out _ _ HV.out ?_)
          repeat (first | (with_reducible exact B1.out) | (with_reducible exact Below.refl _ _) | (with_reducible refine Below.setCell ?_ (by simp) _) | (with_reducible refine Below.alloc ?_ (by simp; omega) _))
        · obtain ⟨q2, _⟩ := nb h2
          have HV : Hid ((if O = true then (0 : Int) else 5) = 5) := Lib.hid (by rw [HO.out]; simp [*])
          go_enter Try.func23, Try.ntmps23
          go_wp2_with (first
            | (go_at_call 10; refine (HG.out _).mono ?_; rintro e1 w1 ⟨rfl, hb1⟩; have Q1 := Lib.hid (Q0.out.below hb1); have R1 := Lib.hid (R0.out.below hb1); have B1 := Lib.hid (B0.out.trans (hb1.mono B0.out.size)); have y0 := Q1.out.c 0 _ rfl; have y1 := Q1.out.c 1 _ rfl; have y2 := Q1.out.c 2 _ rfl; have y3 := Q1.out.c 3 _ rfl; have y4 := Q1.out.c 4 _ rfl; have y5 := Q1.out.c 5 _ rfl; have r0 := R1.out.c 0 _ rfl; have r1 := R1.out.c 1 _ rfl; have rf := R1.out.f; clear hb1)
            | (go_at_call 18; refine (HN.out _).mono ?_; rintro e2 w2 ⟨rfl, rfl⟩))
          (try simp only [Exit.inBlock, Exit.then])
          refine bodyPost_ret (v := .agg #[.int .i64 5, .int .i64 0]) (by simp [results, Try.results23, go_sem, r0, r1]) rfl (HP.out _ _ HV.out ?_)
          repeat (first | (with_reducible exact B1.out) | (with_reducible exact Below.refl _ _) | (with_reducible refine Below.setCell ?_ (by simp) _) | (with_reducible refine Below.alloc ?_ (by simp; omega) _))
  subst hf
  · skip
    by_cases hg : g = 0
    · subst hg
      cases N with
      | false =>
        have HV : Hid ((if O = true then (0 : Int) else 5) = 5) := Lib.hid (by rw [HO.out]; simp [*])
        go_enter Try.func23, Try.ntmps23
        go_wp2_with (first
          | (go_at_call 18; refine (HN.out _).mono ?_; rintro e2 w2 ⟨rfl, rfl⟩))
        (try simp only [Exit.inBlock, Exit.then])
        refine bodyPost_ret (v := .agg #[.int .i64 5, .int .i64 0]) (by simp [results, Try.results23, go_sem]) rfl (HP.out _ _ HV.out ?_)
        repeat (first | (with_reducible exact Below.refl _ _) | (with_reducible refine Below.setCell ?_ (by simp) _) | (with_reducible refine Below.alloc ?_ (by simp) _))
      | true =>
        by_cases h2 : v = 2
        · subst h2
          have HV : Hid ((if O = true then (0 : Int) else 5) = 0) := Lib.hid (by rw [HO.out]; simp [*])
          go_enter Try.func23, Try.ntmps23
          go_wp2_with (first
            | (go_at_call 18; refine (HN.out _).mono ?_; rintro e2 w2 ⟨rfl, rfl⟩))
          (try simp only [Exit.inBlock, Exit.then])
          refine bodyPost_ret (v := .agg #[.int .i64 0, .int .i64 0]) (by simp [results, Try.results23, go_sem]) rfl (HP.out _ _ HV.out ?_)
          repeat (first | (with_reducible exact Below.refl _ _) | (with_reducible refine Below.setCell ?_ (by simp) _) | (with_reducible refine Below.alloc ?_ (by simp) _))
        · obtain ⟨q2, _⟩ := nb h2
          have HV : Hid ((if O = true then (0 : Int) else 5) = 0) := Lib.hid (by rw [HO.out]; simp [*])
          go_enter Try.func23, Try.ntmps23
          go_wp2_with (first
            | (go_at_call 18; refine (HN.out _).mono ?_; rintro e2 w2 ⟨rfl, rfl⟩))
          (try simp only [Exit.inBlock, Exit.then])
          refine bodyPost_ret (v := .agg #[.int .i64 0, .int .i64 0]) (by simp [results, Try.results23, go_sem]) rfl (HP.out _ _ HV.out ?_)
          repeat (first | (with_reducible exact Below.refl _ _) | (with_reducible refine Below.setCell ?_ (by simp) _) | (with_reducible refine Below.alloc ?_ (by simp) _))
    obtain ⟨ng, mg⟩ := nb hg
    cases G with
    | true =>
      cases N with
      | false =>
        have HV : Hid ((if O = true then (0 : Int) else 5) = 5) := Lib.hid (by rw [HO.out]; simp [*])
        go_enter Try.func23, Try.ntmps23
        go_wp2_with (first
          | (go_at_call 10; refine (HG.out _).mono ?_; rintro e1 w1 ⟨rfl, hb1⟩; have Q1 := Lib.hid (Q0.out.below hb1); have R1 := Lib.hid (R0.out.below hb1); have B1 := Lib.hid (B0.out.trans (hb1.mono B0.out.size)); have y0 := Q1.out.c 0 _ rfl; have y1 := Q1.out.c 1 _ rfl; have y2 := Q1.out.c 2 _ rfl; have y3 := Q1.out.c 3 _ rfl; have y4 := Q1.out.c 4 _ rfl; have y5 := Q1.out.c 5 _ rfl; have r0 := R1.out.c 0 _ rfl; have r1 := R1.out.c 1 _ rfl; have rf := R1.out.f; clear hb1)
          | (go_at_call 18; refine (HN.out _).mono ?_; rintro e2 w2 ⟨rfl, rfl⟩))
        (try simp only [Exit.inBlock, Exit.then])
        refine bodyPost_ret (v := .agg #[.int .i64 5, .int .i64 0]) (by simp [results, Try.results23, go_sem, r0, r1]) rfl (HP.out _ _ HV.out ?_)
        repeat (first | (with_reducible exact B1.out) | (with_reducible exact Below.refl _ _) | (with_reducible refine Below.setCell ?_ (by simp) _) | (with_reducible refine Below.alloc ?_ (by simp; omega) _))
      | true =>
        by_cases h2 : v = 2
        · subst h2
          have HV : Hid ((if O = true then (0 : Int) else 5) = 0) := Lib.hid (by rw [HO.out]; simp [*])
          go_enter Try.func23, Try.ntmps23
          go_wp2_with (first
            | (go_at_call 10; refine (HG.out _).mono ?_; rintro e1 w1 ⟨rfl, hb1⟩; have Q1 := Lib.hid (Q0.out.below hb1); have R1 := Lib.hid (R0.out.below hb1); have B1 := Lib.hid (B0.out.trans (hb1.mono B0.out.size)); have y0 := Q1.out.c 0 _ rfl; have y1 := Q1.out.c 1 _ rfl; have y2 := Q1.out.c 2 _ rfl; have y3 := Q1.out.c 3 _ rfl; have y4 := Q1.out.c 4 _ rfl; have y5 := Q1.out.c 5 _ rfl; have r0 := R1.out.c 0 _ rfl; have r1 := R1.out.c 1 _ rfl; have rf := R1.out.f; clear hb1)
            | (go_at_call 18; refine (HN.out _).mono ?_; rintro e2 w2 ⟨rfl, rfl⟩))
          (try simp only [Exit.inBlock, Exit.then])
          refine bodyPost_ret (v := .agg #[.int .i64 0, .int .i64 0]) (by simp [results, Try.results23, go_sem, r0, r1]) rfl (HP.out _ _ HV.out ?_)
          repeat (first | (with_reducible exact B1.out) | (with_reducible exact Below.refl _ _) | (with_reducible refine Below.setCell ?_ (by simp) _) | (with_reducible refine Below.alloc ?_ (by simp; omega) _))
        · obtain ⟨q2, _⟩ := nb h2
          have HV : Hid ((if O = true then (0 : Int) else 5) = 0) := Lib.hid (by rw [HO.out]; simp [*])
          go_enter Try.func23, Try.ntmps23
          go_wp2_with (first
            | (go_at_call 10; refine (HG.out _).mono ?_; rintro e1 w1 ⟨rfl, hb1⟩; have Q1 := Lib.hid (Q0.out.below hb1); have R1 := Lib.hid (R0.out.below hb1); have B1 := Lib.hid (B0.out.trans (hb1.mono B0.out.size)); have y0 := Q1.out.c 0 _ rfl; have y1 := Q1.out.c 1 _ rfl; have y2 := Q1.out.c 2 _ rfl; have y3 := Q1.out.c 3 _ rfl; have y4 := Q1.out.c 4 _ rfl; have y5 := Q1.out.c 5 _ rfl; have r0 := R1.out.c 0 _ rfl; have r1 := R1.out.c 1 _ rfl; have rf := R1.out.f; clear hb1)
            | (go_at_call 18; refine (HN.out _).mono ?_; rintro e2 w2 ⟨rfl, rfl⟩))
          (try simp only [Exit.inBlock, Exit.then])
          refine bodyPost_ret (v := .agg #[.int .i64 0, .int .i64 0]) (by simp [results, Try.results23, go_sem, r0, r1]) rfl (HP.out _ _ HV.out ?_)
          repeat (first | (with_reducible exact B1.out) | (with_reducible exact Below.refl _ _) | (with_reducible refine Below.setCell ?_ (by simp) _) | (with_reducible refine Below.alloc ?_ (by simp; omega) _))
    | false =>
      cases N with
      | false =>
        have HV : Hid ((if O = true then (0 : Int) else 5) = 5) := Lib.hid (by rw [HO.out]; simp [*])
        go_enter Try.func23, Try.ntmps23
        go_wp2_with (first
          | (go_at_call 10; refine (HG.out _).mono ?_; rintro e1 w1 ⟨rfl, hb1⟩; have Q1 := Lib.hid (Q0.out.below hb1); have R1 := Lib.hid (R0.out.below hb1); have B1 := Lib.hid (B0.out.trans (hb1.mono B0.out.size)); have y0 := Q1.out.c 0 _ rfl; have y1 := Q1.out.c 1 _ rfl; have y2 := Q1.out.c 2 _ rfl; have y3 := Q1.out.c 3 _ rfl; have y4 := Q1.out.c 4 _ rfl; have y5 := Q1.out.c 5 _ rfl; have r0 := R1.out.c 0 _ rfl; have r1 := R1.out.c 1 _ rfl; have rf := R1.out.f; clear hb1)
          | (go_at_call 18; refine (HN.out _).mono ?_; rintro e2 w2 ⟨rfl, rfl⟩))
        (try simp only [Exit.inBlock, Exit.then])
        refine bodyPost_ret (v := .agg #[.int .i64 5, .int .i64 0]) (by simp [results, Try.results23, go_sem, r0, r1]) rfl (HP.out _ _ HV.out ?_)
        repeat (first | (with_reducible exact B1.out) | (with_reducible exact Below.refl _ _) | (with_reducible refine Below.setCell ?_ (by simp) _) | (with_reducible refine Below.alloc ?_ (by simp; omega) _))
      | true =>
        by_cases h2 : v = 2
        · subst h2
          have HV : Hid ((if O = true then (0 : Int) else 5) = 5) := Lib.hid (by rw [HO.out]; simp [*])
          go_enter Try.func23, Try.ntmps23
          go_wp2_with (first
            | (go_at_call 10; refine (HG.out _).mono ?_; rintro e1 w1 ⟨rfl, hb1⟩; have Q1 := Lib.hid (Q0.out.below hb1); have R1 := Lib.hid (R0.out.below hb1); have B1 := Lib.hid (B0.out.trans (hb1.mono B0.out.size)); have y0 := Q1.out.c 0 _ rfl; have y1 := Q1.out.c 1 _ rfl; have y2 := Q1.out.c 2 _ rfl; have y3 := Q1.out.c 3 _ rfl; have y4 := Q1.out.c 4 _ rfl; have y5 := Q1.out.c 5 _ rfl; have r0 := R1.out.c 0 _ rfl; have r1 := R1.out.c 1 _ rfl; have rf := R1.out.f; clear hb1)
            | (go_at_call 18; refine (HN.out _).mono ?_; rintro e2 w2 ⟨rfl, rfl⟩))
          (try simp only [Exit.inBlock, Exit.then])
          refine bodyPost_ret (v := .agg #[.int .i64 5, .int .i64 0]) (by simp [results, Try.results23, go_sem, r0, r1]) rfl (HP.out _ _ HV.out ?_)
          repeat (first | (with_reducible exact B1.out) | (with_reducible exact Below.refl _ _) | (with_reducible refine Below.setCell ?_ (by simp) _) | (with_reducible refine Below.alloc ?_ (by simp; omega) _))
        · obtain ⟨q2, _⟩ := nb h2
          have HV : Hid ((if O = true then (0 : Int) else 5) = 5) := Lib.hid (by rw [HO.out]; simp [*])
          go_enter Try.func23, Try.ntmps23
          go_wp2_with (first
            | (go_at_call 10; refine (HG.out _).mono ?_; rintro e1 w1 ⟨rfl, hb1⟩; have Q1 := Lib.hid (Q0.out.below hb1); have R1 := Lib.hid (R0.out.below hb1); have B1 := Lib.hid (B0.out.trans (hb1.mono B0.out.size)); have y0 := Q1.out.c 0 _ rfl; have y1 := Q1.out.c 1 _ rfl; have y2 := Q1.out.c 2 _ rfl; have y3 := Q1.out.c 3 _ rfl; have y4 := Q1.out.c 4 _ rfl; have y5 := Q1.out.c 5 _ rfl; have r0 := R1.out.c 0 _ rfl; have r1 := R1.out.c 1 _ rfl; have rf := R1.out.f; clear hb1)
            | (go_at_call 18; refine (HN.out _).mono ?_; rintro e2 w2 ⟨rfl, rfl⟩))
          (try simp only [Exit.inBlock, Exit.then])
          refine bodyPost_ret (v := .agg #[.int .i64 5, .int .i64 0]) (by simp [results, Try.results23, go_sem, r0, r1]) rfl (HP.out _ _ HV.out ?_)
          repeat (first | (with_reducible exact B1.out) | (with_reducible exact Below.refl _ _) | (with_reducible refine Below.setCell ?_ (by simp) _) | (with_reducible refine Below.alloc ?_ (by simp; omega) _))
end Go.Proofs.Ytkhajafjieofhaa.fl
