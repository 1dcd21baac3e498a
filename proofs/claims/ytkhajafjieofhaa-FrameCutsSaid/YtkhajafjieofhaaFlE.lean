/- The landed frame: Print: a contract. -/
import Derived.Test.YtkhajafjieofhaaFlD
import Derived.Deep.RegionHeld3
namespace Go.Proofs.Ytkhajafjieofhaa.fl
open Go.RowKit Go.Lib
open Go.Proofs.Ytkhajafjieofhaa.un (bs bs_list bs_size bs_app bs_back size_list wrap64)
open Go.Proofs.Ytkhajafjieofhaa.fr Go.Proofs.Ytkhajafjieofhaa.bk
open Go.Proofs.Ytkhajafjieofhaa.fn (vF vH erI prS)
set_option linter.unusedVariables false
/-- The blocks that Print keeps. -/
structure Pq (w : World) (vs : List Value) (W : World) : Prop where
  s : Bk W w.heap.size vs
  r : Bk W (w.heap.size + 1) [.int .i64 0, .int .i64 0]
  b : Below w.heap.size w W
section
variable {w W W' : World} {vs : List Value}
theorem Pq.below (h : Pq w vs W) (hb : Below W.heap.size W W') : Pq w vs W' := ⟨h.s.below hb, h.r.below hb, h.b.trans (hb.mono h.b.size)⟩
theorem Pq.alloc (h : Pq w vs W) (o : Obj) : Pq w vs (W.alloc o) := h.below ((Below.refl _ _).alloc (Nat.le_refl _) _)
theorem Pq.drew (h : Pq w vs W) : Pq w vs W.drew := ⟨h.s.drew, h.r.drew, h.b.drew⟩
theorem pq_new (w : World) (vs : List Value) (t u : TypeId) : Pq w vs ((w.alloc (.cells vs.toArray t)).alloc (.cells #[.int .i64 0, .int .i64 0] u)) :=
  ⟨(Bk.new w t vs).alloc _, by have X := Bk.new (w.alloc (.cells vs.toArray t)) u [.int .i64 0, .int .i64 0]; rw [World.size_alloc] at X; exact X, ((Below.refl _ _).alloc (Nat.le_refl _) _).alloc (by rw [World.size_alloc]; omega) _⟩
end
theorem bad_gen (W : World) (c a : Int) (b : Bool) (h : (c != 0) = b) : Calls Try.prog 28 #[.agg #[.int .i64 c, .int .i64 a]] W fun e w' => e = .returned (.bool b) ∧ Below W.heap.size W w' := by rw [← h]; exact oct.bad_any c a W
set_option maxRecDepth 100000 in
set_option maxHeartbeats 4000000 in
theorem print_bad (v : Int) (f : Fr) (a : Int) (w : World) (hi : f.id.length ≤ 4000) (hbad : ¬ okF v f = true) : Calls Try.prog 20 #[vF f a, .int .i64 v] w fun e w' => e = .returned (.tuple #[.string ⟨#[]⟩, .agg #[.int .i64 5, .int .i64 0]]) ∧ Below w.heap.size w w' := by
  have HCK := Lib.hid (fun W => check_any v f a W hi)
  have e5 : erI v f = 5 := by unfold erI; rw [if_neg hbad]
  rw [e5] at HCK
  obtain ⟨q, hq⟩ : ∃ q : Int, q = 5 := ⟨_, rfl⟩
  have HBD := Lib.hid (fun W => bad_gen W q 0 true (by rw [hq]; rfl))
  rw [← hq] at HCK ⊢
  unfold vF at *
  clear hq e5 hbad hi
  generalize bs f.id = I at *
  generalize bs f.bd = B at *
  generalize ((f.st.toNat : Nat) : Int) = s at *
  generalize ((f.fm.toNat : Nat) : Int) = m at *
  generalize ((f.gr.toNat : Nat) : Int) = g at *
  have Q0 := Lib.hid (pq_new w [.string I, .int .u8 s, .int .u8 m, .int .u8 g, .string B, .int .i64 a] 31 34)
  go_enter Try.func20, Try.ntmps20
  go_wp2_with (first
    | (go_at_call 23; refine (HCK.out _).mono ?_; rintro e1 w1 ⟨rfl, hb1⟩; have Q1 := Lib.hid ((Q0.out.below hb1).alloc (.cells #[.int .i64 q, .int .i64 0] 34)); have F1 := Lib.hid (Bk.new w1 34 [.int .i64 q, .int .i64 0]); have G1 : Hid (w.heap.size + 1 < w1.heap.size) := Lib.hid (by have X := hb1.size; rw [World.size_alloc, World.size_alloc] at X; omega); clear hb1 HCK)
    | (go_at_call 28; refine (HBD.out _).mono ?_; rintro e2 w2 ⟨rfl, hb2⟩; have Q2 := Lib.hid (Q1.out.below hb2); have F2 := Lib.hid (F1.out.below hb2); have G2 : Hid (w1.heap.size < w2.heap.size) := Lib.hid F2.out.lt; have y0 := Q2.out.s.c 0 _ rfl; have y1 := Q2.out.s.c 1 _ rfl; have y2 := Q2.out.s.c 2 _ rfl; have y3 := Q2.out.s.c 3 _ rfl; have y4 := Q2.out.s.c 4 _ rfl; have y5 := Q2.out.s.c 5 _ rfl; have f0 := F2.out.c 0 _ rfl; have f1 := F2.out.c 1 _ rfl; have r0 := Q2.out.r.c 0 _ rfl; have r1 := Q2.out.r.c 1 _ rfl; have rf := Q2.out.r.f; clear hb2 HBD))
  go_region
  go_wp2_with fail
  refine bodyPost_ret (v := .tuple #[.string ⟨#[]⟩, .agg #[.int .i64 q, .int .i64 0]]) (by simp [results, Try.results20, go_sem, r0, r1]) rfl ⟨rfl, ?_⟩
  exact ((Q2.out.b.setCell (p := ⟨w.heap.size + 1, 0, none⟩) (Nat.le_succ _) _).setCell (p := ⟨w.heap.size + 1, 1, none⟩) (Nat.le_succ _) _).drew
theorem dat_eq (v : Int) (f : Fr) : dat v f = ahd v f ++ (if sprd v f.fm.toNat then un.putL f.bd else f.bd) := by unfold dat ahd; rw [List.append_assoc]
theorem ahd_len (v : Int) (f : Fr) : (ahd v f).length ≤ 5 := by
  unfold ahd
  rw [List.length_append]
  have h1 : (if grpd v f.fm.toNat then [f.gr] else []).length ≤ 1 := by split <;> simp
  have h2 : (if msrd v f.fm.toNat then oct.bigL 128 4 f.bd.length else []).length ≤ 4 := by split; rw [oct.bigL_len]; omega; simp
  omega
set_option maxRecDepth 100000 in
set_option maxHeartbeats 8000000 in
theorem print_good_s {K : World → Prop} (u : un.Un K) (v : Int) (f : Fr) (a : Int) (w : World) (hK : K w) (hi : f.id.length ≤ 4000) (hb : f.bd.length ≤ 4000) (hok : okF v f = true) (hS : sprd v f.fm.toNat = true) : Calls Try.prog 20 #[vF f a, .int .i64 v] w fun e w' => e = .returned (.tuple #[.string (bs (pr v f)), .agg #[.int .i64 0, .int .i64 0]]) ∧ Below w.heap.size w w' := by
  have hv : v = 2 ∨ v = 3 ∨ v = 4 := v_of (by have := nmd_at (okF_at hok).1; omega)
  have HCK := Lib.hid (fun W => check_any v f a W hi)
  have e5 : erI v f = 0 := by unfold erI; rw [if_pos hok]
  obtain ⟨q, hq⟩ : ∃ q : Int, q = erI v f := ⟨_, rfl⟩
  have HBD := Lib.hid (fun W => bad_gen W q 0 false (by rw [hq, e5]; rfl))
  rw [← hq] at HCK
  have HK : Hid (∀ W, Below w.heap.size w W → K W) := Lib.hid (fun W h => u.stay w W hK h)
  have HAH := Lib.hid (fun W => ahead_any v f a W hb)
  have HSP := Lib.hid (fun W => spread_any v (bs f.id) (f.st.toNat : Int) f.fm.toNat W (UInt8.toNat_lt f.fm))
  have HFL := Lib.hid (fun W => flags_any v f W)
  have HBO := Lib.hid (fun W h => body_any u v f a W (HK.out W h) hb)
  have HMO := Lib.hid (fun W => most_any v W)
  rw [hS] at HSP HBO
  have hdl := dat_len v f
  have hpl := un.put_len f.bd
  have hel := un.ext_le f.bd
  have hal := ahd_len v f
  have HSZ := Lib.hid (fun W => sized_any v (dat v f).length W hv (by omega))
  have hm9 : 16777215 ≤ mst v := by unfold mst; split <;> omega
  have hdat := dat_eq v f
  rw [hS] at hdat
  rw [if_pos rfl] at HBO hdat
  have HEX : Hid (∀ W, Below w.heap.size w W → Calls Try.prog 38 #[.string (bs f.bd)] W fun e w' => e = .returned (.int .i64 ((un.extL f.bd : Nat) : Int)) ∧ Below W.heap.size W w') := Lib.hid (fun W h => by
    have := u.extra (bs f.bd) W (HK.out W h) (by rw [bs_size]; exact hb)
    rw [bs_list] at this
    exact this)
  have hdn : (dat v f).length = (ahd v f).length + f.bd.length + un.extL f.bd := by rw [hdat, List.length_append]; omega
  have w1 : IntKind.i64.wrap (((bs (ahd v f)).size : Int) + ((bs f.bd).size : Int)) = ((bs (ahd v f)).size : Int) + ((bs f.bd).size : Int) := by rw [bs_size, bs_size, wrap64 (by omega) (by omega)]
  have w2 : IntKind.i64.wrap (((bs (ahd v f)).size : Int) + ((bs f.bd).size : Int) + ((un.extL f.bd : Nat) : Int)) = ((dat v f).length : Int) := by rw [bs_size, bs_size, wrap64 (by omega) (by omega)]; omega
  have w3 : ¬ mst v < ((dat v f).length : Int) := by omega
  generalize ((un.extL f.bd : Nat) : Int) = E at *
  obtain ⟨T, hT⟩ : ∃ T, T = bs (un.putL f.bd) := ⟨_, rfl⟩
  rw [← hT] at HBO
  have hTl : T.data.toList = un.putL f.bd := by rw [hT, bs_list]
  have hTs : T.size ≤ 10000 := by rw [hT, bs_size]; omega
  have hsl : (siz v (dat v f).length).length ≤ 4 := by rw [siz_len hv]; split <;> omega
  have hfl : (flg v f).length ≤ 2 := by unfold flg; split <;> simp
  have HJ5 : Hid (∀ W : World, Calls Try.prog 40 #[.slice (some ⟨W.heap.size, 0, none⟩) 5 5] (W.alloc (.cells #[.string (bs f.id), .string (bs (siz v (dat v f).length)), .string (bs (flg v f)), .string (bs (ahd v f)), .string T] 9)) fun r w' => r = .returned (.string (bs (pr v f))) ∧ Below (W.alloc (.cells #[.string (bs f.id), .string (bs (siz v (dat v f).length)), .string (bs (flg v f)), .string (bs (ahd v f)), .string T] 9)).heap.size (W.alloc (.cells #[.string (bs f.id), .string (bs (siz v (dat v f).length)), .string (bs (flg v f)), .string (bs (ahd v f)), .string T] 9)) w') := Lib.hid (fun W => by
    have h := jn.join_5 W.heap.size (bs f.id) (bs (siz v (dat v f).length)) (bs (flg v f)) (bs (ahd v f)) T _ (Bk.new W 9 [.string (bs f.id), .string (bs (siz v (dat v f).length)), .string (bs (flg v f)), .string (bs (ahd v f)), .string T]) (by rw [bs_size]; omega) (by rw [bs_size]; omega) (by rw [bs_size]; omega) (by rw [bs_size]; omega) hTs
    rw [bs_list, bs_list, bs_list, bs_list, hTl, show f.id ++ (siz v (dat v f).length ++ (flg v f ++ (ahd v f ++ _))) = pr v f by unfold pr; rw [← hdat]] at h
    exact h)
  clear hsl hfl hTl hTs hT hdat hdn hm9 hal hel hpl hdl hS hK hi hb hok hv e5 hq
  generalize bs (pr v f) = O at *
  generalize bs (flg v f) = X2 at *
  generalize bs (ahd v f) = X3 at *
  generalize bs (siz v (dat v f).length) = X1 at *
  generalize ((dat v f).length : Int) = D at *
  generalize mst v = M at *
  unfold vF at *
  unfold fn.vH at *
  generalize bs f.id = I at *
  generalize bs f.bd = B at *
  generalize ((f.st.toNat : Nat) : Int) = s at *
  generalize ((f.fm.toNat : Nat) : Int) = m at *
  generalize ((f.gr.toNat : Nat) : Int) = g at *
  have Q0 := Lib.hid (pq_new w [.string I, .int .u8 s, .int .u8 m, .int .u8 g, .string B, .int .i64 a] 31 34)
  go_enter Try.func20, Try.ntmps20
  go_wp2_with (first
    | (go_at_call 23; refine (HCK.out _).mono ?_; rintro e1 w1 ⟨rfl, hb1⟩; have Q1 := Lib.hid ((Q0.out.below hb1).alloc (.cells #[.int .i64 q, .int .i64 0] 34)); have F1 := Lib.hid (Bk.new w1 34 [.int .i64 q, .int .i64 0]); have G1 : Hid (w.heap.size + 1 < w1.heap.size) := Lib.hid (by have X := hb1.size; rw [World.size_alloc, World.size_alloc] at X; omega); clear hb1 HCK)
    | (go_at_call 28; refine (HBD.out _).mono ?_; rintro e2 w2 ⟨rfl, hb2⟩; have Q2 := Lib.hid (Q1.out.below hb2); have F2 := Lib.hid (F1.out.below hb2); have G2 : Hid (w1.heap.size < w2.heap.size) := Lib.hid F2.out.lt; have y0 := Q2.out.s.c 0 _ rfl; have y1 := Q2.out.s.c 1 _ rfl; have y2 := Q2.out.s.c 2 _ rfl; have y3 := Q2.out.s.c 3 _ rfl; have y4 := Q2.out.s.c 4 _ rfl; have y5 := Q2.out.s.c 5 _ rfl; have f0 := F2.out.c 0 _ rfl; have f1 := F2.out.c 1 _ rfl; have r0 := Q2.out.r.c 0 _ rfl; have r1 := Q2.out.r.c 1 _ rfl; have rf := Q2.out.r.f; clear hb2 HBD)
    | (go_at_call 37; refine (HAH.out _).mono ?_; rintro e3 w3 ⟨rfl, hb3⟩; have Q3 := Lib.hid (Q2.out.below hb3); clear r0 r1 rf f0 f1 F1 F2; have y0 := Q3.out.s.c 0 _ rfl; have y1 := Q3.out.s.c 1 _ rfl; have y2 := Q3.out.s.c 2 _ rfl; have y3 := Q3.out.s.c 3 _ rfl; have y4 := Q3.out.s.c 4 _ rfl; have y5 := Q3.out.s.c 5 _ rfl; clear hb3 HAH)
    | (go_at_call 14; refine (HSP.out _).mono ?_; rintro e4 w4 ⟨rfl, hb4⟩; have Q4 := Lib.hid (Q3.out.below hb4); have y0 := Q4.out.s.c 0 _ rfl; have y1 := Q4.out.s.c 1 _ rfl; have y2 := Q4.out.s.c 2 _ rfl; have y3 := Q4.out.s.c 3 _ rfl; have y4 := Q4.out.s.c 4 _ rfl; have y5 := Q4.out.s.c 5 _ rfl; clear hb4 HSP)
    | (go_at_call 38; refine (HEX.out _ Q4.out.b).mono ?_; rintro e5 w5 ⟨rfl, hb5⟩; have Q5 := Lib.hid (Q4.out.below hb5); have y0 := Q5.out.s.c 0 _ rfl; have y1 := Q5.out.s.c 1 _ rfl; have y2 := Q5.out.s.c 2 _ rfl; have y3 := Q5.out.s.c 3 _ rfl; have y4 := Q5.out.s.c 4 _ rfl; have y5 := Q5.out.s.c 5 _ rfl; clear hb5 HEX)
    | (go_at_call 39; refine (HMO.out _).mono ?_; rintro e6 w6 ⟨rfl, rfl⟩))
  have Q7 := Lib.hid Q5.out.drew
  refine wp_region_held_drew (S := (fun W => W.cell? ⟨w.heap.size, 0, none⟩ = some (.string I) ∧ W.cell? ⟨w.heap.size, 1, none⟩ = some (.int .u8 s) ∧ W.cell? ⟨w.heap.size, 2, none⟩ = some (.int .u8 m) ∧ W.cell? ⟨w.heap.size, 3, none⟩ = some (.int .u8 g) ∧ W.cell? ⟨w.heap.size, 4, none⟩ = some (.string B) ∧ W.cell? ⟨w.heap.size, 5, none⟩ = some (.int .i64 a))) (by kernel_rfl) ?_ (fun hHeld => ?_)
  · exact ⟨y0, y1, y2, y3, y4, y5⟩
  (refine wpAnyH_take (i := 0) (oi := ⟨_, _, _, _, _, _⟩) (v := ?_) rfl (by kernel_rfl) (by kernel_rfl) (by kernel_rfl) (fun _ _ _ h => h) (Or.inl ⟨by rfl, ?_⟩) (by assumption) ?_); rotate_left; (focus (intro w hSw; (try dsimp only at hSw); go_simp; (try with_reducible rfl); done)); (try simp only [Act.put, List.setIfInBounds_toArray, List.set_cons_zero, List.set_cons_succ])
  (refine wpAnyH_take (i := 1) (oi := ⟨_, _, _, _, _, _⟩) (v := ?_) rfl (by kernel_rfl) (by kernel_rfl) (by kernel_rfl) (fun _ _ _ h => h) (Or.inl ⟨by rfl, ?_⟩) (by assumption) ?_); rotate_left; (focus (intro w hSw; (try dsimp only at hSw); go_simp; (try with_reducible rfl); done)); (try simp only [Act.put, List.setIfInBounds_toArray, List.set_cons_zero, List.set_cons_succ])
  (refine wpAnyH_take (i := 2) (oi := ⟨_, _, _, _, _, _⟩) (v := ?_) rfl (by kernel_rfl) (by kernel_rfl) (by kernel_rfl) (fun _ _ _ h => h) (Or.inl ⟨by rfl, ?_⟩) (by assumption) ?_); rotate_left; (focus (intro w hSw; (try dsimp only at hSw); go_simp; (try with_reducible rfl); done)); (try simp only [Act.put, List.setIfInBounds_toArray, List.set_cons_zero, List.set_cons_succ])
  (refine wpAnyH_take (i := 3) (oi := ⟨_, _, _, _, _, _⟩) (v := ?_) rfl (by kernel_rfl) (by kernel_rfl) (by kernel_rfl) (fun _ _ _ h => h) (Or.inl ⟨by rfl, ?_⟩) (by assumption) ?_); rotate_left; (focus (intro w hSw; (try dsimp only at hSw); go_simp; (try with_reducible rfl); done)); (try simp only [Act.put, List.setIfInBounds_toArray, List.set_cons_zero, List.set_cons_succ])
  (refine wpAnyH_take (i := 4) (oi := ⟨_, _, _, _, _, _⟩) (v := ?_) rfl (by kernel_rfl) (by kernel_rfl) (by kernel_rfl) (fun _ _ _ h => h) (Or.inl ⟨by rfl, ?_⟩) (by assumption) ?_); rotate_left; (focus (intro w hSw; (try dsimp only at hSw); go_simp; (try with_reducible rfl); done)); (try simp only [Act.put, List.setIfInBounds_toArray, List.set_cons_zero, List.set_cons_succ])
  (refine wpAnyH_take (i := 6) (oi := ⟨_, _, _, _, _, _⟩) (v := ?_) rfl (by kernel_rfl) (by kernel_rfl) (by kernel_rfl) (fun _ _ _ h => h) (Or.inl ⟨by rfl, ?_⟩) (by assumption) ?_); rotate_left; (focus (intro w hSw; (try dsimp only at hSw); go_simp; (try with_reducible rfl); done)); (try simp only [Act.put, List.setIfInBounds_toArray, List.set_cons_zero, List.set_cons_succ])
  (refine wpAnyH_take (i := 7) (oi := ⟨_, _, _, _, _, _⟩) (v := ?_) rfl (by kernel_rfl) (by kernel_rfl) (by kernel_rfl) (fun _ _ _ h => h) (Or.inl ⟨by rfl, ?_⟩) (by assumption) ?_); rotate_left; (focus (intro w hSw; (try dsimp only at hSw); go_simp; (try with_reducible rfl); done)); (try simp only [Act.put, List.setIfInBounds_toArray, List.set_cons_zero, List.set_cons_succ])
  (refine wpAnyH_take (i := 8) (oi := ⟨_, _, _, _, _, _⟩) (v := ?_) rfl (by kernel_rfl) (by kernel_rfl) (by kernel_rfl) (fun _ _ _ h => h) (Or.inl ⟨by rfl, ?_⟩) (by assumption) ?_); rotate_left; (focus (intro w hSw; (try dsimp only at hSw); go_simp; (try with_reducible rfl); done)); (try simp only [Act.put, List.setIfInBounds_toArray, List.set_cons_zero, List.set_cons_succ])
  (refine wpAnyH_take (i := 10) (oi := ⟨_, _, _, _, _, _⟩) (v := ?_) rfl (by kernel_rfl) (by kernel_rfl) (by kernel_rfl) (fun _ _ _ h => h) (Or.inl ⟨by rfl, ?_⟩) (by assumption) ?_); rotate_left; (focus (intro w hSw; (try dsimp only at hSw); go_simp; (try with_reducible rfl); done)); (try simp only [Act.put, List.setIfInBounds_toArray, List.set_cons_zero, List.set_cons_succ])
  (refine wpAnyH_take (i := 11) (oi := ⟨_, _, _, _, _, _⟩) (v := ?_) rfl (by kernel_rfl) (by kernel_rfl) (by kernel_rfl) (fun _ _ _ h => h) (Or.inl ⟨by rfl, ?_⟩) (by assumption) ?_); rotate_left; (focus (intro w hSw; (try dsimp only at hSw); go_simp; (try with_reducible rfl); done)); (try simp only [Act.put, List.setIfInBounds_toArray, List.set_cons_zero, List.set_cons_succ])
  (refine wpAnyH_take (i := 12) (oi := ⟨_, _, _, _, _, _⟩) (v := ?_) rfl (by kernel_rfl) (by kernel_rfl) (by kernel_rfl) (fun _ _ _ h => h) (Or.inl ⟨by rfl, ?_⟩) (by assumption) ?_); rotate_left; (focus (intro w hSw; (try dsimp only at hSw); go_simp; (try with_reducible rfl); done)); (try simp only [Act.put, List.setIfInBounds_toArray, List.set_cons_zero, List.set_cons_succ])
  (refine wpAnyH_take (i := 16) (oi := ⟨_, _, _, _, _, _⟩) (v := ?_) rfl (by kernel_rfl) (by kernel_rfl) (by kernel_rfl) (fun _ _ _ h => h) (Or.inl ⟨by rfl, ?_⟩) (by assumption) ?_); rotate_left; (focus (intro w hSw; (try dsimp only at hSw); go_simp; (try with_reducible rfl); done)); (try simp only [Act.put, List.setIfInBounds_toArray, List.set_cons_zero, List.set_cons_succ])
  refine wpAnyH_ready (rs := [5]) (by kernel_rfl) (by simp) ?_; refine AllReadyH.cons (o := ⟨_, _, _, _, _, _⟩) rfl (fun K hK => ?_) AllReadyH.nil; go_simp
  (go_at_call 41; refine (HSZ.out _).mono ?_; rintro e8 w8 ⟨rfl, hb8⟩; have Q8 := Lib.hid (Q7.out.below hb8); have y0 := Q8.out.s.c 0 _ rfl; have y1 := Q8.out.s.c 1 _ rfl; have y2 := Q8.out.s.c 2 _ rfl; have y3 := Q8.out.s.c 3 _ rfl; have y4 := Q8.out.s.c 4 _ rfl; have y5 := Q8.out.s.c 5 _ rfl; clear hb8)
  (try go_wp2_with fail); refine hK.out _ _ ?_ ?_; (focus ((try dsimp only); (try go_keep); done)); clear hHeld hK K; intro hHeld; (try simp only [Act.put, List.setIfInBounds_toArray, List.set_cons_zero, List.set_cons_succ])
  refine wpAnyH_ready (rs := [9]) (by kernel_rfl) (by simp) ?_; refine AllReadyH.cons (o := ⟨_, _, _, _, _, _⟩) rfl (fun K hK => ?_) AllReadyH.nil; go_simp
  (go_at_call 42; refine (HFL.out _).mono ?_; rintro e9 w9 ⟨rfl, hb9⟩; have Q9 := Lib.hid (Q8.out.below hb9); have y0 := Q9.out.s.c 0 _ rfl; have y1 := Q9.out.s.c 1 _ rfl; have y2 := Q9.out.s.c 2 _ rfl; have y3 := Q9.out.s.c 3 _ rfl; have y4 := Q9.out.s.c 4 _ rfl; have y5 := Q9.out.s.c 5 _ rfl; clear hb9)
  (try go_wp2_with fail); refine hK.out _ _ ?_ ?_; (focus ((try dsimp only); (try go_keep); done)); clear hHeld hK K; intro hHeld; (try simp only [Act.put, List.setIfInBounds_toArray, List.set_cons_zero, List.set_cons_succ])
  refine wpAnyH_ready (rs := [13]) (by kernel_rfl) (by simp) ?_; refine AllReadyH.cons (o := ⟨_, _, _, _, _, _⟩) rfl (fun K hK => ?_) AllReadyH.nil; go_simp
  (go_at_call 43; refine (HBO.out _ Q9.out.b).mono ?_; rintro e10 w10 ⟨rfl, hb10⟩; have Q10 := Lib.hid (Q9.out.below hb10); have y0 := Q10.out.s.c 0 _ rfl; have y1 := Q10.out.s.c 1 _ rfl; have y2 := Q10.out.s.c 2 _ rfl; have y3 := Q10.out.s.c 3 _ rfl; have y4 := Q10.out.s.c 4 _ rfl; have y5 := Q10.out.s.c 5 _ rfl; clear hb10)
  (try go_wp2_with fail); refine hK.out _ _ ?_ ?_; (focus ((try dsimp only); (try go_keep); done)); clear hHeld hK K; intro hHeld; (try simp only [Act.put, List.setIfInBounds_toArray, List.set_cons_zero, List.set_cons_succ])
  refine wpAnyH_ready (rs := [14]) (by kernel_rfl) (by simp) ?_; refine AllReadyH.cons (o := ⟨_, _, _, _, _, _⟩) rfl (fun K hK => ?_) AllReadyH.nil; go_simp
  (try go_wp2_with fail); refine hK.out _ _ ?_ ?_; (focus ((try dsimp only); (try go_keep); done)); clear hHeld hK K; intro hHeld; (try simp only [Act.put, List.setIfInBounds_toArray, List.set_cons_zero, List.set_cons_succ])
  refine wpAnyH_ready (rs := [15]) (by kernel_rfl) (by simp) ?_; refine AllReadyH.cons (o := ⟨_, _, _, _, _, _⟩) rfl (fun K hK => ?_) AllReadyH.nil; go_simp
  (go_at_call 40; refine (HJ5.out _).mono ?_; rintro e11 w11 ⟨rfl, hb11⟩; have Q11 := Lib.hid ((Q10.out.alloc _).below hb11); have y0 := Q11.out.s.c 0 _ rfl; have y1 := Q11.out.s.c 1 _ rfl; have y2 := Q11.out.s.c 2 _ rfl; have y3 := Q11.out.s.c 3 _ rfl; have y4 := Q11.out.s.c 4 _ rfl; have y5 := Q11.out.s.c 5 _ rfl; have r0 := Q11.out.r.c 0 _ rfl; have r1 := Q11.out.r.c 1 _ rfl; have rf := Q11.out.r.f; clear hb11)
  (try go_wp2_with fail); refine hK.out _ _ ?_ ?_; (focus ((try dsimp only); (try go_keep); done)); clear hHeld hK K; intro hHeld; (try simp only [Act.put, List.setIfInBounds_toArray, List.set_cons_zero, List.set_cons_succ])
  (refine wpAnyH_take (i := 17) (oi := ⟨_, _, _, _, _, _⟩) (v := ?_) rfl (by kernel_rfl) (by kernel_rfl) (by kernel_rfl) (fun _ _ _ h => h) (Or.inl ⟨by rfl, ?_⟩) (by assumption) ?_); rotate_left; (focus (intro w hSw; (try dsimp only at hSw); go_simp; (try with_reducible rfl); done)); (try simp only [Act.put, List.setIfInBounds_toArray, List.set_cons_zero, List.set_cons_succ])
  refine wpAnyH_ready (rs := [18]) (by kernel_rfl) (by simp) ?_; refine AllReadyH.cons (o := ⟨_, _, _, _, _, _⟩) rfl (fun K hK => ?_) AllReadyH.nil; go_simp
  (try go_wp2_with fail); refine hK.out _ _ ?_ ?_; (focus ((try dsimp only); (try go_keep); done)); clear hHeld hK K; intro hHeld; (try simp only [Act.put, List.setIfInBounds_toArray, List.set_cons_zero, List.set_cons_succ])
  refine wpAnyH_done (by kernel_rfl) ?_ _
  go_wp2_with fail
  refine bodyPost_ret (v := .tuple #[.string O, .agg #[.int .i64 0, .int .i64 0]]) (by simp [results, Try.results20, go_sem, r0, r1]) rfl ⟨rfl, ?_⟩
  exact (Q11.out.b.setCell (p := ⟨w.heap.size + 1, 0, none⟩) (Nat.le_succ _) _).setCell (p := ⟨w.heap.size + 1, 1, none⟩) (Nat.le_succ _) _
set_option maxRecDepth 100000 in
set_option maxHeartbeats 8000000 in
theorem print_good_n {K : World → Prop} (u : un.Un K) (v : Int) (f : Fr) (a : Int) (w : World) (hK : K w) (hi : f.id.length ≤ 4000) (hb : f.bd.length ≤ 4000) (hok : okF v f = true) (hS : sprd v f.fm.toNat = false) : Calls Try.prog 20 #[vF f a, .int .i64 v] w fun e w' => e = .returned (.tuple #[.string (bs (pr v f)), .agg #[.int .i64 0, .int .i64 0]]) ∧ Below w.heap.size w w' := by
  have hv : v = 2 ∨ v = 3 ∨ v = 4 := v_of (by have := nmd_at (okF_at hok).1; omega)
  have HCK := Lib.hid (fun W => check_any v f a W hi)
  have e5 : erI v f = 0 := by unfold erI; rw [if_pos hok]
  obtain ⟨q, hq⟩ : ∃ q : Int, q = erI v f := ⟨_, rfl⟩
  have HBD := Lib.hid (fun W => bad_gen W q 0 false (by rw [hq, e5]; rfl))
  rw [← hq] at HCK
  have HK : Hid (∀ W, Below w.heap.size w W → K W) := Lib.hid (fun W h => u.stay w W hK h)
  have HAH := Lib.hid (fun W => ahead_any v f a W hb)
  have HSP := Lib.hid (fun W => spread_any v (bs f.id) (f.st.toNat : Int) f.fm.toNat W (UInt8.toNat_lt f.fm))
  have HFL := Lib.hid (fun W => flags_any v f W)
  have HBO := Lib.hid (fun W h => body_any u v f a W (HK.out W h) hb)
  have HMO := Lib.hid (fun W => most_any v W)
  rw [hS] at HSP HBO
  have hdl := dat_len v f
  have hpl := un.put_len f.bd
  have hel := un.ext_le f.bd
  have hal := ahd_len v f
  have HSZ := Lib.hid (fun W => sized_any v (dat v f).length W hv (by omega))
  have hm9 : 16777215 ≤ mst v := by unfold mst; split <;> omega
  have hdat := dat_eq v f
  rw [hS] at hdat
  rw [if_neg (by simp)] at HBO hdat
  have hdn : (dat v f).length = (ahd v f).length + f.bd.length := by rw [hdat, List.length_append]
  have w1 : IntKind.i64.wrap (((bs (ahd v f)).size : Int) + ((bs f.bd).size : Int)) = ((dat v f).length : Int) := by rw [bs_size, bs_size, wrap64 (by omega) (by omega)]; omega
  have w3 : ¬ mst v < ((dat v f).length : Int) := by omega
  obtain ⟨T, hT⟩ : ∃ T, T = bs f.bd := ⟨_, rfl⟩
  rw [← hT] at HBO
  have hTl : T.data.toList = f.bd := by rw [hT, bs_list]
  have hTs : T.size ≤ 10000 := by rw [hT, bs_size]; omega
  have hsl : (siz v (dat v f).length).length ≤ 4 := by rw [siz_len hv]; split <;> omega
  have hfl : (flg v f).length ≤ 2 := by unfold flg; split <;> simp
  have HJ5 : Hid (∀ W : World, Calls Try.prog 40 #[.slice (some ⟨W.heap.size, 0, none⟩) 5 5] (W.alloc (.cells #[.string (bs f.id), .string (bs (siz v (dat v f).length)), .string (bs (flg v f)), .string (bs (ahd v f)), .string T] 9)) fun r w' => r = .returned (.string (bs (pr v f))) ∧ Below (W.alloc (.cells #[.string (bs f.id), .string (bs (siz v (dat v f).length)), .string (bs (flg v f)), .string (bs (ahd v f)), .string T] 9)).heap.size (W.alloc (.cells #[.string (bs f.id), .string (bs (siz v (dat v f).length)), .string (bs (flg v f)), .string (bs (ahd v f)), .string T] 9)) w') := Lib.hid (fun W => by
    have h := jn.join_5 W.heap.size (bs f.id) (bs (siz v (dat v f).length)) (bs (flg v f)) (bs (ahd v f)) T _ (Bk.new W 9 [.string (bs f.id), .string (bs (siz v (dat v f).length)), .string (bs (flg v f)), .string (bs (ahd v f)), .string T]) (by rw [bs_size]; omega) (by rw [bs_size]; omega) (by rw [bs_size]; omega) (by rw [bs_size]; omega) hTs
    rw [bs_list, bs_list, bs_list, bs_list, hTl, show f.id ++ (siz v (dat v f).length ++ (flg v f ++ (ahd v f ++ _))) = pr v f by unfold pr; rw [← hdat]] at h
    exact h)
  clear hsl hfl hTl hTs hT hdat hdn hm9 hal hel hpl hdl hS hK hi hb hok hv e5 hq
  generalize bs (pr v f) = O at *
  generalize bs (flg v f) = X2 at *
  generalize bs (ahd v f) = X3 at *
  generalize bs (siz v (dat v f).length) = X1 at *
  generalize ((dat v f).length : Int) = D at *
  generalize mst v = M at *
  unfold vF at *
  unfold fn.vH at *
  generalize bs f.id = I at *
  generalize bs f.bd = B at *
  generalize ((f.st.toNat : Nat) : Int) = s at *
  generalize ((f.fm.toNat : Nat) : Int) = m at *
  generalize ((f.gr.toNat : Nat) : Int) = g at *
  have Q0 := Lib.hid (pq_new w [.string I, .int .u8 s, .int .u8 m, .int .u8 g, .string B, .int .i64 a] 31 34)
  go_enter Try.func20, Try.ntmps20
  go_wp2_with (first
    | (go_at_call 23; refine (HCK.out _).mono ?_; rintro e1 w1 ⟨rfl, hb1⟩; have Q1 := Lib.hid ((Q0.out.below hb1).alloc (.cells #[.int .i64 q, .int .i64 0] 34)); have F1 := Lib.hid (Bk.new w1 34 [.int .i64 q, .int .i64 0]); have G1 : Hid (w.heap.size + 1 < w1.heap.size) := Lib.hid (by have X := hb1.size; rw [World.size_alloc, World.size_alloc] at X; omega); clear hb1 HCK)
    | (go_at_call 28; refine (HBD.out _).mono ?_; rintro e2 w2 ⟨rfl, hb2⟩; have Q2 := Lib.hid (Q1.out.below hb2); have F2 := Lib.hid (F1.out.below hb2); have G2 : Hid (w1.heap.size < w2.heap.size) := Lib.hid F2.out.lt; have y0 := Q2.out.s.c 0 _ rfl; have y1 := Q2.out.s.c 1 _ rfl; have y2 := Q2.out.s.c 2 _ rfl; have y3 := Q2.out.s.c 3 _ rfl; have y4 := Q2.out.s.c 4 _ rfl; have y5 := Q2.out.s.c 5 _ rfl; have f0 := F2.out.c 0 _ rfl; have f1 := F2.out.c 1 _ rfl; have r0 := Q2.out.r.c 0 _ rfl; have r1 := Q2.out.r.c 1 _ rfl; have rf := Q2.out.r.f; clear hb2 HBD)
    | (go_at_call 37; refine (HAH.out _).mono ?_; rintro e3 w3 ⟨rfl, hb3⟩; have Q3 := Lib.hid (Q2.out.below hb3); clear r0 r1 rf f0 f1 F1 F2; have y0 := Q3.out.s.c 0 _ rfl; have y1 := Q3.out.s.c 1 _ rfl; have y2 := Q3.out.s.c 2 _ rfl; have y3 := Q3.out.s.c 3 _ rfl; have y4 := Q3.out.s.c 4 _ rfl; have y5 := Q3.out.s.c 5 _ rfl; clear hb3 HAH)
    | (go_at_call 14; refine (HSP.out _).mono ?_; rintro e4 w4 ⟨rfl, hb4⟩; have Q4 := Lib.hid (Q3.out.below hb4); have y0 := Q4.out.s.c 0 _ rfl; have y1 := Q4.out.s.c 1 _ rfl; have y2 := Q4.out.s.c 2 _ rfl; have y3 := Q4.out.s.c 3 _ rfl; have y4 := Q4.out.s.c 4 _ rfl; have y5 := Q4.out.s.c 5 _ rfl; clear hb4 HSP)
    | (go_at_call 39; refine (HMO.out _).mono ?_; rintro e6 w6 ⟨rfl, rfl⟩))
  have Q7 := Lib.hid Q4.out.drew
  refine wp_region_held_drew (S := (fun W => W.cell? ⟨w.heap.size, 0, none⟩ = some (.string I) ∧ W.cell? ⟨w.heap.size, 1, none⟩ = some (.int .u8 s) ∧ W.cell? ⟨w.heap.size, 2, none⟩ = some (.int .u8 m) ∧ W.cell? ⟨w.heap.size, 3, none⟩ = some (.int .u8 g) ∧ W.cell? ⟨w.heap.size, 4, none⟩ = some (.string B) ∧ W.cell? ⟨w.heap.size, 5, none⟩ = some (.int .i64 a))) (by kernel_rfl) ?_ (fun hHeld => ?_)
  · exact ⟨y0, y1, y2, y3, y4, y5⟩
  (refine wpAnyH_take (i := 0) (oi := ⟨_, _, _, _, _, _⟩) (v := ?_) rfl (by kernel_rfl) (by kernel_rfl) (by kernel_rfl) (fun _ _ _ h => h) (Or.inl ⟨by rfl, ?_⟩) (by assumption) ?_); rotate_left; (focus (intro w hSw; (try dsimp only at hSw); go_simp; (try with_reducible rfl); done)); (try simp only [Act.put, List.setIfInBounds_toArray, List.set_cons_zero, List.set_cons_succ])
  (refine wpAnyH_take (i := 1) (oi := ⟨_, _, _, _, _, _⟩) (v := ?_) rfl (by kernel_rfl) (by kernel_rfl) (by kernel_rfl) (fun _ _ _ h => h) (Or.inl ⟨by rfl, ?_⟩) (by assumption) ?_); rotate_left; (focus (intro w hSw; (try dsimp only at hSw); go_simp; (try with_reducible rfl); done)); (try simp only [Act.put, List.setIfInBounds_toArray, List.set_cons_zero, List.set_cons_succ])
  (refine wpAnyH_take (i := 2) (oi := ⟨_, _, _, _, _, _⟩) (v := ?_) rfl (by kernel_rfl) (by kernel_rfl) (by kernel_rfl) (fun _ _ _ h => h) (Or.inl ⟨by rfl, ?_⟩) (by assumption) ?_); rotate_left; (focus (intro w hSw; (try dsimp only at hSw); go_simp; (try with_reducible rfl); done)); (try simp only [Act.put, List.setIfInBounds_toArray, List.set_cons_zero, List.set_cons_succ])
  (refine wpAnyH_take (i := 3) (oi := ⟨_, _, _, _, _, _⟩) (v := ?_) rfl (by kernel_rfl) (by kernel_rfl) (by kernel_rfl) (fun _ _ _ h => h) (Or.inl ⟨by rfl, ?_⟩) (by assumption) ?_); rotate_left; (focus (intro w hSw; (try dsimp only at hSw); go_simp; (try with_reducible rfl); done)); (try simp only [Act.put, List.setIfInBounds_toArray, List.set_cons_zero, List.set_cons_succ])
  (refine wpAnyH_take (i := 4) (oi := ⟨_, _, _, _, _, _⟩) (v := ?_) rfl (by kernel_rfl) (by kernel_rfl) (by kernel_rfl) (fun _ _ _ h => h) (Or.inl ⟨by rfl, ?_⟩) (by assumption) ?_); rotate_left; (focus (intro w hSw; (try dsimp only at hSw); go_simp; (try with_reducible rfl); done)); (try simp only [Act.put, List.setIfInBounds_toArray, List.set_cons_zero, List.set_cons_succ])
  (refine wpAnyH_take (i := 6) (oi := ⟨_, _, _, _, _, _⟩) (v := ?_) rfl (by kernel_rfl) (by kernel_rfl) (by kernel_rfl) (fun _ _ _ h => h) (Or.inl ⟨by rfl, ?_⟩) (by assumption) ?_); rotate_left; (focus (intro w hSw; (try dsimp only at hSw); go_simp; (try with_reducible rfl); done)); (try simp only [Act.put, List.setIfInBounds_toArray, List.set_cons_zero, List.set_cons_succ])
  (refine wpAnyH_take (i := 7) (oi := ⟨_, _, _, _, _, _⟩) (v := ?_) rfl (by kernel_rfl) (by kernel_rfl) (by kernel_rfl) (fun _ _ _ h => h) (Or.inl ⟨by rfl, ?_⟩) (by assumption) ?_); rotate_left; (focus (intro w hSw; (try dsimp only at hSw); go_simp; (try with_reducible rfl); done)); (try simp only [Act.put, List.setIfInBounds_toArray, List.set_cons_zero, List.set_cons_succ])
  (refine wpAnyH_take (i := 8) (oi := ⟨_, _, _, _, _, _⟩) (v := ?_) rfl (by kernel_rfl) (by kernel_rfl) (by kernel_rfl) (fun _ _ _ h => h) (Or.inl ⟨by rfl, ?_⟩) (by assumption) ?_); rotate_left; (focus (intro w hSw; (try dsimp only at hSw); go_simp; (try with_reducible rfl); done)); (try simp only [Act.put, List.setIfInBounds_toArray, List.set_cons_zero, List.set_cons_succ])
  (refine wpAnyH_take (i := 10) (oi := ⟨_, _, _, _, _, _⟩) (v := ?_) rfl (by kernel_rfl) (by kernel_rfl) (by kernel_rfl) (fun _ _ _ h => h) (Or.inl ⟨by rfl, ?_⟩) (by assumption) ?_); rotate_left; (focus (intro w hSw; (try dsimp only at hSw); go_simp; (try with_reducible rfl); done)); (try simp only [Act.put, List.setIfInBounds_toArray, List.set_cons_zero, List.set_cons_succ])
  (refine wpAnyH_take (i := 11) (oi := ⟨_, _, _, _, _, _⟩) (v := ?_) rfl (by kernel_rfl) (by kernel_rfl) (by kernel_rfl) (fun _ _ _ h => h) (Or.inl ⟨by rfl, ?_⟩) (by assumption) ?_); rotate_left; (focus (intro w hSw; (try dsimp only at hSw); go_simp; (try with_reducible rfl); done)); (try simp only [Act.put, List.setIfInBounds_toArray, List.set_cons_zero, List.set_cons_succ])
  (refine wpAnyH_take (i := 12) (oi := ⟨_, _, _, _, _, _⟩) (v := ?_) rfl (by kernel_rfl) (by kernel_rfl) (by kernel_rfl) (fun _ _ _ h => h) (Or.inl ⟨by rfl, ?_⟩) (by assumption) ?_); rotate_left; (focus (intro w hSw; (try dsimp only at hSw); go_simp; (try with_reducible rfl); done)); (try simp only [Act.put, List.setIfInBounds_toArray, List.set_cons_zero, List.set_cons_succ])
  (refine wpAnyH_take (i := 16) (oi := ⟨_, _, _, _, _, _⟩) (v := ?_) rfl (by kernel_rfl) (by kernel_rfl) (by kernel_rfl) (fun _ _ _ h => h) (Or.inl ⟨by rfl, ?_⟩) (by assumption) ?_); rotate_left; (focus (intro w hSw; (try dsimp only at hSw); go_simp; (try with_reducible rfl); done)); (try simp only [Act.put, List.setIfInBounds_toArray, List.set_cons_zero, List.set_cons_succ])
  refine wpAnyH_ready (rs := [5]) (by kernel_rfl) (by simp) ?_; refine AllReadyH.cons (o := ⟨_, _, _, _, _, _⟩) rfl (fun K hK => ?_) AllReadyH.nil; go_simp
  (go_at_call 41; refine (HSZ.out _).mono ?_; rintro e8 w8 ⟨rfl, hb8⟩; have Q8 := Lib.hid (Q7.out.below hb8); have y0 := Q8.out.s.c 0 _ rfl; have y1 := Q8.out.s.c 1 _ rfl; have y2 := Q8.out.s.c 2 _ rfl; have y3 := Q8.out.s.c 3 _ rfl; have y4 := Q8.out.s.c 4 _ rfl; have y5 := Q8.out.s.c 5 _ rfl; clear hb8)
  (try go_wp2_with fail); refine hK.out _ _ ?_ ?_; (focus ((try dsimp only); (try go_keep); done)); clear hHeld hK K; intro hHeld; (try simp only [Act.put, List.setIfInBounds_toArray, List.set_cons_zero, List.set_cons_succ])
  refine wpAnyH_ready (rs := [9]) (by kernel_rfl) (by simp) ?_; refine AllReadyH.cons (o := ⟨_, _, _, _, _, _⟩) rfl (fun K hK => ?_) AllReadyH.nil; go_simp
  (go_at_call 42; refine (HFL.out _).mono ?_; rintro e9 w9 ⟨rfl, hb9⟩; have Q9 := Lib.hid (Q8.out.below hb9); have y0 := Q9.out.s.c 0 _ rfl; have y1 := Q9.out.s.c 1 _ rfl; have y2 := Q9.out.s.c 2 _ rfl; have y3 := Q9.out.s.c 3 _ rfl; have y4 := Q9.out.s.c 4 _ rfl; have y5 := Q9.out.s.c 5 _ rfl; clear hb9)
  (try go_wp2_with fail); refine hK.out _ _ ?_ ?_; (focus ((try dsimp only); (try go_keep); done)); clear hHeld hK K; intro hHeld; (try simp only [Act.put, List.setIfInBounds_toArray, List.set_cons_zero, List.set_cons_succ])
  refine wpAnyH_ready (rs := [13]) (by kernel_rfl) (by simp) ?_; refine AllReadyH.cons (o := ⟨_, _, _, _, _, _⟩) rfl (fun K hK => ?_) AllReadyH.nil; go_simp
  (go_at_call 43; refine (HBO.out _ Q9.out.b).mono ?_; rintro e10 w10 ⟨rfl, hb10⟩; have Q10 := Lib.hid (Q9.out.below hb10); have y0 := Q10.out.s.c 0 _ rfl; have y1 := Q10.out.s.c 1 _ rfl; have y2 := Q10.out.s.c 2 _ rfl; have y3 := Q10.out.s.c 3 _ rfl; have y4 := Q10.out.s.c 4 _ rfl; have y5 := Q10.out.s.c 5 _ rfl; clear hb10)
  (try go_wp2_with fail); refine hK.out _ _ ?_ ?_; (focus ((try dsimp only); (try go_keep); done)); clear hHeld hK K; intro hHeld; (try simp only [Act.put, List.setIfInBounds_toArray, List.set_cons_zero, List.set_cons_succ])
  refine wpAnyH_ready (rs := [14]) (by kernel_rfl) (by simp) ?_; refine AllReadyH.cons (o := ⟨_, _, _, _, _, _⟩) rfl (fun K hK => ?_) AllReadyH.nil; go_simp
  (try go_wp2_with fail); refine hK.out _ _ ?_ ?_; (focus ((try dsimp only); (try go_keep); done)); clear hHeld hK K; intro hHeld; (try simp only [Act.put, List.setIfInBounds_toArray, List.set_cons_zero, List.set_cons_succ])
  refine wpAnyH_ready (rs := [15]) (by kernel_rfl) (by simp) ?_; refine AllReadyH.cons (o := ⟨_, _, _, _, _, _⟩) rfl (fun K hK => ?_) AllReadyH.nil; go_simp
  (go_at_call 40; refine (HJ5.out _).mono ?_; rintro e11 w11 ⟨rfl, hb11⟩; have Q11 := Lib.hid ((Q10.out.alloc _).below hb11); have y0 := Q11.out.s.c 0 _ rfl; have y1 := Q11.out.s.c 1 _ rfl; have y2 := Q11.out.s.c 2 _ rfl; have y3 := Q11.out.s.c 3 _ rfl; have y4 := Q11.out.s.c 4 _ rfl; have y5 := Q11.out.s.c 5 _ rfl; have r0 := Q11.out.r.c 0 _ rfl; have r1 := Q11.out.r.c 1 _ rfl; have rf := Q11.out.r.f; clear hb11)
  (try go_wp2_with fail); refine hK.out _ _ ?_ ?_; (focus ((try dsimp only); (try go_keep); done)); clear hHeld hK K; intro hHeld; (try simp only [Act.put, List.setIfInBounds_toArray, List.set_cons_zero, List.set_cons_succ])
  (refine wpAnyH_take (i := 17) (oi := ⟨_, _, _, _, _, _⟩) (v := ?_) rfl (by kernel_rfl) (by kernel_rfl) (by kernel_rfl) (fun _ _ _ h => h) (Or.inl ⟨by rfl, ?_⟩) (by assumption) ?_); rotate_left; (focus (intro w hSw; (try dsimp only at hSw); go_simp; (try with_reducible rfl); done)); (try simp only [Act.put, List.setIfInBounds_toArray, List.set_cons_zero, List.set_cons_succ])
  refine wpAnyH_ready (rs := [18]) (by kernel_rfl) (by simp) ?_; refine AllReadyH.cons (o := ⟨_, _, _, _, _, _⟩) rfl (fun K hK => ?_) AllReadyH.nil; go_simp
  (try go_wp2_with fail); refine hK.out _ _ ?_ ?_; (focus ((try dsimp only); (try go_keep); done)); clear hHeld hK K; intro hHeld; (try simp only [Act.put, List.setIfInBounds_toArray, List.set_cons_zero, List.set_cons_succ])
  refine wpAnyH_done (by kernel_rfl) ?_ _
  go_wp2_with fail
  refine bodyPost_ret (v := .tuple #[.string O, .agg #[.int .i64 0, .int .i64 0]]) (by simp [results, Try.results20, go_sem, r0, r1]) rfl ⟨rfl, ?_⟩
  exact (Q11.out.b.setCell (p := ⟨w.heap.size + 1, 0, none⟩) (Nat.le_succ _) _).setCell (p := ⟨w.heap.size + 1, 1, none⟩) (Nat.le_succ _) _
theorem print_any {K : World → Prop} (u : un.Un K) (v : Int) (f : Fr) (a : Int) (w : World) (hK : K w) (hi : f.id.length ≤ 4000) (hb : f.bd.length ≤ 4000) : Calls Try.prog 20 #[vF f a, .int .i64 v] w fun e w' => e = .returned (.tuple #[.string (prS v f), .agg #[.int .i64 (erI v f), .int .i64 0]]) ∧ Below w.heap.size w w' := by
  unfold prS erI
  by_cases h : okF v f = true
  · rw [if_pos h, if_pos h]
    cases hS : sprd v f.fm.toNat with
    | true => exact print_good_s u v f a w hK hi hb h hS
    | false => exact print_good_n u v f a w hK hi hb h hS
  · rw [if_neg h, if_neg h]; exact print_bad v f a w hi h
end Go.Proofs.Ytkhajafjieofhaa.fl
