/- The walk of the law WideMarks of layer 3. -/
import Derived.Test.YtmogjimiiadmmaaDoorWdBackW
namespace Go.Proofs.YtmogjimiiadmmaaDoor.wd
open Go.RowKit Go.Lib
set_option linter.unusedVariables false
set_option maxRecDepth 100000 in
theorem marks_big (s : ByteArray) (w : World) (hbig : 2000 < s.size) (hs : s.size ≤ 9223372036854775807) (hT : pt.Tabs w) : Calls Tryd.prog 7 #[.string s] w fun e w' => e = .returned (.bool true) ∧ Below w.heap.size w w' := by
  have HA := Lib.hid (awake_any w hT)
  clear hT
  go_enter Tryd.func7, Tryd.ntmps7
  go_wp2_with (go_at_call 19; refine HA.out.mono ?_; rintro e1 w1 ⟨rfl, hb1⟩)
  go_ret
  exact ⟨rfl, hb1⟩
set_option maxRecDepth 100000 in
set_option maxHeartbeats 1000000 in
theorem marks_empty (w : World) (hT : pt.Tabs w) : Calls Tryd.prog 7 #[.string ⟨#[]⟩] w fun e w' => e = .returned (.bool true) ∧ Below w.heap.size w w' := by
  have hm := fun w2 => Mark_any ⟨#[]⟩ w2
  have e1 : bigMark ⟨#[]⟩ = false := by decide +kernel
  have e2 : littleMark ⟨#[]⟩ = false := by decide +kernel
  rw [e1, e2, Bool.or_false] at hm
  have HM := Lib.hid hm; have HT := Lib.hid hT
  clear hm hT e1 e2
  go_enter Tryd.func7, Tryd.ntmps7
  go_wp2_with (first | (go_at_call 26; refine (HM.out _).mono ?_; rintro e1 w1 ⟨rfl, rfl⟩) | (go_at_call 27; refine (Marked_empty _).mono ?_; rintro e2 w2 ⟨rfl, hb2⟩; have S2 := Lib.hid (St.new (e := 0) (f := 0) HT.out hb2); clear hb2))
  have S3 := Lib.hid S2.out.drew
  obtain ⟨_, c0, c1, _, _⟩ := S2.out.f
  obtain ⟨X, hX⟩ : ∃ X, X = w2.heap.size := ⟨_, rfl⟩
  obtain ⟨W, hW⟩ : ∃ W, W = w2.alloc (.cells #[.int .i64 0, .int .i64 0] 29) := ⟨_, rfl⟩
  rw [← hW, ← hX] at c0 c1 S3
  rw [← hW, ← hX]
  clear S2 hX hW
  refine wp_region_held_drew (S := fun w' => w'.cell? ⟨X, 0, none⟩ = some (.int .i64 0) ∧ w'.cell? ⟨X, 1, none⟩ = some (.int .i64 0)) (by kernel_rfl) ?_ (fun hHeld => ?_)
  · go_keep
  refine wpAnyH_ready (rs := [0]) (by kernel_rfl) (by simp) ?_; refine AllReadyH.cons (o := ⟨_, _, _, _, _, _⟩) rfl (fun K hK => ?_) AllReadyH.nil; go_simp
  (go_at_call 19; refine (awake_any _ S3.out.t).mono ?_; rintro e4 w4 ⟨rfl, hb4⟩; have S4 := Lib.hid (S3.out.below hb4); obtain ⟨_, k0, k1, _, _⟩ := S4.out.f)
  (try go_wp2_with fail); refine hK.out _ _ ?_ ?_; (focus ((try dsimp only); (try go_keep); done)); clear hHeld hK K; intro hHeld; (try simp only [Act.put, List.setIfInBounds_toArray, List.set_cons_zero, List.set_cons_succ])
  (refine wpAnyH_take (i := 1) (oi := ⟨_, _, _, _, _, _⟩) (v := ?_) rfl (by kernel_rfl) (by kernel_rfl) (by kernel_rfl) (fun _ _ _ h => h) (Or.inl ⟨by rfl, ?_⟩) (by assumption) ?_); rotate_left; (focus (intro w hSw; (try dsimp only at hSw); go_simp; (try with_reducible rfl); done)); (try simp only [Act.put, List.setIfInBounds_toArray, List.set_cons_zero, List.set_cons_succ])
  (refine wpAnyH_take (i := 2) (oi := ⟨_, _, _, _, _, _⟩) (v := ?_) rfl (by kernel_rfl) (by kernel_rfl) (by kernel_rfl) (fun _ _ _ h => h) (Or.inl ⟨by rfl, ?_⟩) (by assumption) ?_); rotate_left; (focus (intro w hSw; (try dsimp only at hSw); go_simp; (try with_reducible rfl); done)); (try simp only [Act.put, List.setIfInBounds_toArray, List.set_cons_zero, List.set_cons_succ])
  (refine wpAnyH_take (i := 3) (oi := ⟨_, _, _, _, _, _⟩) (v := ?_) rfl (by kernel_rfl) (by kernel_rfl) (by kernel_rfl) (fun _ _ _ h => h) (Or.inl ⟨by rfl, ?_⟩) (by assumption) ?_); rotate_left; (focus (intro w hSw; (try dsimp only at hSw); go_simp; (try with_reducible rfl); done)); (try simp only [Act.put, List.setIfInBounds_toArray, List.set_cons_zero, List.set_cons_succ])
  (refine wpAnyH_take (i := 4) (oi := ⟨_, _, _, _, _, _⟩) (v := ?_) rfl (by kernel_rfl) (by kernel_rfl) (by kernel_rfl) (fun _ _ _ h => h) (Or.inl ⟨by rfl, ?_⟩) (by assumption) ?_); rotate_left; (focus (intro w hSw; (try dsimp only at hSw); go_simp; (try with_reducible rfl); done)); (try simp only [Act.put, List.setIfInBounds_toArray, List.set_cons_zero, List.set_cons_succ])
  (refine wpAnyH_take (i := 5) (oi := ⟨_, _, _, _, _, _⟩) (v := ?_) rfl (by kernel_rfl) (by kernel_rfl) (by kernel_rfl) (fun _ _ _ h => h) (Or.inl ⟨by rfl, ?_⟩) (by assumption) ?_); rotate_left; (focus (intro w hSw; (try dsimp only at hSw); go_simp; (try with_reducible rfl); done)); (try simp only [Act.put, List.setIfInBounds_toArray, List.set_cons_zero, List.set_cons_succ])
  (refine wpAnyH_take (i := 6) (oi := ⟨_, _, _, _, _, _⟩) (v := ?_) rfl (by kernel_rfl) (by kernel_rfl) (by kernel_rfl) (fun _ _ _ h => h) (Or.inl ⟨by rfl, ?_⟩) (by assumption) ?_); rotate_left; (focus (intro w hSw; (try dsimp only at hSw); go_simp; (try with_reducible rfl); done)); (try simp only [Act.put, List.setIfInBounds_toArray, List.set_cons_zero, List.set_cons_succ])
  (refine wpAnyH_take (i := 7) (oi := ⟨_, _, _, _, _, _⟩) (v := ?_) rfl (by kernel_rfl) (by kernel_rfl) (by kernel_rfl) (fun _ _ _ h => h) (Or.inl ⟨by rfl, ?_⟩) (by assumption) ?_); rotate_left; (focus (intro w hSw; (try dsimp only at hSw); go_simp; (try with_reducible rfl); done)); (try simp only [Act.put, List.setIfInBounds_toArray, List.set_cons_zero, List.set_cons_succ])
  (refine wpAnyH_take (i := 8) (oi := ⟨_, _, _, _, _, _⟩) (v := ?_) rfl (by kernel_rfl) (by kernel_rfl) (by kernel_rfl) (fun _ _ _ h => h) (Or.inl ⟨by rfl, ?_⟩) (by assumption) ?_); rotate_left; (focus (intro w hSw; (try dsimp only at hSw); go_simp; (try with_reducible rfl); done)); (try simp only [Act.put, List.setIfInBounds_toArray, List.set_cons_zero, List.set_cons_succ])
  (refine wpAnyH_take (i := 9) (oi := ⟨_, _, _, _, _, _⟩) (v := ?_) rfl (by kernel_rfl) (by kernel_rfl) (by kernel_rfl) (fun _ _ _ h => h) (Or.inl ⟨by rfl, ?_⟩) (by assumption) ?_); rotate_left; (focus (intro w hSw; (try dsimp only at hSw); go_simp; (try with_reducible rfl); done)); (try simp only [Act.put, List.setIfInBounds_toArray, List.set_cons_zero, List.set_cons_succ])
  refine wpAnyH_ready (rs := [10]) (by kernel_rfl) (by simp) ?_; refine AllReadyH.cons (o := ⟨_, _, _, _, _, _⟩) rfl (fun K hK => ?_) AllReadyH.nil; go_simp
  (go_at_call 15; refine (pt.bad_any _ 0 0).mono ?_; rintro e5 w5 ⟨rfl, hb5⟩; have S5 := Lib.hid (S4.out.below hb5); obtain ⟨_, k0, k1, _, _⟩ := S5.out.f)
  (try go_wp2_with fail); refine hK.out _ _ ?_ ?_; (focus ((try dsimp only); (try go_keep); done)); clear hHeld hK K; intro hHeld; (try simp only [Act.put, List.setIfInBounds_toArray, List.set_cons_zero, List.set_cons_succ])
  (refine wpAnyH_take (i := 11) (oi := ⟨_, _, _, _, _, _⟩) (v := ?_) rfl (by kernel_rfl) (by kernel_rfl) (by kernel_rfl) (fun _ _ _ h => h) (Or.inl ⟨by rfl, ?_⟩) (by assumption) ?_); rotate_left; (focus (intro w hSw; (try dsimp only at hSw); go_simp; (try with_reducible rfl); done)); (try simp only [Act.put, List.setIfInBounds_toArray, List.set_cons_zero, List.set_cons_succ])
  (refine wpAnyH_take (i := 12) (oi := ⟨_, _, _, _, _, _⟩) (v := ?_) rfl (by kernel_rfl) (by kernel_rfl) (by kernel_rfl) (fun _ _ _ h => h) (Or.inl ⟨by rfl, ?_⟩) (by assumption) ?_); rotate_left; (focus (intro w hSw; (try dsimp only at hSw); go_simp; (try with_reducible rfl); done)); (try simp only [Act.put, List.setIfInBounds_toArray, List.set_cons_zero, List.set_cons_succ])
  (refine wpAnyH_take (i := 13) (oi := ⟨_, _, _, _, _, _⟩) (v := ?_) rfl (by kernel_rfl) (by kernel_rfl) (by kernel_rfl) (fun _ _ _ h => h) (Or.inl ⟨by rfl, ?_⟩) (by assumption) ?_); rotate_left; (focus (intro w hSw; (try dsimp only at hSw); go_simp; (try with_reducible rfl); done)); (try simp only [Act.put, List.setIfInBounds_toArray, List.set_cons_zero, List.set_cons_succ])
  (refine wpAnyH_take (i := 14) (oi := ⟨_, _, _, _, _, _⟩) (v := _) rfl (by kernel_rfl) (by kernel_rfl) (by kernel_rfl) (fun _ _ _ h => h) (Or.inr ⟨by rfl, rfl⟩) (by assumption) ?_); (try simp only [Act.put, List.setIfInBounds_toArray, List.set_cons_zero, List.set_cons_succ])
  (refine wpAnyH_take (i := 15) (oi := ⟨_, _, _, _, _, _⟩) (v := _) rfl (by kernel_rfl) (by kernel_rfl) (by kernel_rfl) (fun _ _ _ h => h) (Or.inr ⟨by rfl, rfl⟩) (by assumption) ?_); (try simp only [Act.put, List.setIfInBounds_toArray, List.set_cons_zero, List.set_cons_succ])
  (refine wpAnyH_take (i := 16) (oi := ⟨_, _, _, _, _, _⟩) (v := _) rfl (by kernel_rfl) (by kernel_rfl) (by kernel_rfl) (fun _ _ _ h => h) (Or.inr ⟨by rfl, rfl⟩) (by assumption) ?_); (try simp only [Act.put, List.setIfInBounds_toArray, List.set_cons_zero, List.set_cons_succ])
  (refine wpAnyH_take (i := 17) (oi := ⟨_, _, _, _, _, _⟩) (v := _) rfl (by kernel_rfl) (by kernel_rfl) (by kernel_rfl) (fun _ _ _ h => h) (Or.inr ⟨by rfl, rfl⟩) (by assumption) ?_); (try simp only [Act.put, List.setIfInBounds_toArray, List.set_cons_zero, List.set_cons_succ])
  (refine wpAnyH_take (i := 18) (oi := ⟨_, _, _, _, _, _⟩) (v := _) rfl (by kernel_rfl) (by kernel_rfl) (by kernel_rfl) (fun _ _ _ h => h) (Or.inr ⟨by rfl, rfl⟩) (by assumption) ?_); (try simp only [Act.put, List.setIfInBounds_toArray, List.set_cons_zero, List.set_cons_succ])
  (refine wpAnyH_take (i := 19) (oi := ⟨_, _, _, _, _, _⟩) (v := _) rfl (by kernel_rfl) (by kernel_rfl) (by kernel_rfl) (fun _ _ _ h => h) (Or.inr ⟨by rfl, rfl⟩) (by assumption) ?_); (try simp only [Act.put, List.setIfInBounds_toArray, List.set_cons_zero, List.set_cons_succ])
  (refine wpAnyH_take (i := 20) (oi := ⟨_, _, _, _, _, _⟩) (v := _) rfl (by kernel_rfl) (by kernel_rfl) (by kernel_rfl) (fun _ _ _ h => h) (Or.inr ⟨by rfl, rfl⟩) (by assumption) ?_); (try simp only [Act.put, List.setIfInBounds_toArray, List.set_cons_zero, List.set_cons_succ])
  (refine wpAnyH_take (i := 21) (oi := ⟨_, _, _, _, _, _⟩) (v := ?_) rfl (by kernel_rfl) (by kernel_rfl) (by kernel_rfl) (fun _ _ _ h => h) (Or.inl ⟨by rfl, ?_⟩) (by assumption) ?_); rotate_left; (focus (intro w hSw; (try dsimp only at hSw); go_simp; (try with_reducible rfl); done)); (try simp only [Act.put, List.setIfInBounds_toArray, List.set_cons_zero, List.set_cons_succ])
  (refine wpAnyH_take (i := 22) (oi := ⟨_, _, _, _, _, _⟩) (v := ?_) rfl (by kernel_rfl) (by kernel_rfl) (by kernel_rfl) (fun _ _ _ h => h) (Or.inl ⟨by rfl, ?_⟩) (by assumption) ?_); rotate_left; (focus (intro w hSw; (try dsimp only at hSw); go_simp; (try with_reducible rfl); done)); (try simp only [Act.put, List.setIfInBounds_toArray, List.set_cons_zero, List.set_cons_succ])
  (refine wpAnyH_take (i := 23) (oi := ⟨_, _, _, _, _, _⟩) (v := ?_) rfl (by kernel_rfl) (by kernel_rfl) (by kernel_rfl) (fun _ _ _ h => h) (Or.inl ⟨by rfl, ?_⟩) (by assumption) ?_); rotate_left; (focus (intro w hSw; (try dsimp only at hSw); go_simp; (try with_reducible rfl); done)); (try simp only [Act.put, List.setIfInBounds_toArray, List.set_cons_zero, List.set_cons_succ])
  refine wpAnyH_done (by kernel_rfl) ?_ _
  go_wp2_with fail
  go_ret
  exact ⟨rfl, S5.out.bel⟩
set_option maxRecDepth 100000 in
set_option maxHeartbeats 1000000 in
theorem marks_one (s : ByteArray) (w : World) (hs : s.size ≤ 2000) (hz : s.size = 1) (h1 : bigMark s = false) (h2 : littleMark s = false) (hT : pt.Tabs w) : Calls Tryd.prog 7 #[.string s] w fun e w' => e = .returned (.bool true) ∧ Below w.heap.size w w' := by
  have hm := fun w2 => Mark_any s w2
  have hk := fun w2 => Marked_no s w2 (by omega) h1 h2
  rw [h1, h2, Bool.or_false] at hm
  have m1 : ¬ s.toList = [] := fun h => by rw [ByteArray.toList_eq] at h; have := str_nil.1 h; omega
  have m2 : s.toList.isEmpty = false := by rw [Bool.eq_false_iff]; intro h; exact m1 (List.isEmpty_iff.1 h)
  have HM := Lib.hid hm; have HT := Lib.hid hT; have HK := Lib.hid hk
  clear hm hT h1 h2 hk
  have hz2 : ¬ (s.size : Int) ≥ 2 := by omega
  clear hz
  go_enter Tryd.func7, Tryd.ntmps7
  go_wp2_with (first | (go_at_call 26; refine (HM.out _).mono ?_; rintro e1 w1 ⟨rfl, rfl⟩) | (go_at_call 27; refine (HK.out _).mono ?_; rintro e2 w2 ⟨rfl, hb2⟩; have S2 := Lib.hid (St.new (e := 2) (f := 0) HT.out hb2); clear hb2))
  have S3 := Lib.hid S2.out.drew
  obtain ⟨_, c0, c1, _, _⟩ := S2.out.f
  obtain ⟨X, hX⟩ : ∃ X, X = w2.heap.size := ⟨_, rfl⟩
  obtain ⟨W, hW⟩ : ∃ W, W = w2.alloc (.cells #[.int .i64 2, .int .i64 0] 29) := ⟨_, rfl⟩
  rw [← hW, ← hX] at c0 c1 S3
  rw [← hW, ← hX]
  clear S2 hX hW
  refine wp_region_held_drew (S := fun w' => w'.cell? ⟨X, 0, none⟩ = some (.int .i64 2) ∧ w'.cell? ⟨X, 1, none⟩ = some (.int .i64 0)) (by kernel_rfl) ?_ (fun hHeld => ?_)
  · go_keep
  refine wpAnyH_ready (rs := [0]) (by kernel_rfl) (by simp) ?_; refine AllReadyH.cons (o := ⟨_, _, _, _, _, _⟩) rfl (fun K hK => ?_) AllReadyH.nil; go_simp
  (go_at_call 19; refine (awake_any _ S3.out.t).mono ?_; rintro e4 w4 ⟨rfl, hb4⟩; have S4 := Lib.hid (S3.out.below hb4); obtain ⟨_, k0, k1, _, _⟩ := S4.out.f)
  (try go_wp2_with fail); refine hK.out _ _ ?_ ?_; (focus ((try dsimp only); (try go_keep); done)); clear hHeld hK K; intro hHeld; (try simp only [Act.put, List.setIfInBounds_toArray, List.set_cons_zero, List.set_cons_succ])
  (refine wpAnyH_take (i := 1) (oi := ⟨_, _, _, _, _, _⟩) (v := ?_) rfl (by kernel_rfl) (by kernel_rfl) (by kernel_rfl) (fun _ _ _ h => h) (Or.inl ⟨by rfl, ?_⟩) (by assumption) ?_); rotate_left; (focus (intro w hSw; (try dsimp only at hSw); go_simp; (try with_reducible rfl); done)); (try simp only [Act.put, List.setIfInBounds_toArray, List.set_cons_zero, List.set_cons_succ])
  (refine wpAnyH_take (i := 2) (oi := ⟨_, _, _, _, _, _⟩) (v := ?_) rfl (by kernel_rfl) (by kernel_rfl) (by kernel_rfl) (fun _ _ _ h => h) (Or.inl ⟨by rfl, ?_⟩) (by assumption) ?_); rotate_left; (focus (intro w hSw; (try dsimp only at hSw); go_simp; (try with_reducible rfl); done)); (try simp only [Act.put, List.setIfInBounds_toArray, List.set_cons_zero, List.set_cons_succ])
  (refine wpAnyH_take (i := 3) (oi := ⟨_, _, _, _, _, _⟩) (v := ?_) rfl (by kernel_rfl) (by kernel_rfl) (by kernel_rfl) (fun _ _ _ h => h) (Or.inl ⟨by rfl, ?_⟩) (by assumption) ?_); rotate_left; (focus (intro w hSw; (try dsimp only at hSw); go_simp; (try with_reducible rfl); done)); (try simp only [Act.put, List.setIfInBounds_toArray, List.set_cons_zero, List.set_cons_succ])
  (refine wpAnyH_take (i := 4) (oi := ⟨_, _, _, _, _, _⟩) (v := ?_) rfl (by kernel_rfl) (by kernel_rfl) (by kernel_rfl) (fun _ _ _ h => h) (Or.inl ⟨by rfl, ?_⟩) (by assumption) ?_); rotate_left; (focus (intro w hSw; (try dsimp only at hSw); go_simp; (try with_reducible rfl); done)); (try simp only [Act.put, List.setIfInBounds_toArray, List.set_cons_zero, List.set_cons_succ])
  (refine wpAnyH_take (i := 5) (oi := ⟨_, _, _, _, _, _⟩) (v := ?_) rfl (by kernel_rfl) (by kernel_rfl) (by kernel_rfl) (fun _ _ _ h => h) (Or.inl ⟨by rfl, ?_⟩) (by assumption) ?_); rotate_left; (focus (intro w hSw; (try dsimp only at hSw); go_simp; (try with_reducible rfl); done)); (try simp only [Act.put, List.setIfInBounds_toArray, List.set_cons_zero, List.set_cons_succ])
  (refine wpAnyH_take (i := 6) (oi := ⟨_, _, _, _, _, _⟩) (v := ?_) rfl (by kernel_rfl) (by kernel_rfl) (by kernel_rfl) (fun _ _ _ h => h) (Or.inl ⟨by rfl, ?_⟩) (by assumption) ?_); rotate_left; (focus (intro w hSw; (try dsimp only at hSw); go_simp; (try with_reducible rfl); done)); (try simp only [Act.put, List.setIfInBounds_toArray, List.set_cons_zero, List.set_cons_succ])
  (refine wpAnyH_take (i := 7) (oi := ⟨_, _, _, _, _, _⟩) (v := ?_) rfl (by kernel_rfl) (by kernel_rfl) (by kernel_rfl) (fun _ _ _ h => h) (Or.inl ⟨by rfl, ?_⟩) (by assumption) ?_); rotate_left; (focus (intro w hSw; (try dsimp only at hSw); go_simp; (try with_reducible rfl); done)); (try simp only [Act.put, List.setIfInBounds_toArray, List.set_cons_zero, List.set_cons_succ])
  (refine wpAnyH_take (i := 8) (oi := ⟨_, _, _, _, _, _⟩) (v := ?_) rfl (by kernel_rfl) (by kernel_rfl) (by kernel_rfl) (fun _ _ _ h => h) (Or.inl ⟨by rfl, ?_⟩) (by assumption) ?_); rotate_left; (focus (intro w hSw; (try dsimp only at hSw); go_simp; (try with_reducible rfl); done)); (try simp only [Act.put, List.setIfInBounds_toArray, List.set_cons_zero, List.set_cons_succ])
  (refine wpAnyH_take (i := 9) (oi := ⟨_, _, _, _, _, _⟩) (v := _) rfl (by kernel_rfl) (by kernel_rfl) (by kernel_rfl) (fun _ _ _ h => h) (Or.inr ⟨by rfl, rfl⟩) (by assumption) ?_); (try simp only [Act.put, List.setIfInBounds_toArray, List.set_cons_zero, List.set_cons_succ])
  (refine wpAnyH_take (i := 10) (oi := ⟨_, _, _, _, _, _⟩) (v := _) rfl (by kernel_rfl) (by kernel_rfl) (by kernel_rfl) (fun _ _ _ h => h) (Or.inr ⟨by rfl, rfl⟩) (by assumption) ?_); (try simp only [Act.put, List.setIfInBounds_toArray, List.set_cons_zero, List.set_cons_succ])
  (refine wpAnyH_take (i := 11) (oi := ⟨_, _, _, _, _, _⟩) (v := _) rfl (by kernel_rfl) (by kernel_rfl) (by kernel_rfl) (fun _ _ _ h => h) (Or.inr ⟨by rfl, rfl⟩) (by assumption) ?_); (try simp only [Act.put, List.setIfInBounds_toArray, List.set_cons_zero, List.set_cons_succ])
  (refine wpAnyH_take (i := 12) (oi := ⟨_, _, _, _, _, _⟩) (v := ?_) rfl (by kernel_rfl) (by kernel_rfl) (by kernel_rfl) (fun _ _ _ h => h) (Or.inl ⟨by rfl, ?_⟩) (by assumption) ?_); rotate_left; (focus (intro w hSw; (try dsimp only at hSw); go_simp; (try with_reducible rfl); done)); (try simp only [Act.put, List.setIfInBounds_toArray, List.set_cons_zero, List.set_cons_succ])
  (refine wpAnyH_take (i := 13) (oi := ⟨_, _, _, _, _, _⟩) (v := ?_) rfl (by kernel_rfl) (by kernel_rfl) (by kernel_rfl) (fun _ _ _ h => h) (Or.inl ⟨by rfl, ?_⟩) (by assumption) ?_); rotate_left; (focus (intro w hSw; (try dsimp only at hSw); go_simp; (try with_reducible rfl); done)); (try simp only [Act.put, List.setIfInBounds_toArray, List.set_cons_zero, List.set_cons_succ])
  (refine wpAnyH_take (i := 14) (oi := ⟨_, _, _, _, _, _⟩) (v := ?_) rfl (by kernel_rfl) (by kernel_rfl) (by kernel_rfl) (fun _ _ _ h => h) (Or.inl ⟨by rfl, ?_⟩) (by assumption) ?_); rotate_left; (focus (intro w hSw; (try dsimp only at hSw); go_simp; (try with_reducible rfl); done)); (try simp only [Act.put, List.setIfInBounds_toArray, List.set_cons_zero, List.set_cons_succ])
  (refine wpAnyH_take (i := 15) (oi := ⟨_, _, _, _, _, _⟩) (v := ?_) rfl (by kernel_rfl) (by kernel_rfl) (by kernel_rfl) (fun _ _ _ h => h) (Or.inl ⟨by rfl, ?_⟩) (by assumption) ?_); rotate_left; (focus (intro w hSw; (try dsimp only at hSw); go_simp; (try with_reducible rfl); done)); (try simp only [Act.put, List.setIfInBounds_toArray, List.set_cons_zero, List.set_cons_succ])
  (refine wpAnyH_take (i := 16) (oi := ⟨_, _, _, _, _, _⟩) (v := ?_) rfl (by kernel_rfl) (by kernel_rfl) (by kernel_rfl) (fun _ _ _ h => h) (Or.inl ⟨by rfl, ?_⟩) (by assumption) ?_); rotate_left; (focus (intro w hSw; (try dsimp only at hSw); go_simp; (try with_reducible rfl); done)); (try simp only [Act.put, List.setIfInBounds_toArray, List.set_cons_zero, List.set_cons_succ])
  (refine wpAnyH_take (i := 17) (oi := ⟨_, _, _, _, _, _⟩) (v := ?_) rfl (by kernel_rfl) (by kernel_rfl) (by kernel_rfl) (fun _ _ _ h => h) (Or.inl ⟨by rfl, ?_⟩) (by assumption) ?_); rotate_left; (focus (intro w hSw; (try dsimp only at hSw); go_simp; (try with_reducible rfl); done)); (try simp only [Act.put, List.setIfInBounds_toArray, List.set_cons_zero, List.set_cons_succ])
  refine wpAnyH_ready (rs := [18]) (by kernel_rfl) (by simp) ?_; refine AllReadyH.cons (o := ⟨_, _, _, _, _, _⟩) rfl (fun K hK => ?_) AllReadyH.nil; go_simp
  (go_at_call 22; refine (fault_at 0 _).mono ?_; rintro e5 w5 ⟨rfl, hb5⟩; have S5 := Lib.hid (S4.out.below hb5); obtain ⟨_, k0, k1, _, _⟩ := S5.out.f)
  (try go_wp2_with fail); refine hK.out _ _ ?_ ?_; (focus ((try dsimp only); (try go_keep); done)); clear hHeld hK K; intro hHeld; (try simp only [Act.put, List.setIfInBounds_toArray, List.set_cons_zero, List.set_cons_succ])
  (refine wpAnyH_take (i := 19) (oi := ⟨_, _, _, _, _, _⟩) (v := ?_) rfl (by kernel_rfl) (by kernel_rfl) (by kernel_rfl) (fun _ _ _ h => h) (Or.inl ⟨by rfl, ?_⟩) (by assumption) ?_); rotate_left; (focus (intro w hSw; (try dsimp only at hSw); go_simp; (try with_reducible rfl); done)); (try simp only [Act.put, List.setIfInBounds_toArray, List.set_cons_zero, List.set_cons_succ])
  (refine wpAnyH_take (i := 20) (oi := ⟨_, _, _, _, _, _⟩) (v := ?_) rfl (by kernel_rfl) (by kernel_rfl) (by kernel_rfl) (fun _ _ _ h => h) (Or.inl ⟨by rfl, ?_⟩) (by assumption) ?_); rotate_left; (focus (intro w hSw; (try dsimp only at hSw); go_simp; (try with_reducible rfl); done)); (try simp only [Act.put, List.setIfInBounds_toArray, List.set_cons_zero, List.set_cons_succ])
  (refine wpAnyH_take (i := 21) (oi := ⟨_, _, _, _, _, _⟩) (v := ?_) rfl (by kernel_rfl) (by kernel_rfl) (by kernel_rfl) (fun _ _ _ h => h) (Or.inl ⟨by rfl, ?_⟩) (by assumption) ?_); rotate_left; (focus (intro w hSw; (try dsimp only at hSw); go_simp; (try with_reducible rfl); done)); (try simp only [Act.put, List.setIfInBounds_toArray, List.set_cons_zero, List.set_cons_succ])
  (refine wpAnyH_take (i := 22) (oi := ⟨_, _, _, _, _, _⟩) (v := ?_) rfl (by kernel_rfl) (by kernel_rfl) (by kernel_rfl) (fun _ _ _ h => h) (Or.inl ⟨by rfl, ?_⟩) (by assumption) ?_); rotate_left; (focus (intro w hSw; (try dsimp only at hSw); go_simp; (try with_reducible rfl); done)); (try simp only [Act.put, List.setIfInBounds_toArray, List.set_cons_zero, List.set_cons_succ])
  (refine wpAnyH_take (i := 23) (oi := ⟨_, _, _, _, _, _⟩) (v := ?_) rfl (by kernel_rfl) (by kernel_rfl) (by kernel_rfl) (fun _ _ _ h => h) (Or.inl ⟨by rfl, ?_⟩) (by assumption) ?_); rotate_left; (focus (intro w hSw; (try dsimp only at hSw); go_simp; (try with_reducible rfl); done)); (try simp only [Act.put, List.setIfInBounds_toArray, List.set_cons_zero, List.set_cons_succ])
  refine wpAnyH_done (by kernel_rfl) ?_ _
  go_wp2_with fail
  go_ret
  exact ⟨rfl, S5.out.bel⟩
set_option maxRecDepth 100000 in
set_option maxHeartbeats 1000000 in
theorem marks_c1 (s : ByteArray) (w : World) (hs : s.size ≤ 2000) (hz : 2 ≤ s.size) (a0 : s[0].toNat = 254) (a1 : s[1].toNat ≠ 255) (h1 : bigMark s = false) (h2 : littleMark s = false) (hT : pt.Tabs w) : Calls Tryd.prog 7 #[.string s] w fun e w' => e = .returned (.bool true) ∧ Below w.heap.size w w' := by
  have hm := fun w2 => Mark_any s w2
  have hk := fun w2 => Marked_no s w2 (by omega) h1 h2
  rw [h1, h2, Bool.or_false] at hm
  have m1 : ¬ s.toList = [] := fun h => by rw [ByteArray.toList_eq] at h; have := str_nil.1 h; omega
  have m2 : s.toList.isEmpty = false := by rw [Bool.eq_false_iff]; intro h; exact m1 (List.isEmpty_iff.1 h)
  have HM := Lib.hid hm; have HT := Lib.hid hT; have HK := Lib.hid hk
  clear hm hT h1 h2 hk
  have z0 : 0 < s.size := by omega
  have z1 : 1 < s.size := by omega
  have g2 : (s.size : Int) ≥ 2 := by omega
  have q0 : (((s[0]'z0).toNat : Int) == 254) = true := by rw [a0]; rfl
  have q1 : (((s[0]'z0).toNat : Int) == 255) = false := by rw [a0]; rfl
  have q2 : (((s[1]'z1).toNat : Int) == 255) = false := by rw [beq_eq_false_iff_ne]; omega
  clear a0 a1 hz
  go_enter Tryd.func7, Tryd.ntmps7
  go_wp2_with (first | (go_at_call 26; refine (HM.out _).mono ?_; rintro e1 w1 ⟨rfl, rfl⟩) | (go_at_call 27; refine (HK.out _).mono ?_; rintro e2 w2 ⟨rfl, hb2⟩; have S2 := Lib.hid (St.new (e := 2) (f := 0) HT.out hb2); clear hb2))
  have S3 := Lib.hid S2.out.drew
  obtain ⟨_, c0, c1, _, _⟩ := S2.out.f
  obtain ⟨X, hX⟩ : ∃ X, X = w2.heap.size := ⟨_, rfl⟩
  obtain ⟨W, hW⟩ : ∃ W, W = w2.alloc (.cells #[.int .i64 2, .int .i64 0] 29) := ⟨_, rfl⟩
  rw [← hW, ← hX] at c0 c1 S3
  rw [← hW, ← hX]
  clear S2 hX hW
  refine wp_region_held_drew (S := fun w' => w'.cell? ⟨X, 0, none⟩ = some (.int .i64 2) ∧ w'.cell? ⟨X, 1, none⟩ = some (.int .i64 0)) (by kernel_rfl) ?_ (fun hHeld => ?_)
  · go_keep
  refine wpAnyH_ready (rs := [0]) (by kernel_rfl) (by simp) ?_; refine AllReadyH.cons (o := ⟨_, _, _, _, _, _⟩) rfl (fun K hK => ?_) AllReadyH.nil; go_simp
  (go_at_call 19; refine (awake_any _ S3.out.t).mono ?_; rintro e4 w4 ⟨rfl, hb4⟩; have S4 := Lib.hid (S3.out.below hb4); obtain ⟨_, k0, k1, _, _⟩ := S4.out.f)
  (try go_wp2_with fail); refine hK.out _ _ ?_ ?_; (focus ((try dsimp only); (try go_keep); done)); clear hHeld hK K; intro hHeld; (try simp only [Act.put, List.setIfInBounds_toArray, List.set_cons_zero, List.set_cons_succ])
  (refine wpAnyH_take (i := 1) (oi := ⟨_, _, _, _, _, _⟩) (v := ?_) rfl (by kernel_rfl) (by kernel_rfl) (by kernel_rfl) (fun _ _ _ h => h) (Or.inl ⟨by rfl, ?_⟩) (by assumption) ?_); rotate_left; (focus (intro w hSw; (try dsimp only at hSw); go_simp; (try with_reducible rfl); done)); (try simp only [Act.put, List.setIfInBounds_toArray, List.set_cons_zero, List.set_cons_succ])
  (refine wpAnyH_take (i := 2) (oi := ⟨_, _, _, _, _, _⟩) (v := ?_) rfl (by kernel_rfl) (by kernel_rfl) (by kernel_rfl) (fun _ _ _ h => h) (Or.inl ⟨by rfl, ?_⟩) (by assumption) ?_); rotate_left; (focus (intro w hSw; (try dsimp only at hSw); go_simp; (try with_reducible rfl); done)); (try simp only [Act.put, List.setIfInBounds_toArray, List.set_cons_zero, List.set_cons_succ])
  (refine wpAnyH_take (i := 3) (oi := ⟨_, _, _, _, _, _⟩) (v := ?_) rfl (by kernel_rfl) (by kernel_rfl) (by kernel_rfl) (fun _ _ _ h => h) (Or.inl ⟨by rfl, ?_⟩) (by assumption) ?_); rotate_left; (focus (intro w hSw; (try dsimp only at hSw); go_simp; (try with_reducible rfl); done)); (try simp only [Act.put, List.setIfInBounds_toArray, List.set_cons_zero, List.set_cons_succ])
  (refine wpAnyH_take (i := 4) (oi := ⟨_, _, _, _, _, _⟩) (v := ?_) rfl (by kernel_rfl) (by kernel_rfl) (by kernel_rfl) (fun _ _ _ h => h) (Or.inl ⟨by rfl, ?_⟩) (by assumption) ?_); rotate_left; (focus (intro w hSw; (try dsimp only at hSw); go_simp; (try with_reducible rfl); done)); (try simp only [Act.put, List.setIfInBounds_toArray, List.set_cons_zero, List.set_cons_succ])
  (refine wpAnyH_take (i := 5) (oi := ⟨_, _, _, _, _, _⟩) (v := ?_) rfl (by kernel_rfl) (by kernel_rfl) (by kernel_rfl) (fun _ _ _ h => h) (Or.inl ⟨by rfl, ?_⟩) (by assumption) ?_); rotate_left; (focus (intro w hSw; (try dsimp only at hSw); go_simp; (try with_reducible rfl); done)); (try simp only [Act.put, List.setIfInBounds_toArray, List.set_cons_zero, List.set_cons_succ])
  (refine wpAnyH_take (i := 6) (oi := ⟨_, _, _, _, _, _⟩) (v := ?_) rfl (by kernel_rfl) (by kernel_rfl) (by kernel_rfl) (fun _ _ _ h => h) (Or.inl ⟨by rfl, ?_⟩) (by assumption) ?_); rotate_left; (focus (intro w hSw; (try dsimp only at hSw); go_simp; (try with_reducible rfl); done)); (try simp only [Act.put, List.setIfInBounds_toArray, List.set_cons_zero, List.set_cons_succ])
  (refine wpAnyH_take (i := 7) (oi := ⟨_, _, _, _, _, _⟩) (v := ?_) rfl (by kernel_rfl) (by kernel_rfl) (by kernel_rfl) (fun _ _ _ h => h) (Or.inl ⟨by rfl, ?_⟩) (by assumption) ?_); rotate_left; (focus (intro w hSw; (try dsimp only at hSw); go_simp; (try with_reducible rfl); done)); (try simp only [Act.put, List.setIfInBounds_toArray, List.set_cons_zero, List.set_cons_succ])
  (refine wpAnyH_take (i := 8) (oi := ⟨_, _, _, _, _, _⟩) (v := ?_) rfl (by kernel_rfl) (by kernel_rfl) (by kernel_rfl) (fun _ _ _ h => h) (Or.inl ⟨by rfl, ?_⟩) (by assumption) ?_); rotate_left; (focus (intro w hSw; (try dsimp only at hSw); go_simp; (try with_reducible rfl); done)); (try simp only [Act.put, List.setIfInBounds_toArray, List.set_cons_zero, List.set_cons_succ])
  (refine wpAnyH_take (i := 9) (oi := ⟨_, _, _, _, _, _⟩) (v := _) rfl (by kernel_rfl) (by kernel_rfl) (by kernel_rfl) (fun _ _ _ h => h) (Or.inr ⟨by rfl, rfl⟩) (by assumption) ?_); (try simp only [Act.put, List.setIfInBounds_toArray, List.set_cons_zero, List.set_cons_succ])
  (refine wpAnyH_take (i := 10) (oi := ⟨_, _, _, _, _, _⟩) (v := _) rfl (by kernel_rfl) (by kernel_rfl) (by kernel_rfl) (fun _ _ _ h => h) (Or.inr ⟨by rfl, rfl⟩) (by assumption) ?_); (try simp only [Act.put, List.setIfInBounds_toArray, List.set_cons_zero, List.set_cons_succ])
  (refine wpAnyH_take (i := 11) (oi := ⟨_, _, _, _, _, _⟩) (v := _) rfl (by kernel_rfl) (by kernel_rfl) (by kernel_rfl) (fun _ _ _ h => h) (Or.inr ⟨by rfl, rfl⟩) (by assumption) ?_); (try simp only [Act.put, List.setIfInBounds_toArray, List.set_cons_zero, List.set_cons_succ])
  (refine wpAnyH_take (i := 12) (oi := ⟨_, _, _, _, _, _⟩) (v := ?_) rfl (by kernel_rfl) (by kernel_rfl) (by kernel_rfl) (fun _ _ _ h => h) (Or.inl ⟨by rfl, ?_⟩) (by assumption) ?_); rotate_left; (focus (intro w hSw; (try dsimp only at hSw); go_simp; (try with_reducible rfl); done)); (try simp only [Act.put, List.setIfInBounds_toArray, List.set_cons_zero, List.set_cons_succ])
  (refine wpAnyH_take (i := 13) (oi := ⟨_, _, _, _, _, _⟩) (v := ?_) rfl (by kernel_rfl) (by kernel_rfl) (by kernel_rfl) (fun _ _ _ h => h) (Or.inl ⟨by rfl, ?_⟩) (by assumption) ?_); rotate_left; (focus (intro w hSw; (try dsimp only at hSw); go_simp; (try with_reducible rfl); done)); (try simp only [Act.put, List.setIfInBounds_toArray, List.set_cons_zero, List.set_cons_succ])
  (refine wpAnyH_take (i := 14) (oi := ⟨_, _, _, _, _, _⟩) (v := ?_) rfl (by kernel_rfl) (by kernel_rfl) (by kernel_rfl) (fun _ _ _ h => h) (Or.inl ⟨by rfl, ?_⟩) (by assumption) ?_); rotate_left; (focus (intro w hSw; (try dsimp only at hSw); go_simp; (try with_reducible rfl); done)); (try simp only [Act.put, List.setIfInBounds_toArray, List.set_cons_zero, List.set_cons_succ])
  (refine wpAnyH_take (i := 15) (oi := ⟨_, _, _, _, _, _⟩) (v := ?_) rfl (by kernel_rfl) (by kernel_rfl) (by kernel_rfl) (fun _ _ _ h => h) (Or.inl ⟨by rfl, ?_⟩) (by assumption) ?_); rotate_left; (focus (intro w hSw; (try dsimp only at hSw); go_simp; (try with_reducible rfl); done)); (try simp only [Act.put, List.setIfInBounds_toArray, List.set_cons_zero, List.set_cons_succ])
  (refine wpAnyH_take (i := 16) (oi := ⟨_, _, _, _, _, _⟩) (v := ?_) rfl (by kernel_rfl) (by kernel_rfl) (by kernel_rfl) (fun _ _ _ h => h) (Or.inl ⟨by rfl, ?_⟩) (by assumption) ?_); rotate_left; (focus (intro w hSw; (try dsimp only at hSw); go_simp; (try with_reducible rfl); done)); (try simp only [Act.put, List.setIfInBounds_toArray, List.set_cons_zero, List.set_cons_succ])
  (refine wpAnyH_take (i := 17) (oi := ⟨_, _, _, _, _, _⟩) (v := ?_) rfl (by kernel_rfl) (by kernel_rfl) (by kernel_rfl) (fun _ _ _ h => h) (Or.inl ⟨by rfl, ?_⟩) (by assumption) ?_); rotate_left; (focus (intro w hSw; (try dsimp only at hSw); go_simp; (try with_reducible rfl); done)); (try simp only [Act.put, List.setIfInBounds_toArray, List.set_cons_zero, List.set_cons_succ])
  refine wpAnyH_ready (rs := [18]) (by kernel_rfl) (by simp) ?_; refine AllReadyH.cons (o := ⟨_, _, _, _, _, _⟩) rfl (fun K hK => ?_) AllReadyH.nil; go_simp
  (go_at_call 22; refine (fault_at 0 _).mono ?_; rintro e5 w5 ⟨rfl, hb5⟩; have S5 := Lib.hid (S4.out.below hb5); obtain ⟨_, k0, k1, _, _⟩ := S5.out.f)
  (try go_wp2_with fail); refine hK.out _ _ ?_ ?_; (focus ((try dsimp only); (try go_keep); done)); clear hHeld hK K; intro hHeld; (try simp only [Act.put, List.setIfInBounds_toArray, List.set_cons_zero, List.set_cons_succ])
  (refine wpAnyH_take (i := 19) (oi := ⟨_, _, _, _, _, _⟩) (v := ?_) rfl (by kernel_rfl) (by kernel_rfl) (by kernel_rfl) (fun _ _ _ h => h) (Or.inl ⟨by rfl, ?_⟩) (by assumption) ?_); rotate_left; (focus (intro w hSw; (try dsimp only at hSw); go_simp; (try with_reducible rfl); done)); (try simp only [Act.put, List.setIfInBounds_toArray, List.set_cons_zero, List.set_cons_succ])
  (refine wpAnyH_take (i := 20) (oi := ⟨_, _, _, _, _, _⟩) (v := ?_) rfl (by kernel_rfl) (by kernel_rfl) (by kernel_rfl) (fun _ _ _ h => h) (Or.inl ⟨by rfl, ?_⟩) (by assumption) ?_); rotate_left; (focus (intro w hSw; (try dsimp only at hSw); go_simp; (try with_reducible rfl); done)); (try simp only [Act.put, List.setIfInBounds_toArray, List.set_cons_zero, List.set_cons_succ])
  (refine wpAnyH_take (i := 21) (oi := ⟨_, _, _, _, _, _⟩) (v := ?_) rfl (by kernel_rfl) (by kernel_rfl) (by kernel_rfl) (fun _ _ _ h => h) (Or.inl ⟨by rfl, ?_⟩) (by assumption) ?_); rotate_left; (focus (intro w hSw; (try dsimp only at hSw); go_simp; (try with_reducible rfl); done)); (try simp only [Act.put, List.setIfInBounds_toArray, List.set_cons_zero, List.set_cons_succ])
  (refine wpAnyH_take (i := 22) (oi := ⟨_, _, _, _, _, _⟩) (v := ?_) rfl (by kernel_rfl) (by kernel_rfl) (by kernel_rfl) (fun _ _ _ h => h) (Or.inl ⟨by rfl, ?_⟩) (by assumption) ?_); rotate_left; (focus (intro w hSw; (try dsimp only at hSw); go_simp; (try with_reducible rfl); done)); (try simp only [Act.put, List.setIfInBounds_toArray, List.set_cons_zero, List.set_cons_succ])
  (refine wpAnyH_take (i := 23) (oi := ⟨_, _, _, _, _, _⟩) (v := ?_) rfl (by kernel_rfl) (by kernel_rfl) (by kernel_rfl) (fun _ _ _ h => h) (Or.inl ⟨by rfl, ?_⟩) (by assumption) ?_); rotate_left; (focus (intro w hSw; (try dsimp only at hSw); go_simp; (try with_reducible rfl); done)); (try simp only [Act.put, List.setIfInBounds_toArray, List.set_cons_zero, List.set_cons_succ])
  refine wpAnyH_done (by kernel_rfl) ?_ _
  go_wp2_with fail
  go_ret
  exact ⟨rfl, S5.out.bel⟩
set_option maxRecDepth 100000 in
set_option maxHeartbeats 1000000 in
theorem marks_c2 (s : ByteArray) (w : World) (hs : s.size ≤ 2000) (hz : 2 ≤ s.size) (a0 : s[0].toNat = 255) (a1 : s[1].toNat ≠ 254) (h1 : bigMark s = false) (h2 : littleMark s = false) (hT : pt.Tabs w) : Calls Tryd.prog 7 #[.string s] w fun e w' => e = .returned (.bool true) ∧ Below w.heap.size w w' := by
  have hm := fun w2 => Mark_any s w2
  have hk := fun w2 => Marked_no s w2 (by omega) h1 h2
  rw [h1, h2, Bool.or_false] at hm
  have m1 : ¬ s.toList = [] := fun h => by rw [ByteArray.toList_eq] at h; have := str_nil.1 h; omega
  have m2 : s.toList.isEmpty = false := by rw [Bool.eq_false_iff]; intro h; exact m1 (List.isEmpty_iff.1 h)
  have HM := Lib.hid hm; have HT := Lib.hid hT; have HK := Lib.hid hk
  clear hm hT h1 h2 hk
  have z0 : 0 < s.size := by omega
  have z1 : 1 < s.size := by omega
  have g2 : (s.size : Int) ≥ 2 := by omega
  have q0 : (((s[0]'z0).toNat : Int) == 254) = false := by rw [a0]; rfl
  have q1 : (((s[0]'z0).toNat : Int) == 255) = true := by rw [a0]; rfl
  have q2 : (((s[1]'z1).toNat : Int) == 254) = false := by rw [beq_eq_false_iff_ne]; omega
  clear a0 a1 hz
  go_enter Tryd.func7, Tryd.ntmps7
  go_wp2_with (first | (go_at_call 26; refine (HM.out _).mono ?_; rintro e1 w1 ⟨rfl, rfl⟩) | (go_at_call 27; refine (HK.out _).mono ?_; rintro e2 w2 ⟨rfl, hb2⟩; have S2 := Lib.hid (St.new (e := 2) (f := 0) HT.out hb2); clear hb2))
  have S3 := Lib.hid S2.out.drew
  obtain ⟨_, c0, c1, _, _⟩ := S2.out.f
  obtain ⟨X, hX⟩ : ∃ X, X = w2.heap.size := ⟨_, rfl⟩
  obtain ⟨W, hW⟩ : ∃ W, W = w2.alloc (.cells #[.int .i64 2, .int .i64 0] 29) := ⟨_, rfl⟩
  rw [← hW, ← hX] at c0 c1 S3
  rw [← hW, ← hX]
  clear S2 hX hW
  refine wp_region_held_drew (S := fun w' => w'.cell? ⟨X, 0, none⟩ = some (.int .i64 2) ∧ w'.cell? ⟨X, 1, none⟩ = some (.int .i64 0)) (by kernel_rfl) ?_ (fun hHeld => ?_)
  · go_keep
  refine wpAnyH_ready (rs := [0]) (by kernel_rfl) (by simp) ?_; refine AllReadyH.cons (o := ⟨_, _, _, _, _, _⟩) rfl (fun K hK => ?_) AllReadyH.nil; go_simp
  (go_at_call 19; refine (awake_any _ S3.out.t).mono ?_; rintro e4 w4 ⟨rfl, hb4⟩; have S4 := Lib.hid (S3.out.below hb4); obtain ⟨_, k0, k1, _, _⟩ := S4.out.f)
  (try go_wp2_with fail); refine hK.out _ _ ?_ ?_; (focus ((try dsimp only); (try go_keep); done)); clear hHeld hK K; intro hHeld; (try simp only [Act.put, List.setIfInBounds_toArray, List.set_cons_zero, List.set_cons_succ])
  (refine wpAnyH_take (i := 1) (oi := ⟨_, _, _, _, _, _⟩) (v := ?_) rfl (by kernel_rfl) (by kernel_rfl) (by kernel_rfl) (fun _ _ _ h => h) (Or.inl ⟨by rfl, ?_⟩) (by assumption) ?_); rotate_left; (focus (intro w hSw; (try dsimp only at hSw); go_simp; (try with_reducible rfl); done)); (try simp only [Act.put, List.setIfInBounds_toArray, List.set_cons_zero, List.set_cons_succ])
  (refine wpAnyH_take (i := 2) (oi := ⟨_, _, _, _, _, _⟩) (v := ?_) rfl (by kernel_rfl) (by kernel_rfl) (by kernel_rfl) (fun _ _ _ h => h) (Or.inl ⟨by rfl, ?_⟩) (by assumption) ?_); rotate_left; (focus (intro w hSw; (try dsimp only at hSw); go_simp; (try with_reducible rfl); done)); (try simp only [Act.put, List.setIfInBounds_toArray, List.set_cons_zero, List.set_cons_succ])
  (refine wpAnyH_take (i := 3) (oi := ⟨_, _, _, _, _, _⟩) (v := ?_) rfl (by kernel_rfl) (by kernel_rfl) (by kernel_rfl) (fun _ _ _ h => h) (Or.inl ⟨by rfl, ?_⟩) (by assumption) ?_); rotate_left; (focus (intro w hSw; (try dsimp only at hSw); go_simp; (try with_reducible rfl); done)); (try simp only [Act.put, List.setIfInBounds_toArray, List.set_cons_zero, List.set_cons_succ])
  (refine wpAnyH_take (i := 4) (oi := ⟨_, _, _, _, _, _⟩) (v := ?_) rfl (by kernel_rfl) (by kernel_rfl) (by kernel_rfl) (fun _ _ _ h => h) (Or.inl ⟨by rfl, ?_⟩) (by assumption) ?_); rotate_left; (focus (intro w hSw; (try dsimp only at hSw); go_simp; (try with_reducible rfl); done)); (try simp only [Act.put, List.setIfInBounds_toArray, List.set_cons_zero, List.set_cons_succ])
  (refine wpAnyH_take (i := 5) (oi := ⟨_, _, _, _, _, _⟩) (v := ?_) rfl (by kernel_rfl) (by kernel_rfl) (by kernel_rfl) (fun _ _ _ h => h) (Or.inl ⟨by rfl, ?_⟩) (by assumption) ?_); rotate_left; (focus (intro w hSw; (try dsimp only at hSw); go_simp; (try with_reducible rfl); done)); (try simp only [Act.put, List.setIfInBounds_toArray, List.set_cons_zero, List.set_cons_succ])
  (refine wpAnyH_take (i := 6) (oi := ⟨_, _, _, _, _, _⟩) (v := ?_) rfl (by kernel_rfl) (by kernel_rfl) (by kernel_rfl) (fun _ _ _ h => h) (Or.inl ⟨by rfl, ?_⟩) (by assumption) ?_); rotate_left; (focus (intro w hSw; (try dsimp only at hSw); go_simp; (try with_reducible rfl); done)); (try simp only [Act.put, List.setIfInBounds_toArray, List.set_cons_zero, List.set_cons_succ])
  (refine wpAnyH_take (i := 7) (oi := ⟨_, _, _, _, _, _⟩) (v := ?_) rfl (by kernel_rfl) (by kernel_rfl) (by kernel_rfl) (fun _ _ _ h => h) (Or.inl ⟨by rfl, ?_⟩) (by assumption) ?_); rotate_left; (focus (intro w hSw; (try dsimp only at hSw); go_simp; (try with_reducible rfl); done)); (try simp only [Act.put, List.setIfInBounds_toArray, List.set_cons_zero, List.set_cons_succ])
  (refine wpAnyH_take (i := 8) (oi := ⟨_, _, _, _, _, _⟩) (v := ?_) rfl (by kernel_rfl) (by kernel_rfl) (by kernel_rfl) (fun _ _ _ h => h) (Or.inl ⟨by rfl, ?_⟩) (by assumption) ?_); rotate_left; (focus (intro w hSw; (try dsimp only at hSw); go_simp; (try with_reducible rfl); done)); (try simp only [Act.put, List.setIfInBounds_toArray, List.set_cons_zero, List.set_cons_succ])
  (refine wpAnyH_take (i := 9) (oi := ⟨_, _, _, _, _, _⟩) (v := _) rfl (by kernel_rfl) (by kernel_rfl) (by kernel_rfl) (fun _ _ _ h => h) (Or.inr ⟨by rfl, rfl⟩) (by assumption) ?_); (try simp only [Act.put, List.setIfInBounds_toArray, List.set_cons_zero, List.set_cons_succ])
  (refine wpAnyH_take (i := 10) (oi := ⟨_, _, _, _, _, _⟩) (v := _) rfl (by kernel_rfl) (by kernel_rfl) (by kernel_rfl) (fun _ _ _ h => h) (Or.inr ⟨by rfl, rfl⟩) (by assumption) ?_); (try simp only [Act.put, List.setIfInBounds_toArray, List.set_cons_zero, List.set_cons_succ])
  (refine wpAnyH_take (i := 11) (oi := ⟨_, _, _, _, _, _⟩) (v := _) rfl (by kernel_rfl) (by kernel_rfl) (by kernel_rfl) (fun _ _ _ h => h) (Or.inr ⟨by rfl, rfl⟩) (by assumption) ?_); (try simp only [Act.put, List.setIfInBounds_toArray, List.set_cons_zero, List.set_cons_succ])
  (refine wpAnyH_take (i := 12) (oi := ⟨_, _, _, _, _, _⟩) (v := ?_) rfl (by kernel_rfl) (by kernel_rfl) (by kernel_rfl) (fun _ _ _ h => h) (Or.inl ⟨by rfl, ?_⟩) (by assumption) ?_); rotate_left; (focus (intro w hSw; (try dsimp only at hSw); go_simp; (try with_reducible rfl); done)); (try simp only [Act.put, List.setIfInBounds_toArray, List.set_cons_zero, List.set_cons_succ])
  (refine wpAnyH_take (i := 13) (oi := ⟨_, _, _, _, _, _⟩) (v := ?_) rfl (by kernel_rfl) (by kernel_rfl) (by kernel_rfl) (fun _ _ _ h => h) (Or.inl ⟨by rfl, ?_⟩) (by assumption) ?_); rotate_left; (focus (intro w hSw; (try dsimp only at hSw); go_simp; (try with_reducible rfl); done)); (try simp only [Act.put, List.setIfInBounds_toArray, List.set_cons_zero, List.set_cons_succ])
  (refine wpAnyH_take (i := 14) (oi := ⟨_, _, _, _, _, _⟩) (v := ?_) rfl (by kernel_rfl) (by kernel_rfl) (by kernel_rfl) (fun _ _ _ h => h) (Or.inl ⟨by rfl, ?_⟩) (by assumption) ?_); rotate_left; (focus (intro w hSw; (try dsimp only at hSw); go_simp; (try with_reducible rfl); done)); (try simp only [Act.put, List.setIfInBounds_toArray, List.set_cons_zero, List.set_cons_succ])
  (refine wpAnyH_take (i := 15) (oi := ⟨_, _, _, _, _, _⟩) (v := ?_) rfl (by kernel_rfl) (by kernel_rfl) (by kernel_rfl) (fun _ _ _ h => h) (Or.inl ⟨by rfl, ?_⟩) (by assumption) ?_); rotate_left; (focus (intro w hSw; (try dsimp only at hSw); go_simp; (try with_reducible rfl); done)); (try simp only [Act.put, List.setIfInBounds_toArray, List.set_cons_zero, List.set_cons_succ])
  (refine wpAnyH_take (i := 16) (oi := ⟨_, _, _, _, _, _⟩) (v := ?_) rfl (by kernel_rfl) (by kernel_rfl) (by kernel_rfl) (fun _ _ _ h => h) (Or.inl ⟨by rfl, ?_⟩) (by assumption) ?_); rotate_left; (focus (intro w hSw; (try dsimp only at hSw); go_simp; (try with_reducible rfl); done)); (try simp only [Act.put, List.setIfInBounds_toArray, List.set_cons_zero, List.set_cons_succ])
  (refine wpAnyH_take (i := 17) (oi := ⟨_, _, _, _, _, _⟩) (v := ?_) rfl (by kernel_rfl) (by kernel_rfl) (by kernel_rfl) (fun _ _ _ h => h) (Or.inl ⟨by rfl, ?_⟩) (by assumption) ?_); rotate_left; (focus (intro w hSw; (try dsimp only at hSw); go_simp; (try with_reducible rfl); done)); (try simp only [Act.put, List.setIfInBounds_toArray, List.set_cons_zero, List.set_cons_succ])
  refine wpAnyH_ready (rs := [18]) (by kernel_rfl) (by simp) ?_; refine AllReadyH.cons (o := ⟨_, _, _, _, _, _⟩) rfl (fun K hK => ?_) AllReadyH.nil; go_simp
  (go_at_call 22; refine (fault_at 0 _).mono ?_; rintro e5 w5 ⟨rfl, hb5⟩; have S5 := Lib.hid (S4.out.below hb5); obtain ⟨_, k0, k1, _, _⟩ := S5.out.f)
  (try go_wp2_with fail); refine hK.out _ _ ?_ ?_; (focus ((try dsimp only); (try go_keep); done)); clear hHeld hK K; intro hHeld; (try simp only [Act.put, List.setIfInBounds_toArray, List.set_cons_zero, List.set_cons_succ])
  (refine wpAnyH_take (i := 19) (oi := ⟨_, _, _, _, _, _⟩) (v := ?_) rfl (by kernel_rfl) (by kernel_rfl) (by kernel_rfl) (fun _ _ _ h => h) (Or.inl ⟨by rfl, ?_⟩) (by assumption) ?_); rotate_left; (focus (intro w hSw; (try dsimp only at hSw); go_simp; (try with_reducible rfl); done)); (try simp only [Act.put, List.setIfInBounds_toArray, List.set_cons_zero, List.set_cons_succ])
  (refine wpAnyH_take (i := 20) (oi := ⟨_, _, _, _, _, _⟩) (v := ?_) rfl (by kernel_rfl) (by kernel_rfl) (by kernel_rfl) (fun _ _ _ h => h) (Or.inl ⟨by rfl, ?_⟩) (by assumption) ?_); rotate_left; (focus (intro w hSw; (try dsimp only at hSw); go_simp; (try with_reducible rfl); done)); (try simp only [Act.put, List.setIfInBounds_toArray, List.set_cons_zero, List.set_cons_succ])
  (refine wpAnyH_take (i := 21) (oi := ⟨_, _, _, _, _, _⟩) (v := ?_) rfl (by kernel_rfl) (by kernel_rfl) (by kernel_rfl) (fun _ _ _ h => h) (Or.inl ⟨by rfl, ?_⟩) (by assumption) ?_); rotate_left; (focus (intro w hSw; (try dsimp only at hSw); go_simp; (try with_reducible rfl); done)); (try simp only [Act.put, List.setIfInBounds_toArray, List.set_cons_zero, List.set_cons_succ])
  (refine wpAnyH_take (i := 22) (oi := ⟨_, _, _, _, _, _⟩) (v := ?_) rfl (by kernel_rfl) (by kernel_rfl) (by kernel_rfl) (fun _ _ _ h => h) (Or.inl ⟨by rfl, ?_⟩) (by assumption) ?_); rotate_left; (focus (intro w hSw; (try dsimp only at hSw); go_simp; (try with_reducible rfl); done)); (try simp only [Act.put, List.setIfInBounds_toArray, List.set_cons_zero, List.set_cons_succ])
  (refine wpAnyH_take (i := 23) (oi := ⟨_, _, _, _, _, _⟩) (v := ?_) rfl (by kernel_rfl) (by kernel_rfl) (by kernel_rfl) (fun _ _ _ h => h) (Or.inl ⟨by rfl, ?_⟩) (by assumption) ?_); rotate_left; (focus (intro w hSw; (try dsimp only at hSw); go_simp; (try with_reducible rfl); done)); (try simp only [Act.put, List.setIfInBounds_toArray, List.set_cons_zero, List.set_cons_succ])
  refine wpAnyH_done (by kernel_rfl) ?_ _
  go_wp2_with fail
  go_ret
  exact ⟨rfl, S5.out.bel⟩
set_option maxRecDepth 100000 in
set_option maxHeartbeats 1000000 in
theorem marks_c3 (s : ByteArray) (w : World) (hs : s.size ≤ 2000) (hz : 2 ≤ s.size) (a0 : s[0].toNat ≠ 254) (a1 : s[0].toNat ≠ 255) (h1 : bigMark s = false) (h2 : littleMark s = false) (hT : pt.Tabs w) : Calls Tryd.prog 7 #[.string s] w fun e w' => e = .returned (.bool true) ∧ Below w.heap.size w w' := by
  have hm := fun w2 => Mark_any s w2
  have hk := fun w2 => Marked_no s w2 (by omega) h1 h2
  rw [h1, h2, Bool.or_false] at hm
  have m1 : ¬ s.toList = [] := fun h => by rw [ByteArray.toList_eq] at h; have := str_nil.1 h; omega
  have m2 : s.toList.isEmpty = false := by rw [Bool.eq_false_iff]; intro h; exact m1 (List.isEmpty_iff.1 h)
  have HM := Lib.hid hm; have HT := Lib.hid hT; have HK := Lib.hid hk
  clear hm hT h1 h2 hk
  have z0 : 0 < s.size := by omega
  have z1 : 1 < s.size := by omega
  have g2 : (s.size : Int) ≥ 2 := by omega
  have q0 : (((s[0]'z0).toNat : Int) == 254) = false := by rw [beq_eq_false_iff_ne]; omega
  have q1 : (((s[0]'z0).toNat : Int) == 255) = false := by rw [beq_eq_false_iff_ne]; omega
  clear a0 a1 hz
  go_enter Tryd.func7, Tryd.ntmps7
  go_wp2_with (first | (go_at_call 26; refine (HM.out _).mono ?_; rintro e1 w1 ⟨rfl, rfl⟩) | (go_at_call 27; refine (HK.out _).mono ?_; rintro e2 w2 ⟨rfl, hb2⟩; have S2 := Lib.hid (St.new (e := 2) (f := 0) HT.out hb2); clear hb2))
  have S3 := Lib.hid S2.out.drew
  obtain ⟨_, c0, c1, _, _⟩ := S2.out.f
  obtain ⟨X, hX⟩ : ∃ X, X = w2.heap.size := ⟨_, rfl⟩
  obtain ⟨W, hW⟩ : ∃ W, W = w2.alloc (.cells #[.int .i64 2, .int .i64 0] 29) := ⟨_, rfl⟩
  rw [← hW, ← hX] at c0 c1 S3
  rw [← hW, ← hX]
  clear S2 hX hW
  refine wp_region_held_drew (S := fun w' => w'.cell? ⟨X, 0, none⟩ = some (.int .i64 2) ∧ w'.cell? ⟨X, 1, none⟩ = some (.int .i64 0)) (by kernel_rfl) ?_ (fun hHeld => ?_)
  · go_keep
  refine wpAnyH_ready (rs := [0]) (by kernel_rfl) (by simp) ?_; refine AllReadyH.cons (o := ⟨_, _, _, _, _, _⟩) rfl (fun K hK => ?_) AllReadyH.nil; go_simp
  (go_at_call 19; refine (awake_any _ S3.out.t).mono ?_; rintro e4 w4 ⟨rfl, hb4⟩; have S4 := Lib.hid (S3.out.below hb4); obtain ⟨_, k0, k1, _, _⟩ := S4.out.f)
  (try go_wp2_with fail); refine hK.out _ _ ?_ ?_; (focus ((try dsimp only); (try go_keep); done)); clear hHeld hK K; intro hHeld; (try simp only [Act.put, List.setIfInBounds_toArray, List.set_cons_zero, List.set_cons_succ])
  (refine wpAnyH_take (i := 1) (oi := ⟨_, _, _, _, _, _⟩) (v := ?_) rfl (by kernel_rfl) (by kernel_rfl) (by kernel_rfl) (fun _ _ _ h => h) (Or.inl ⟨by rfl, ?_⟩) (by assumption) ?_); rotate_left; (focus (intro w hSw; (try dsimp only at hSw); go_simp; (try with_reducible rfl); done)); (try simp only [Act.put, List.setIfInBounds_toArray, List.set_cons_zero, List.set_cons_succ])
  (refine wpAnyH_take (i := 2) (oi := ⟨_, _, _, _, _, _⟩) (v := ?_) rfl (by kernel_rfl) (by kernel_rfl) (by kernel_rfl) (fun _ _ _ h => h) (Or.inl ⟨by rfl, ?_⟩) (by assumption) ?_); rotate_left; (focus (intro w hSw; (try dsimp only at hSw); go_simp; (try with_reducible rfl); done)); (try simp only [Act.put, List.setIfInBounds_toArray, List.set_cons_zero, List.set_cons_succ])
  (refine wpAnyH_take (i := 3) (oi := ⟨_, _, _, _, _, _⟩) (v := ?_) rfl (by kernel_rfl) (by kernel_rfl) (by kernel_rfl) (fun _ _ _ h => h) (Or.inl ⟨by rfl, ?_⟩) (by assumption) ?_); rotate_left; (focus (intro w hSw; (try dsimp only at hSw); go_simp; (try with_reducible rfl); done)); (try simp only [Act.put, List.setIfInBounds_toArray, List.set_cons_zero, List.set_cons_succ])
  (refine wpAnyH_take (i := 4) (oi := ⟨_, _, _, _, _, _⟩) (v := ?_) rfl (by kernel_rfl) (by kernel_rfl) (by kernel_rfl) (fun _ _ _ h => h) (Or.inl ⟨by rfl, ?_⟩) (by assumption) ?_); rotate_left; (focus (intro w hSw; (try dsimp only at hSw); go_simp; (try with_reducible rfl); done)); (try simp only [Act.put, List.setIfInBounds_toArray, List.set_cons_zero, List.set_cons_succ])
  (refine wpAnyH_take (i := 5) (oi := ⟨_, _, _, _, _, _⟩) (v := ?_) rfl (by kernel_rfl) (by kernel_rfl) (by kernel_rfl) (fun _ _ _ h => h) (Or.inl ⟨by rfl, ?_⟩) (by assumption) ?_); rotate_left; (focus (intro w hSw; (try dsimp only at hSw); go_simp; (try with_reducible rfl); done)); (try simp only [Act.put, List.setIfInBounds_toArray, List.set_cons_zero, List.set_cons_succ])
  (refine wpAnyH_take (i := 6) (oi := ⟨_, _, _, _, _, _⟩) (v := ?_) rfl (by kernel_rfl) (by kernel_rfl) (by kernel_rfl) (fun _ _ _ h => h) (Or.inl ⟨by rfl, ?_⟩) (by assumption) ?_); rotate_left; (focus (intro w hSw; (try dsimp only at hSw); go_simp; (try with_reducible rfl); done)); (try simp only [Act.put, List.setIfInBounds_toArray, List.set_cons_zero, List.set_cons_succ])
  (refine wpAnyH_take (i := 7) (oi := ⟨_, _, _, _, _, _⟩) (v := ?_) rfl (by kernel_rfl) (by kernel_rfl) (by kernel_rfl) (fun _ _ _ h => h) (Or.inl ⟨by rfl, ?_⟩) (by assumption) ?_); rotate_left; (focus (intro w hSw; (try dsimp only at hSw); go_simp; (try with_reducible rfl); done)); (try simp only [Act.put, List.setIfInBounds_toArray, List.set_cons_zero, List.set_cons_succ])
  (refine wpAnyH_take (i := 8) (oi := ⟨_, _, _, _, _, _⟩) (v := ?_) rfl (by kernel_rfl) (by kernel_rfl) (by kernel_rfl) (fun _ _ _ h => h) (Or.inl ⟨by rfl, ?_⟩) (by assumption) ?_); rotate_left; (focus (intro w hSw; (try dsimp only at hSw); go_simp; (try with_reducible rfl); done)); (try simp only [Act.put, List.setIfInBounds_toArray, List.set_cons_zero, List.set_cons_succ])
  (refine wpAnyH_take (i := 9) (oi := ⟨_, _, _, _, _, _⟩) (v := _) rfl (by kernel_rfl) (by kernel_rfl) (by kernel_rfl) (fun _ _ _ h => h) (Or.inr ⟨by rfl, rfl⟩) (by assumption) ?_); (try simp only [Act.put, List.setIfInBounds_toArray, List.set_cons_zero, List.set_cons_succ])
  (refine wpAnyH_take (i := 10) (oi := ⟨_, _, _, _, _, _⟩) (v := _) rfl (by kernel_rfl) (by kernel_rfl) (by kernel_rfl) (fun _ _ _ h => h) (Or.inr ⟨by rfl, rfl⟩) (by assumption) ?_); (try simp only [Act.put, List.setIfInBounds_toArray, List.set_cons_zero, List.set_cons_succ])
  (refine wpAnyH_take (i := 11) (oi := ⟨_, _, _, _, _, _⟩) (v := _) rfl (by kernel_rfl) (by kernel_rfl) (by kernel_rfl) (fun _ _ _ h => h) (Or.inr ⟨by rfl, rfl⟩) (by assumption) ?_); (try simp only [Act.put, List.setIfInBounds_toArray, List.set_cons_zero, List.set_cons_succ])
  (refine wpAnyH_take (i := 12) (oi := ⟨_, _, _, _, _, _⟩) (v := ?_) rfl (by kernel_rfl) (by kernel_rfl) (by kernel_rfl) (fun _ _ _ h => h) (Or.inl ⟨by rfl, ?_⟩) (by assumption) ?_); rotate_left; (focus (intro w hSw; (try dsimp only at hSw); go_simp; (try with_reducible rfl); done)); (try simp only [Act.put, List.setIfInBounds_toArray, List.set_cons_zero, List.set_cons_succ])
  (refine wpAnyH_take (i := 13) (oi := ⟨_, _, _, _, _, _⟩) (v := ?_) rfl (by kernel_rfl) (by kernel_rfl) (by kernel_rfl) (fun _ _ _ h => h) (Or.inl ⟨by rfl, ?_⟩) (by assumption) ?_); rotate_left; (focus (intro w hSw; (try dsimp only at hSw); go_simp; (try with_reducible rfl); done)); (try simp only [Act.put, List.setIfInBounds_toArray, List.set_cons_zero, List.set_cons_succ])
  (refine wpAnyH_take (i := 14) (oi := ⟨_, _, _, _, _, _⟩) (v := ?_) rfl (by kernel_rfl) (by kernel_rfl) (by kernel_rfl) (fun _ _ _ h => h) (Or.inl ⟨by rfl, ?_⟩) (by assumption) ?_); rotate_left; (focus (intro w hSw; (try dsimp only at hSw); go_simp; (try with_reducible rfl); done)); (try simp only [Act.put, List.setIfInBounds_toArray, List.set_cons_zero, List.set_cons_succ])
  (refine wpAnyH_take (i := 15) (oi := ⟨_, _, _, _, _, _⟩) (v := ?_) rfl (by kernel_rfl) (by kernel_rfl) (by kernel_rfl) (fun _ _ _ h => h) (Or.inl ⟨by rfl, ?_⟩) (by assumption) ?_); rotate_left; (focus (intro w hSw; (try dsimp only at hSw); go_simp; (try with_reducible rfl); done)); (try simp only [Act.put, List.setIfInBounds_toArray, List.set_cons_zero, List.set_cons_succ])
  (refine wpAnyH_take (i := 16) (oi := ⟨_, _, _, _, _, _⟩) (v := ?_) rfl (by kernel_rfl) (by kernel_rfl) (by kernel_rfl) (fun _ _ _ h => h) (Or.inl ⟨by rfl, ?_⟩) (by assumption) ?_); rotate_left; (focus (intro w hSw; (try dsimp only at hSw); go_simp; (try with_reducible rfl); done)); (try simp only [Act.put, List.setIfInBounds_toArray, List.set_cons_zero, List.set_cons_succ])
  (refine wpAnyH_take (i := 17) (oi := ⟨_, _, _, _, _, _⟩) (v := ?_) rfl (by kernel_rfl) (by kernel_rfl) (by kernel_rfl) (fun _ _ _ h => h) (Or.inl ⟨by rfl, ?_⟩) (by assumption) ?_); rotate_left; (focus (intro w hSw; (try dsimp only at hSw); go_simp; (try with_reducible rfl); done)); (try simp only [Act.put, List.setIfInBounds_toArray, List.set_cons_zero, List.set_cons_succ])
  refine wpAnyH_ready (rs := [18]) (by kernel_rfl) (by simp) ?_; refine AllReadyH.cons (o := ⟨_, _, _, _, _, _⟩) rfl (fun K hK => ?_) AllReadyH.nil; go_simp
  (go_at_call 22; refine (fault_at 0 _).mono ?_; rintro e5 w5 ⟨rfl, hb5⟩; have S5 := Lib.hid (S4.out.below hb5); obtain ⟨_, k0, k1, _, _⟩ := S5.out.f)
  (try go_wp2_with fail); refine hK.out _ _ ?_ ?_; (focus ((try dsimp only); (try go_keep); done)); clear hHeld hK K; intro hHeld; (try simp only [Act.put, List.setIfInBounds_toArray, List.set_cons_zero, List.set_cons_succ])
  (refine wpAnyH_take (i := 19) (oi := ⟨_, _, _, _, _, _⟩) (v := ?_) rfl (by kernel_rfl) (by kernel_rfl) (by kernel_rfl) (fun _ _ _ h => h) (Or.inl ⟨by rfl, ?_⟩) (by assumption) ?_); rotate_left; (focus (intro w hSw; (try dsimp only at hSw); go_simp; (try with_reducible rfl); done)); (try simp only [Act.put, List.setIfInBounds_toArray, List.set_cons_zero, List.set_cons_succ])
  (refine wpAnyH_take (i := 20) (oi := ⟨_, _, _, _, _, _⟩) (v := ?_) rfl (by kernel_rfl) (by kernel_rfl) (by kernel_rfl) (fun _ _ _ h => h) (Or.inl ⟨by rfl, ?_⟩) (by assumption) ?_); rotate_left; (focus (intro w hSw; (try dsimp only at hSw); go_simp; (try with_reducible rfl); done)); (try simp only [Act.put, List.setIfInBounds_toArray, List.set_cons_zero, List.set_cons_succ])
  (refine wpAnyH_take (i := 21) (oi := ⟨_, _, _, _, _, _⟩) (v := ?_) rfl (by kernel_rfl) (by kernel_rfl) (by kernel_rfl) (fun _ _ _ h => h) (Or.inl ⟨by rfl, ?_⟩) (by assumption) ?_); rotate_left; (focus (intro w hSw; (try dsimp only at hSw); go_simp; (try with_reducible rfl); done)); (try simp only [Act.put, List.setIfInBounds_toArray, List.set_cons_zero, List.set_cons_succ])
  (refine wpAnyH_take (i := 22) (oi := ⟨_, _, _, _, _, _⟩) (v := ?_) rfl (by kernel_rfl) (by kernel_rfl) (by kernel_rfl) (fun _ _ _ h => h) (Or.inl ⟨by rfl, ?_⟩) (by assumption) ?_); rotate_left; (focus (intro w hSw; (try dsimp only at hSw); go_simp; (try with_reducible rfl); done)); (try simp only [Act.put, List.setIfInBounds_toArray, List.set_cons_zero, List.set_cons_succ])
  (refine wpAnyH_take (i := 23) (oi := ⟨_, _, _, _, _, _⟩) (v := ?_) rfl (by kernel_rfl) (by kernel_rfl) (by kernel_rfl) (fun _ _ _ h => h) (Or.inl ⟨by rfl, ?_⟩) (by assumption) ?_); rotate_left; (focus (intro w hSw; (try dsimp only at hSw); go_simp; (try with_reducible rfl); done)); (try simp only [Act.put, List.setIfInBounds_toArray, List.set_cons_zero, List.set_cons_succ])
  refine wpAnyH_done (by kernel_rfl) ?_ _
  go_wp2_with fail
  go_ret
  exact ⟨rfl, S5.out.bel⟩
set_option maxRecDepth 100000 in
set_option maxHeartbeats 1000000 in
theorem marks_none_true (s : ByteArray) (w : World) (hs : s.size ≤ 2000) (hz : 2 ≤ s.size) (a0 : s[0].toNat = 254) (a1 : s[1].toNat = 255) (h1 : bigMark s = true) (h2 : (bigMark s || littleMark s) = true) (hd : (wscan (s.extract 2 s.size) true).2 = none) (hT : pt.Tabs w) : Calls Tryd.prog 7 #[.string s] w fun e w' => e = .returned (.bool true) ∧ Below w.heap.size w w' := by
  have hm := fun w2 => Mark_any s w2
  have hk := fun w2 => Marked_yes s true w2 (by omega) hz h1 h2
  have hsl : ∀ wx, (Instr.slice 9 (.string s) (some (.int .i64 2)) none none).run Tryd.prog wx = .ok (.string (s.extract 2 s.size)) wx := fun wx => by
    rw [run_slice_string_l wx 9 s Tryd.underlying9 .i64 2 (by omega) (by omega)]; rfl
  have hr := fun w2 => refDecode_any (s.extract 2 s.size) true w2 (by rw [ByteArray.size_extract]; omega)
  rw [h2, h1] at hm
  rw [hd] at hk hr
  simp only [pt.fe, fb, rat] at hk hr
  generalize wt (wscan (s.extract 2 s.size) true) = T at *
  generalize s.extract 2 s.size = t at *
  have m1 : ¬ s.toList = [] := fun h => by rw [ByteArray.toList_eq] at h; have := str_nil.1 h; omega
  have m2 : s.toList.isEmpty = false := by rw [Bool.eq_false_iff]; intro h; exact m1 (List.isEmpty_iff.1 h)
  have HM := Lib.hid hm; have HT := Lib.hid hT; have HK := Lib.hid hk; have HR := Lib.hid hr
  clear hm hT h1 h2 hk hr hd
  have z0 : 0 < s.size := by omega
  have z1 : 1 < s.size := by omega
  have g2 : (s.size : Int) ≥ 2 := by omega
  have q0 : (((s[0]'z0).toNat : Int) == 254) = true := by rw [a0]; rfl
  have q2 : (((s[1]'z1).toNat : Int) == 255) = true := by rw [a1]; rfl
  clear a0 a1 hz
  go_enter Tryd.func7, Tryd.ntmps7
  go_wp2_with (first | (go_at_call 26; refine (HM.out _).mono ?_; rintro e1 w1 ⟨rfl, rfl⟩) | (go_at_call 27; refine (HK.out _).mono ?_; rintro e2 w2 ⟨rfl, hb2⟩; have S2 := Lib.hid (St.new (e := 0) (f := 0) HT.out hb2); clear hb2) | (go_at_call 21; refine (HR.out _).mono ?_; rintro e3 w3 ⟨rfl, hb3⟩; have S3 := Lib.hid (S2.out.below hb3); clear hb3))
  have S4 := Lib.hid S3.out.drew
  obtain ⟨_, c0, c1, _, _⟩ := S3.out.f
  obtain ⟨X, hX⟩ : ∃ X, X = w2.heap.size := ⟨_, rfl⟩
  rw [← hX] at c0 c1 S4
  rw [← hX]
  clear S2 S3 hX
  go_region_held3 (fun w' => w'.cell? ⟨X, 0, none⟩ = some (.int .i64 0) ∧ w'.cell? ⟨X, 1, none⟩ = some (.int .i64 0)) (go_keep) (first | (go_at_call 19; refine (awake_any _ S4.out.t).mono ?_; rintro e9 w9 ⟨rfl, hb9⟩; have S9 := Lib.hid (S4.out.below hb9); obtain ⟨_, k0, k1, _, _⟩ := S9.out.f) | (go_at_call 22; refine (fault_none _).mono ?_; rintro e5 w5 ⟨rfl, hb5⟩; have S5 := Lib.hid (S9.out.below hb5); obtain ⟨_, k0, k1, _, _⟩ := S5.out.f))
  all_goals go_wp2_with fail
  all_goals
    go_ret
    exact ⟨rfl, S5.out.bel⟩
set_option maxRecDepth 100000 in
set_option maxHeartbeats 1000000 in
theorem marks_some_true (s : ByteArray) (w : World) (hs : s.size ≤ 2000) (hz : 2 ≤ s.size) (a0 : s[0].toNat = 254) (a1 : s[1].toNat = 255) (h1 : bigMark s = true) (h2 : (bigMark s || littleMark s) = true) (A : Nat) (hA : A ≤ 2000) (hd : (wscan (s.extract 2 s.size) true).2 = some A) (hT : pt.Tabs w) : Calls Tryd.prog 7 #[.string s] w fun e w' => e = .returned (.bool true) ∧ Below w.heap.size w w' := by
  have hm := fun w2 => Mark_any s w2
  have hk := fun w2 => Marked_yes s true w2 (by omega) hz h1 h2
  have hsl : ∀ wx, (Instr.slice 9 (.string s) (some (.int .i64 2)) none none).run Tryd.prog wx = .ok (.string (s.extract 2 s.size)) wx := fun wx => by
    rw [run_slice_string_l wx 9 s Tryd.underlying9 .i64 2 (by omega) (by omega)]; rfl
  have hr := fun w2 => refDecode_any (s.extract 2 s.size) true w2 (by rw [ByteArray.size_extract]; omega)
  rw [h2, h1] at hm
  rw [hd] at hk hr
  simp only [pt.fe, fb, rat] at hk hr
  have e2 : (2 : Int) + (A : Int) = (A : Int) + 2 := by omega
  rw [e2] at hk
  have HF : Hid (∀ w2, Calls Tryd.prog 22 #[.int .i64 ((A : Int) + 2)] w2 fun x w' => x = .returned (.agg #[.int .i64 2, .int .i64 ((A : Int) + 2)]) ∧ Below w2.heap.size w2 w') := Lib.hid (fun w2 => by
    have h := pt.fault_any ((A : Int) + 2) w2
    rwa [if_neg (by omega), if_neg (by omega)] at h)
  clear e2
  generalize wt (wscan (s.extract 2 s.size) true) = T at *
  generalize s.extract 2 s.size = t at *
  have m1 : ¬ s.toList = [] := fun h => by rw [ByteArray.toList_eq] at h; have := str_nil.1 h; omega
  have m2 : s.toList.isEmpty = false := by rw [Bool.eq_false_iff]; intro h; exact m1 (List.isEmpty_iff.1 h)
  have HM := Lib.hid hm; have HT := Lib.hid hT; have HK := Lib.hid hk; have HR := Lib.hid hr
  clear hm hT h1 h2 hk hr hd
  have z0 : 0 < s.size := by omega
  have z1 : 1 < s.size := by omega
  have g2 : (s.size : Int) ≥ 2 := by omega
  have q0 : (((s[0]'z0).toNat : Int) == 254) = true := by rw [a0]; rfl
  have q2 : (((s[1]'z1).toNat : Int) == 255) = true := by rw [a1]; rfl
  clear a0 a1 hz
  go_enter Tryd.func7, Tryd.ntmps7
  go_wp2_with (first | (go_at_call 26; refine (HM.out _).mono ?_; rintro e1 w1 ⟨rfl, rfl⟩) | (go_at_call 27; refine (HK.out _).mono ?_; rintro e2 w2 ⟨rfl, hb2⟩; have S2 := Lib.hid (St.new (e := 2) (f := ((A : Int) + 2)) HT.out hb2); clear hb2) | (go_at_call 21; refine (HR.out _).mono ?_; rintro e3 w3 ⟨rfl, hb3⟩; have S3 := Lib.hid (S2.out.below hb3); clear hb3))
  have S4 := Lib.hid S3.out.drew
  obtain ⟨_, c0, c1, _, _⟩ := S3.out.f
  obtain ⟨X, hX⟩ : ∃ X, X = w2.heap.size := ⟨_, rfl⟩
  rw [← hX] at c0 c1 S4
  rw [← hX]
  clear S2 S3 hX
  go_region_held3 (fun w' => w'.cell? ⟨X, 0, none⟩ = some (.int .i64 2) ∧ w'.cell? ⟨X, 1, none⟩ = some (.int .i64 ((A : Int) + 2))) (go_keep) (first | (go_at_call 19; refine (awake_any _ S4.out.t).mono ?_; rintro e9 w9 ⟨rfl, hb9⟩; have S9 := Lib.hid (S4.out.below hb9); obtain ⟨_, k0, k1, _, _⟩ := S9.out.f) | (go_at_call 22; refine (HF.out _).mono ?_; rintro e5 w5 ⟨rfl, hb5⟩; have S5 := Lib.hid (S9.out.below hb5); obtain ⟨_, k0, k1, _, _⟩ := S5.out.f))
  all_goals go_wp2_with fail
  all_goals
    go_ret
    exact ⟨rfl, S5.out.bel⟩
set_option maxRecDepth 100000 in
set_option maxHeartbeats 1000000 in
theorem marks_none_false (s : ByteArray) (w : World) (hs : s.size ≤ 2000) (hz : 2 ≤ s.size) (a0 : s[0].toNat = 255) (a1 : s[1].toNat = 254) (h1 : bigMark s = false) (h2 : (bigMark s || littleMark s) = true) (hd : (wscan (s.extract 2 s.size) false).2 = none) (hT : pt.Tabs w) : Calls Tryd.prog 7 #[.string s] w fun e w' => e = .returned (.bool true) ∧ Below w.heap.size w w' := by
  have hm := fun w2 => Mark_any s w2
  have hk := fun w2 => Marked_yes s false w2 (by omega) hz h1 h2
  have hsl : ∀ wx, (Instr.slice 9 (.string s) (some (.int .i64 2)) none none).run Tryd.prog wx = .ok (.string (s.extract 2 s.size)) wx := fun wx => by
    rw [run_slice_string_l wx 9 s Tryd.underlying9 .i64 2 (by omega) (by omega)]; rfl
  have hr := fun w2 => refDecode_any (s.extract 2 s.size) false w2 (by rw [ByteArray.size_extract]; omega)
  rw [h2, h1] at hm
  rw [hd] at hk hr
  simp only [pt.fe, fb, rat] at hk hr
  generalize wt (wscan (s.extract 2 s.size) false) = T at *
  generalize s.extract 2 s.size = t at *
  have m1 : ¬ s.toList = [] := fun h => by rw [ByteArray.toList_eq] at h; have := str_nil.1 h; omega
  have m2 : s.toList.isEmpty = false := by rw [Bool.eq_false_iff]; intro h; exact m1 (List.isEmpty_iff.1 h)
  have HM := Lib.hid hm; have HT := Lib.hid hT; have HK := Lib.hid hk; have HR := Lib.hid hr
  clear hm hT h1 h2 hk hr hd
  have z0 : 0 < s.size := by omega
  have z1 : 1 < s.size := by omega
  have g2 : (s.size : Int) ≥ 2 := by omega
  have q0 : (((s[0]'z0).toNat : Int) == 254) = false := by rw [a0]; rfl
  have q1 : (((s[0]'z0).toNat : Int) == 255) = true := by rw [a0]; rfl
  have q2 : (((s[1]'z1).toNat : Int) == 254) = true := by rw [a1]; rfl
  clear a0 a1 hz
  go_enter Tryd.func7, Tryd.ntmps7
  go_wp2_with (first | (go_at_call 26; refine (HM.out _).mono ?_; rintro e1 w1 ⟨rfl, rfl⟩) | (go_at_call 27; refine (HK.out _).mono ?_; rintro e2 w2 ⟨rfl, hb2⟩; have S2 := Lib.hid (St.new (e := 0) (f := 0) HT.out hb2); clear hb2) | (go_at_call 21; refine (HR.out _).mono ?_; rintro e3 w3 ⟨rfl, hb3⟩; have S3 := Lib.hid (S2.out.below hb3); clear hb3))
  have S4 := Lib.hid S3.out.drew
  obtain ⟨_, c0, c1, _, _⟩ := S3.out.f
  obtain ⟨X, hX⟩ : ∃ X, X = w2.heap.size := ⟨_, rfl⟩
  rw [← hX] at c0 c1 S4
  rw [← hX]
  clear S2 S3 hX
  go_region_held3 (fun w' => w'.cell? ⟨X, 0, none⟩ = some (.int .i64 0) ∧ w'.cell? ⟨X, 1, none⟩ = some (.int .i64 0)) (go_keep) (first | (go_at_call 19; refine (awake_any _ S4.out.t).mono ?_; rintro e9 w9 ⟨rfl, hb9⟩; have S9 := Lib.hid (S4.out.below hb9); obtain ⟨_, k0, k1, _, _⟩ := S9.out.f) | (go_at_call 22; refine (fault_none _).mono ?_; rintro e5 w5 ⟨rfl, hb5⟩; have S5 := Lib.hid (S9.out.below hb5); obtain ⟨_, k0, k1, _, _⟩ := S5.out.f))
  all_goals go_wp2_with fail
  all_goals
    go_ret
    exact ⟨rfl, S5.out.bel⟩
set_option maxRecDepth 100000 in
set_option maxHeartbeats 1000000 in
theorem marks_some_false (s : ByteArray) (w : World) (hs : s.size ≤ 2000) (hz : 2 ≤ s.size) (a0 : s[0].toNat = 255) (a1 : s[1].toNat = 254) (h1 : bigMark s = false) (h2 : (bigMark s || littleMark s) = true) (A : Nat) (hA : A ≤ 2000) (hd : (wscan (s.extract 2 s.size) false).2 = some A) (hT : pt.Tabs w) : Calls Tryd.prog 7 #[.string s] w fun e w' => e = .returned (.bool true) ∧ Below w.heap.size w w' := by
  have hm := fun w2 => Mark_any s w2
  have hk := fun w2 => Marked_yes s false w2 (by omega) hz h1 h2
  have hsl : ∀ wx, (Instr.slice 9 (.string s) (some (.int .i64 2)) none none).run Tryd.prog wx = .ok (.string (s.extract 2 s.size)) wx := fun wx => by
    rw [run_slice_string_l wx 9 s Tryd.underlying9 .i64 2 (by omega) (by omega)]; rfl
  have hr := fun w2 => refDecode_any (s.extract 2 s.size) false w2 (by rw [ByteArray.size_extract]; omega)
  rw [h2, h1] at hm
  rw [hd] at hk hr
  simp only [pt.fe, fb, rat] at hk hr
  have e2 : (2 : Int) + (A : Int) = (A : Int) + 2 := by omega
  rw [e2] at hk
  have HF : Hid (∀ w2, Calls Tryd.prog 22 #[.int .i64 ((A : Int) + 2)] w2 fun x w' => x = .returned (.agg #[.int .i64 2, .int .i64 ((A : Int) + 2)]) ∧ Below w2.heap.size w2 w') := Lib.hid (fun w2 => by
    have h := pt.fault_any ((A : Int) + 2) w2
    rwa [if_neg (by omega), if_neg (by omega)] at h)
  clear e2
  generalize wt (wscan (s.extract 2 s.size) false) = T at *
  generalize s.extract 2 s.size = t at *
  have m1 : ¬ s.toList = [] := fun h => by rw [ByteArray.toList_eq] at h; have := str_nil.1 h; omega
  have m2 : s.toList.isEmpty = false := by rw [Bool.eq_false_iff]; intro h; exact m1 (List.isEmpty_iff.1 h)
  have HM := Lib.hid hm; have HT := Lib.hid hT; have HK := Lib.hid hk; have HR := Lib.hid hr
  clear hm hT h1 h2 hk hr hd
  have z0 : 0 < s.size := by omega
  have z1 : 1 < s.size := by omega
  have g2 : (s.size : Int) ≥ 2 := by omega
  have q0 : (((s[0]'z0).toNat : Int) == 254) = false := by rw [a0]; rfl
  have q1 : (((s[0]'z0).toNat : Int) == 255) = true := by rw [a0]; rfl
  have q2 : (((s[1]'z1).toNat : Int) == 254) = true := by rw [a1]; rfl
  clear a0 a1 hz
  go_enter Tryd.func7, Tryd.ntmps7
  go_wp2_with (first | (go_at_call 26; refine (HM.out _).mono ?_; rintro e1 w1 ⟨rfl, rfl⟩) | (go_at_call 27; refine (HK.out _).mono ?_; rintro e2 w2 ⟨rfl, hb2⟩; have S2 := Lib.hid (St.new (e := 2) (f := ((A : Int) + 2)) HT.out hb2); clear hb2) | (go_at_call 21; refine (HR.out _).mono ?_; rintro e3 w3 ⟨rfl, hb3⟩; have S3 := Lib.hid (S2.out.below hb3); clear hb3))
  have S4 := Lib.hid S3.out.drew
  obtain ⟨_, c0, c1, _, _⟩ := S3.out.f
  obtain ⟨X, hX⟩ : ∃ X, X = w2.heap.size := ⟨_, rfl⟩
  rw [← hX] at c0 c1 S4
  rw [← hX]
  clear S2 S3 hX
  go_region_held3 (fun w' => w'.cell? ⟨X, 0, none⟩ = some (.int .i64 2) ∧ w'.cell? ⟨X, 1, none⟩ = some (.int .i64 ((A : Int) + 2))) (go_keep) (first | (go_at_call 19; refine (awake_any _ S4.out.t).mono ?_; rintro e9 w9 ⟨rfl, hb9⟩; have S9 := Lib.hid (S4.out.below hb9); obtain ⟨_, k0, k1, _, _⟩ := S9.out.f) | (go_at_call 22; refine (HF.out _).mono ?_; rintro e5 w5 ⟨rfl, hb5⟩; have S5 := Lib.hid (S9.out.below hb5); obtain ⟨_, k0, k1, _, _⟩ := S5.out.f))
  all_goals go_wp2_with fail
  all_goals
    go_ret
    exact ⟨rfl, S5.out.bel⟩
theorem two_of (s : ByteArray) (h : 2 ≤ s.size) : ∃ r, s.data.toList = s[0] :: s[1] :: r := by
  have hl : s.data.toList.length = s.size := by rw [Array.length_toList]; rfl
  refine ⟨s.data.toList.drop 2, ?_⟩
  rw [← List.drop_zero (l := s.data.toList), List.drop_eq_getElem_cons (by omega), List.drop_eq_getElem_cons (i := 0 + 1) (by omega)]
  rfl
theorem marks_walk (s : ByteArray) (w : World) (hs : s.size ≤ maxLen) (hT : pt.Tabs w) : Calls Tryd.prog 7 #[.string s] w fun e w' => e = .returned (.bool true) ∧ Below w.heap.size w w' := by
  unfold maxLen at hs
  by_cases hbig : 2000 < s.size
  · exact marks_big s w hbig (by omega) hT
  by_cases h0 : s.size = 0
  · have e : s = ⟨#[]⟩ := by
      apply ByteArray.ext
      exact Array.eq_empty_of_size_eq_zero h0
    subst e
    exact marks_empty w hT
  by_cases h1 : s.size = 1
  · have hl : s.data.toList.length = 1 := by rw [Array.length_toList]; exact h1
    obtain ⟨a, ha⟩ : ∃ a, s.data.toList = [a] := by
      match hm : s.data.toList, hl with
      | [a], _ => exact ⟨a, rfl⟩
    refine marks_one s w (by omega) h1 ?_ ?_ hT
    · unfold bigMark Lib.hasPrefix; rw [ha]; simp [List.isPrefixOf]
    · unfold littleMark Lib.hasPrefix; rw [ha]; simp [List.isPrefixOf]
  have hz : 2 ≤ s.size := by omega
  obtain ⟨r, hr⟩ := two_of s hz
  have hB : bigMark s = (s[0].toNat == 254 && s[1].toNat == 255) := by
    unfold bigMark Lib.hasPrefix
    rw [hr]
    simp only [List.isPrefixOf, Bool.and_true]
    rw [Bool.eq_iff_iff]
    simp [← UInt8.toNat_inj]
    omega
  have hL : littleMark s = (s[0].toNat == 255 && s[1].toNat == 254) := by
    unfold littleMark Lib.hasPrefix
    rw [hr]
    simp only [List.isPrefixOf, Bool.and_true]
    rw [Bool.eq_iff_iff]
    simp [← UInt8.toNat_inj]
    omega
  clear hr
  by_cases a0 : s[0].toNat = 254
  · by_cases a1 : s[1].toNat = 255
    · have e1 : bigMark s = true := by rw [hB, a0, a1]; rfl
      cases hd : (wscan (s.extract 2 s.size) true).2 with
      | none => exact marks_none_true s w (by omega) hz a0 a1 e1 (by rw [e1]; rfl) hd hT
      | some A =>
        have hA := (wd_place _ _ _ _ A hd).2
        rw [ByteArray.size_extract] at hA
        exact marks_some_true s w (by omega) hz a0 a1 e1 (by rw [e1]; rfl) A (by omega) hd hT
    · exact marks_c1 s w (by omega) hz a0 a1 (by rw [hB, a0, beq_eq_false_iff_ne.2 a1]; rfl) (by rw [hL, a0]; rfl) hT
  · by_cases a0' : s[0].toNat = 255
    · by_cases a1 : s[1].toNat = 254
      · have e1 : bigMark s = false := by rw [hB, a0']; rfl
        have e2 : (bigMark s || littleMark s) = true := by rw [hL, a0', a1]; simp
        cases hd : (wscan (s.extract 2 s.size) false).2 with
        | none => exact marks_none_false s w (by omega) hz a0' a1 e1 e2 hd hT
        | some A =>
          have hA := (wd_place _ _ _ _ A hd).2
          rw [ByteArray.size_extract] at hA
          exact marks_some_false s w (by omega) hz a0' a1 e1 e2 A (by omega) hd hT
      · exact marks_c2 s w (by omega) hz a0' a1 (by rw [hB, a0']; rfl) (by rw [hL, a0', beq_eq_false_iff_ne.2 a1]; rfl) hT
    · exact marks_c3 s w (by omega) hz a0 a0' (by rw [hB, beq_eq_false_iff_ne.2 a0]; rfl) (by rw [hL, beq_eq_false_iff_ne.2 a0']; rfl) hT
end Go.Proofs.YtmogjimiiadmmaaDoor.wd
