/- Several texts in one. -/
import Derived.Test.YtiigknimfibdpaaGreatDoorTsE
import Derived.Test.YtiigknimfibdpaaGreatDoorZ18
import Derived.Test.YtiigknimfibdpaaGreatDoorZ24
namespace Go.Proofs.YtiigknimfibdpaaGreatDoor.tb
open Go.RowKit Go.Lib
set_option linter.unusedVariables false
theorem fits_any (f c : Int) (w : World) (f0 : -9223372036854775808 ≤ f) (f1 : f ≤ 9223372036854775807) (c0 : -9223372036854775808 ≤ c) (c1 : c ≤ 9223372036854775807) :
    Calls Tryz.prog 203 #[.int .i64 f, .int .i64 c] w fun e w' => e = .returned (.bool (decide (0 ≤ f ∧ 0 < c ∧ c ≤ 1048576 - f))) ∧ w' = w := by
  by_cases h1 : 0 ≤ f
  · by_cases h2 : 0 < c
    · have e1 : IntKind.i64.wrap (1048576 - f) = 1048576 - f := wrap64 (by omega) (by omega)
      by_cases h3 : c ≤ 1048576 - f
      · rw [decide_eq_true (show _ ∧ _ ∧ _ from ⟨h1, h2, h3⟩)]
        go_enter Tryz.func203, Tryz.ntmps203
        go_wp2_with fail
        go_ret
        exact ⟨rfl, rfl⟩
      · rw [decide_eq_false (show ¬ (0 ≤ f ∧ 0 < c ∧ c ≤ 1048576 - f) by omega)]
        go_enter Tryz.func203, Tryz.ntmps203
        go_wp2_with fail
        go_ret
        exact ⟨rfl, rfl⟩
    · rw [decide_eq_false (show ¬ (0 ≤ f ∧ 0 < c ∧ c ≤ 1048576 - f) by omega)]
      go_enter Tryz.func203, Tryz.ntmps203
      go_wp2_with fail
      go_ret
      exact ⟨rfl, rfl⟩
  · rw [decide_eq_false (show ¬ (0 ≤ f ∧ 0 < c ∧ c ≤ 1048576 - f) by omega)]
    go_enter Tryz.func203, Tryz.ntmps203
    go_wp2_with fail
    go_ret
    exact ⟨rfl, rfl⟩
/-- All numbers of a row are signs'. -/
def sgns (t c : Int) : Bool := validRune t && (validRune (t + c - 1) && (decide (t < 55296) == decide (t + c - 1 < 55296)))
set_option maxRecDepth 100000 in
set_option maxHeartbeats 4000000 in
theorem signs_any (f t c : Int) (w : World) (c1 : 1 ≤ c) (c2 : c ≤ 1048576) (t0 : -2147483648 ≤ t) (t1 : t ≤ 2147483647) :
    Calls Tryz.prog 204 #[.agg #[.int .i64 f, .int .i32 t, .int .i64 c]] w fun e w' => e = .returned (.bool (sgns t c)) ∧ Below w.heap.size w w' := by
  have hsc : ∀ (r : Int) (v : Bool), validRune r = v → ∀ w, Calls Tryz.prog 119 #[.int .i32 r] w fun e w' => e = .returned (.bool v) ∧ w = w' := fun r v h w => by rw [← h]; exact pt.scalar_any r w
  unfold sgns
  have F := Lib.hid (f3_new w (.int .i64 f) (.int .i32 t) (.int .i64 c) 145)
  have FB := Lib.hid ((Below.refl w.heap.size w).alloc (Nat.le_refl _) (.cells #[.int .i64 f, .int .i32 t, .int .i64 c] 145))
  have hX0 : w.heap.size ≤ w.heap.size := Nat.le_refl _
  cases hv : validRune t with
  | false =>
    have HS := Lib.hid (hsc t false hv)
    clear hsc hv
    go_enter Tryz.func204, Tryz.ntmps204
    go_wp2_with fail
    generalize w.alloc (.cells #[.int .i64 f, .int .i32 t, .int .i64 c] 145) = W at *
    generalize hX : w.heap.size = X at *
    have HX := Lib.hid hX
    clear hX
    obtain ⟨x3, x0, x1, x2, x4⟩ := F.out
    have F1 := Lib.hid (F.out.below ((Below.refl _ W).drew) x3)
    have B1 := Lib.hid (FB.out.drew)
    have Z1 := Lib.hid FB.out.size
    refine wp_region_held_drew (S := fun w' => w'.cell? ⟨X, 0, none⟩ = some (.int .i64 f) ∧ w'.cell? ⟨X, 1, none⟩ = some (.int .i32 t) ∧ w'.cell? ⟨X, 2, none⟩ = some (.int .i64 c)) (by kernel_rfl) ?_ (fun hHeld => ?_)
    · go_keep
    (refine wpAnyH_take (i := 0) (oi := ⟨_, _, _, _, _, _⟩) (v := ?_) rfl (by kernel_rfl) (by kernel_rfl) (by kernel_rfl) (fun _ _ _ h => h) (Or.inl ⟨by rfl, ?_⟩) (by assumption) ?_); rotate_left; (focus (intro w hSw; (try dsimp only at hSw); go_simp; (try with_reducible rfl); done)); (try simp only [Act.put, List.setIfInBounds_toArray, List.set_cons_zero, List.set_cons_succ])
    (refine wpAnyH_take (i := 1) (oi := ⟨_, _, _, _, _, _⟩) (v := ?_) rfl (by kernel_rfl) (by kernel_rfl) (by kernel_rfl) (fun _ _ _ h => h) (Or.inl ⟨by rfl, ?_⟩) (by assumption) ?_); rotate_left; (focus (intro w hSw; (try dsimp only at hSw); go_simp; (try with_reducible rfl); done)); (try simp only [Act.put, List.setIfInBounds_toArray, List.set_cons_zero, List.set_cons_succ])
    refine wpAnyH_ready (rs := [2]) (by kernel_rfl) (by simp) ?_; refine AllReadyH.cons (o := ⟨_, _, _, _, _, _⟩) rfl (fun K hK => ?_) AllReadyH.nil; go_simp
    (go_at_call 119; refine (HS.out _).mono ?_; rintro e1 w1 ⟨rfl, rfl⟩)
    (try go_wp2_with fail); refine hK.out _ _ ?_ ?_; (focus ((try dsimp only); (try go_keep); done)); clear hHeld hK K; intro hHeld; (try simp only [Act.put, List.setIfInBounds_toArray, List.set_cons_zero, List.set_cons_succ])
    (refine wpAnyH_take (i := 3) (oi := ⟨_, _, _, _, _, _⟩) (v := ?_) rfl (by kernel_rfl) (by kernel_rfl) (by kernel_rfl) (fun _ _ _ h => h) (Or.inl ⟨by rfl, ?_⟩) (by assumption) ?_); rotate_left; (focus (intro w hSw; (try dsimp only at hSw); go_simp; (try with_reducible rfl); done)); (try simp only [Act.put, List.setIfInBounds_toArray, List.set_cons_zero, List.set_cons_succ])
    (refine wpAnyH_take (i := 4) (oi := ⟨_, _, _, _, _, _⟩) (v := _) rfl (by kernel_rfl) (by kernel_rfl) (by kernel_rfl) (fun _ _ _ h => h) (Or.inr ⟨by rfl, rfl⟩) (by assumption) ?_); (try simp only [Act.put, List.setIfInBounds_toArray, List.set_cons_zero, List.set_cons_succ])
    (refine wpAnyH_take (i := 5) (oi := ⟨_, _, _, _, _, _⟩) (v := _) rfl (by kernel_rfl) (by kernel_rfl) (by kernel_rfl) (fun _ _ _ h => h) (Or.inr ⟨by rfl, rfl⟩) (by assumption) ?_); (try simp only [Act.put, List.setIfInBounds_toArray, List.set_cons_zero, List.set_cons_succ])
    (refine wpAnyH_take (i := 6) (oi := ⟨_, _, _, _, _, _⟩) (v := _) rfl (by kernel_rfl) (by kernel_rfl) (by kernel_rfl) (fun _ _ _ h => h) (Or.inr ⟨by rfl, rfl⟩) (by assumption) ?_); (try simp only [Act.put, List.setIfInBounds_toArray, List.set_cons_zero, List.set_cons_succ])
    (refine wpAnyH_take (i := 7) (oi := ⟨_, _, _, _, _, _⟩) (v := ?_) rfl (by kernel_rfl) (by kernel_rfl) (by kernel_rfl) (fun _ _ _ h => h) (Or.inl ⟨by rfl, ?_⟩) (by assumption) ?_); rotate_left; (focus (intro w hSw; (try dsimp only at hSw); go_simp; (try with_reducible rfl); done)); (try simp only [Act.put, List.setIfInBounds_toArray, List.set_cons_zero, List.set_cons_succ])
    (refine wpAnyH_take (i := 8) (oi := ⟨_, _, _, _, _, _⟩) (v := ?_) rfl (by kernel_rfl) (by kernel_rfl) (by kernel_rfl) (fun _ _ _ h => h) (Or.inl ⟨by rfl, ?_⟩) (by assumption) ?_); rotate_left; (focus (intro w hSw; (try dsimp only at hSw); go_simp; (try with_reducible rfl); done)); (try simp only [Act.put, List.setIfInBounds_toArray, List.set_cons_zero, List.set_cons_succ])
    (refine wpAnyH_take (i := 9) (oi := ⟨_, _, _, _, _, _⟩) (v := _) rfl (by kernel_rfl) (by kernel_rfl) (by kernel_rfl) (fun _ _ _ h => h) (Or.inr ⟨by rfl, rfl⟩) (by assumption) ?_); (try simp only [Act.put, List.setIfInBounds_toArray, List.set_cons_zero, List.set_cons_succ])
    (refine wpAnyH_take (i := 10) (oi := ⟨_, _, _, _, _, _⟩) (v := _) rfl (by kernel_rfl) (by kernel_rfl) (by kernel_rfl) (fun _ _ _ h => h) (Or.inr ⟨by rfl, rfl⟩) (by assumption) ?_); (try simp only [Act.put, List.setIfInBounds_toArray, List.set_cons_zero, List.set_cons_succ])
    (refine wpAnyH_take (i := 11) (oi := ⟨_, _, _, _, _, _⟩) (v := _) rfl (by kernel_rfl) (by kernel_rfl) (by kernel_rfl) (fun _ _ _ h => h) (Or.inr ⟨by rfl, rfl⟩) (by assumption) ?_); (try simp only [Act.put, List.setIfInBounds_toArray, List.set_cons_zero, List.set_cons_succ])
    (refine wpAnyH_take (i := 12) (oi := ⟨_, _, _, _, _, _⟩) (v := _) rfl (by kernel_rfl) (by kernel_rfl) (by kernel_rfl) (fun _ _ _ h => h) (Or.inr ⟨by rfl, rfl⟩) (by assumption) ?_); (try simp only [Act.put, List.setIfInBounds_toArray, List.set_cons_zero, List.set_cons_succ])
    (refine wpAnyH_take (i := 13) (oi := ⟨_, _, _, _, _, _⟩) (v := _) rfl (by kernel_rfl) (by kernel_rfl) (by kernel_rfl) (fun _ _ _ h => h) (Or.inr ⟨by rfl, rfl⟩) (by assumption) ?_); (try simp only [Act.put, List.setIfInBounds_toArray, List.set_cons_zero, List.set_cons_succ])
    (refine wpAnyH_take (i := 14) (oi := ⟨_, _, _, _, _, _⟩) (v := _) rfl (by kernel_rfl) (by kernel_rfl) (by kernel_rfl) (fun _ _ _ h => h) (Or.inr ⟨by rfl, rfl⟩) (by assumption) ?_); (try simp only [Act.put, List.setIfInBounds_toArray, List.set_cons_zero, List.set_cons_succ])
    (refine wpAnyH_take (i := 15) (oi := ⟨_, _, _, _, _, _⟩) (v := _) rfl (by kernel_rfl) (by kernel_rfl) (by kernel_rfl) (fun _ _ _ h => h) (Or.inr ⟨by rfl, rfl⟩) (by assumption) ?_); (try simp only [Act.put, List.setIfInBounds_toArray, List.set_cons_zero, List.set_cons_succ])
    (refine wpAnyH_take (i := 16) (oi := ⟨_, _, _, _, _, _⟩) (v := ?_) rfl (by kernel_rfl) (by kernel_rfl) (by kernel_rfl) (fun _ _ _ h => h) (Or.inl ⟨by rfl, ?_⟩) (by assumption) ?_); rotate_left; (focus (intro w hSw; (try dsimp only at hSw); go_simp; (try with_reducible rfl); done)); (try simp only [Act.put, List.setIfInBounds_toArray, List.set_cons_zero, List.set_cons_succ])
    (refine wpAnyH_take (i := 17) (oi := ⟨_, _, _, _, _, _⟩) (v := ?_) rfl (by kernel_rfl) (by kernel_rfl) (by kernel_rfl) (fun _ _ _ h => h) (Or.inl ⟨by rfl, ?_⟩) (by assumption) ?_); rotate_left; (focus (intro w hSw; (try dsimp only at hSw); go_simp; (try with_reducible rfl); done)); (try simp only [Act.put, List.setIfInBounds_toArray, List.set_cons_zero, List.set_cons_succ])
    refine wpAnyH_done (by kernel_rfl) ?_ _
    all_goals go_wp2_with fail
    all_goals go_ret
    all_goals exact ⟨rfl, by rw [HX.out]; exact B1.out⟩
  | true =>
    have hr := pt.valid_range hv
    have HS := Lib.hid (hsc t true hv)
    have HL := Lib.hid (fun w => last_any f t c w (by omega) (by omega) c1 c2 t0 t1)
    obtain ⟨L, hL⟩ : ∃ L, L = t + c - 1 := ⟨_, rfl⟩
    rw [← hL] at HL ⊢
    clear hv hr hL
    cases hv2 : validRune L with
    | false =>
      have HS2 := Lib.hid (hsc L false hv2)
      clear hsc hv2
      go_enter Tryz.func204, Tryz.ntmps204
      go_wp2_with fail
      generalize w.alloc (.cells #[.int .i64 f, .int .i32 t, .int .i64 c] 145) = W at *
      generalize hX : w.heap.size = X at *
      have HX := Lib.hid hX
      clear hX
      obtain ⟨x3, x0, x1, x2, x4⟩ := F.out
      have F1 := Lib.hid (F.out.below ((Below.refl _ W).drew) x3)
      have B1 := Lib.hid (FB.out.drew)
      have Z1 := Lib.hid FB.out.size
      refine wp_region_held_drew (S := fun w' => w'.cell? ⟨X, 0, none⟩ = some (.int .i64 f) ∧ w'.cell? ⟨X, 1, none⟩ = some (.int .i32 t) ∧ w'.cell? ⟨X, 2, none⟩ = some (.int .i64 c)) (by kernel_rfl) ?_ (fun hHeld => ?_)
      · go_keep
      (refine wpAnyH_take (i := 0) (oi := ⟨_, _, _, _, _, _⟩) (v := ?_) rfl (by kernel_rfl) (by kernel_rfl) (by kernel_rfl) (fun _ _ _ h => h) (Or.inl ⟨by rfl, ?_⟩) (by assumption) ?_); rotate_left; (focus (intro w hSw; (try dsimp only at hSw); go_simp; (try with_reducible rfl); done)); (try simp only [Act.put, List.setIfInBounds_toArray, List.set_cons_zero, List.set_cons_succ])
      (refine wpAnyH_take (i := 1) (oi := ⟨_, _, _, _, _, _⟩) (v := ?_) rfl (by kernel_rfl) (by kernel_rfl) (by kernel_rfl) (fun _ _ _ h => h) (Or.inl ⟨by rfl, ?_⟩) (by assumption) ?_); rotate_left; (focus (intro w hSw; (try dsimp only at hSw); go_simp; (try with_reducible rfl); done)); (try simp only [Act.put, List.setIfInBounds_toArray, List.set_cons_zero, List.set_cons_succ])
      refine wpAnyH_ready (rs := [2]) (by kernel_rfl) (by simp) ?_; refine AllReadyH.cons (o := ⟨_, _, _, _, _, _⟩) rfl (fun K hK => ?_) AllReadyH.nil; go_simp
      (go_at_call 119; refine (HS.out _).mono ?_; rintro e1 w1 ⟨rfl, rfl⟩)
      (try go_wp2_with fail); refine hK.out _ _ ?_ ?_; (focus ((try dsimp only); (try go_keep); done)); clear hHeld hK K; intro hHeld; (try simp only [Act.put, List.setIfInBounds_toArray, List.set_cons_zero, List.set_cons_succ])
      (refine wpAnyH_take (i := 3) (oi := ⟨_, _, _, _, _, _⟩) (v := ?_) rfl (by kernel_rfl) (by kernel_rfl) (by kernel_rfl) (fun _ _ _ h => h) (Or.inl ⟨by rfl, ?_⟩) (by assumption) ?_); rotate_left; (focus (intro w hSw; (try dsimp only at hSw); go_simp; (try with_reducible rfl); done)); (try simp only [Act.put, List.setIfInBounds_toArray, List.set_cons_zero, List.set_cons_succ])
      (refine wpAnyH_take (i := 4) (oi := ⟨_, _, _, _, _, _⟩) (v := ?_) rfl (by kernel_rfl) (by kernel_rfl) (by kernel_rfl) (fun _ _ _ h => h) (Or.inl ⟨by rfl, ?_⟩) (by assumption) ?_); rotate_left; (focus (intro w hSw; (try dsimp only at hSw); go_simp; (try with_reducible rfl); done)); (try simp only [Act.put, List.setIfInBounds_toArray, List.set_cons_zero, List.set_cons_succ])
      refine wpAnyH_ready (rs := [5]) (by kernel_rfl) (by simp) ?_; refine AllReadyH.cons (o := ⟨_, _, _, _, _, _⟩) rfl (fun K hK => ?_) AllReadyH.nil; go_simp
      (go_at_call 201; refine (HL.out _).mono ?_; rintro e2 w2 ⟨rfl, hb2⟩; have B1 := Lib.hid (B1.out.trans (hb2.mono (Nat.le_of_lt F1.out.lt))); have F1 := Lib.hid (F1.out.below hb2 F1.out.lt); obtain ⟨x3, x0, x1, x2, x4⟩ := F1.out; clear hb2)
      (try go_wp2_with fail); refine hK.out _ _ ?_ ?_; (focus ((try dsimp only); (try go_keep); done)); clear hHeld hK K; intro hHeld; (try simp only [Act.put, List.setIfInBounds_toArray, List.set_cons_zero, List.set_cons_succ])
      refine wpAnyH_ready (rs := [6]) (by kernel_rfl) (by simp) ?_; refine AllReadyH.cons (o := ⟨_, _, _, _, _, _⟩) rfl (fun K hK => ?_) AllReadyH.nil; go_simp
      (go_at_call 119; refine (HS2.out _).mono ?_; rintro e1 w1 ⟨rfl, rfl⟩)
      (try go_wp2_with fail); refine hK.out _ _ ?_ ?_; (focus ((try dsimp only); (try go_keep); done)); clear hHeld hK K; intro hHeld; (try simp only [Act.put, List.setIfInBounds_toArray, List.set_cons_zero, List.set_cons_succ])
      (refine wpAnyH_take (i := 7) (oi := ⟨_, _, _, _, _, _⟩) (v := ?_) rfl (by kernel_rfl) (by kernel_rfl) (by kernel_rfl) (fun _ _ _ h => h) (Or.inl ⟨by rfl, ?_⟩) (by assumption) ?_); rotate_left; (focus (intro w hSw; (try dsimp only at hSw); go_simp; (try with_reducible rfl); done)); (try simp only [Act.put, List.setIfInBounds_toArray, List.set_cons_zero, List.set_cons_succ])
      (refine wpAnyH_take (i := 8) (oi := ⟨_, _, _, _, _, _⟩) (v := ?_) rfl (by kernel_rfl) (by kernel_rfl) (by kernel_rfl) (fun _ _ _ h => h) (Or.inl ⟨by rfl, ?_⟩) (by assumption) ?_); rotate_left; (focus (intro w hSw; (try dsimp only at hSw); go_simp; (try with_reducible rfl); done)); (try simp only [Act.put, List.setIfInBounds_toArray, List.set_cons_zero, List.set_cons_succ])
      (refine wpAnyH_take (i := 9) (oi := ⟨_, _, _, _, _, _⟩) (v := _) rfl (by kernel_rfl) (by kernel_rfl) (by kernel_rfl) (fun _ _ _ h => h) (Or.inr ⟨by rfl, rfl⟩) (by assumption) ?_); (try simp only [Act.put, List.setIfInBounds_toArray, List.set_cons_zero, List.set_cons_succ])
      (refine wpAnyH_take (i := 10) (oi := ⟨_, _, _, _, _, _⟩) (v := _) rfl (by kernel_rfl) (by kernel_rfl) (by kernel_rfl) (fun _ _ _ h => h) (Or.inr ⟨by rfl, rfl⟩) (by assumption) ?_); (try simp only [Act.put, List.setIfInBounds_toArray, List.set_cons_zero, List.set_cons_succ])
      (refine wpAnyH_take (i := 11) (oi := ⟨_, _, _, _, _, _⟩) (v := _) rfl (by kernel_rfl) (by kernel_rfl) (by kernel_rfl) (fun _ _ _ h => h) (Or.inr ⟨by rfl, rfl⟩) (by assumption) ?_); (try simp only [Act.put, List.setIfInBounds_toArray, List.set_cons_zero, List.set_cons_succ])
      (refine wpAnyH_take (i := 12) (oi := ⟨_, _, _, _, _, _⟩) (v := _) rfl (by kernel_rfl) (by kernel_rfl) (by kernel_rfl) (fun _ _ _ h => h) (Or.inr ⟨by rfl, rfl⟩) (by assumption) ?_); (try simp only [Act.put, List.setIfInBounds_toArray, List.set_cons_zero, List.set_cons_succ])
      (refine wpAnyH_take (i := 13) (oi := ⟨_, _, _, _, _, _⟩) (v := _) rfl (by kernel_rfl) (by kernel_rfl) (by kernel_rfl) (fun _ _ _ h => h) (Or.inr ⟨by rfl, rfl⟩) (by assumption) ?_); (try simp only [Act.put, List.setIfInBounds_toArray, List.set_cons_zero, List.set_cons_succ])
      (refine wpAnyH_take (i := 14) (oi := ⟨_, _, _, _, _, _⟩) (v := _) rfl (by kernel_rfl) (by kernel_rfl) (by kernel_rfl) (fun _ _ _ h => h) (Or.inr ⟨by rfl, rfl⟩) (by assumption) ?_); (try simp only [Act.put, List.setIfInBounds_toArray, List.set_cons_zero, List.set_cons_succ])
      (refine wpAnyH_take (i := 15) (oi := ⟨_, _, _, _, _, _⟩) (v := _) rfl (by kernel_rfl) (by kernel_rfl) (by kernel_rfl) (fun _ _ _ h => h) (Or.inr ⟨by rfl, rfl⟩) (by assumption) ?_); (try simp only [Act.put, List.setIfInBounds_toArray, List.set_cons_zero, List.set_cons_succ])
      (refine wpAnyH_take (i := 16) (oi := ⟨_, _, _, _, _, _⟩) (v := ?_) rfl (by kernel_rfl) (by kernel_rfl) (by kernel_rfl) (fun _ _ _ h => h) (Or.inl ⟨by rfl, ?_⟩) (by assumption) ?_); rotate_left; (focus (intro w hSw; (try dsimp only at hSw); go_simp; (try with_reducible rfl); done)); (try simp only [Act.put, List.setIfInBounds_toArray, List.set_cons_zero, List.set_cons_succ])
      (refine wpAnyH_take (i := 17) (oi := ⟨_, _, _, _, _, _⟩) (v := ?_) rfl (by kernel_rfl) (by kernel_rfl) (by kernel_rfl) (fun _ _ _ h => h) (Or.inl ⟨by rfl, ?_⟩) (by assumption) ?_); rotate_left; (focus (intro w hSw; (try dsimp only at hSw); go_simp; (try with_reducible rfl); done)); (try simp only [Act.put, List.setIfInBounds_toArray, List.set_cons_zero, List.set_cons_succ])
      refine wpAnyH_done (by kernel_rfl) ?_ _
      all_goals go_wp2_with fail
      all_goals go_ret
      all_goals exact ⟨rfl, by rw [HX.out]; exact B1.out⟩
    | true =>
      have HS2 := Lib.hid (hsc L true hv2)
      clear hsc hv2
      go_enter Tryz.func204, Tryz.ntmps204
      go_wp2_with fail
      generalize w.alloc (.cells #[.int .i64 f, .int .i32 t, .int .i64 c] 145) = W at *
      generalize hX : w.heap.size = X at *
      have HX := Lib.hid hX
      clear hX
      obtain ⟨x3, x0, x1, x2, x4⟩ := F.out
      have F1 := Lib.hid (F.out.below ((Below.refl _ W).drew) x3)
      have B1 := Lib.hid (FB.out.drew)
      have Z1 := Lib.hid FB.out.size
      refine wp_region_held_drew (S := fun w' => w'.cell? ⟨X, 0, none⟩ = some (.int .i64 f) ∧ w'.cell? ⟨X, 1, none⟩ = some (.int .i32 t) ∧ w'.cell? ⟨X, 2, none⟩ = some (.int .i64 c)) (by kernel_rfl) ?_ (fun hHeld => ?_)
      · go_keep
      (refine wpAnyH_take (i := 0) (oi := ⟨_, _, _, _, _, _⟩) (v := ?_) rfl (by kernel_rfl) (by kernel_rfl) (by kernel_rfl) (fun _ _ _ h => h) (Or.inl ⟨by rfl, ?_⟩) (by assumption) ?_); rotate_left; (focus (intro w hSw; (try dsimp only at hSw); go_simp; (try with_reducible rfl); done)); (try simp only [Act.put, List.setIfInBounds_toArray, List.set_cons_zero, List.set_cons_succ])
      (refine wpAnyH_take (i := 1) (oi := ⟨_, _, _, _, _, _⟩) (v := ?_) rfl (by kernel_rfl) (by kernel_rfl) (by kernel_rfl) (fun _ _ _ h => h) (Or.inl ⟨by rfl, ?_⟩) (by assumption) ?_); rotate_left; (focus (intro w hSw; (try dsimp only at hSw); go_simp; (try with_reducible rfl); done)); (try simp only [Act.put, List.setIfInBounds_toArray, List.set_cons_zero, List.set_cons_succ])
      refine wpAnyH_ready (rs := [2]) (by kernel_rfl) (by simp) ?_; refine AllReadyH.cons (o := ⟨_, _, _, _, _, _⟩) rfl (fun K hK => ?_) AllReadyH.nil; go_simp
      (go_at_call 119; refine (HS.out _).mono ?_; rintro e1 w1 ⟨rfl, rfl⟩)
      (try go_wp2_with fail); refine hK.out _ _ ?_ ?_; (focus ((try dsimp only); (try go_keep); done)); clear hHeld hK K; intro hHeld; (try simp only [Act.put, List.setIfInBounds_toArray, List.set_cons_zero, List.set_cons_succ])
      (refine wpAnyH_take (i := 3) (oi := ⟨_, _, _, _, _, _⟩) (v := ?_) rfl (by kernel_rfl) (by kernel_rfl) (by kernel_rfl) (fun _ _ _ h => h) (Or.inl ⟨by rfl, ?_⟩) (by assumption) ?_); rotate_left; (focus (intro w hSw; (try dsimp only at hSw); go_simp; (try with_reducible rfl); done)); (try simp only [Act.put, List.setIfInBounds_toArray, List.set_cons_zero, List.set_cons_succ])
      (refine wpAnyH_take (i := 4) (oi := ⟨_, _, _, _, _, _⟩) (v := ?_) rfl (by kernel_rfl) (by kernel_rfl) (by kernel_rfl) (fun _ _ _ h => h) (Or.inl ⟨by rfl, ?_⟩) (by assumption) ?_); rotate_left; (focus (intro w hSw; (try dsimp only at hSw); go_simp; (try with_reducible rfl); done)); (try simp only [Act.put, List.setIfInBounds_toArray, List.set_cons_zero, List.set_cons_succ])
      refine wpAnyH_ready (rs := [5]) (by kernel_rfl) (by simp) ?_; refine AllReadyH.cons (o := ⟨_, _, _, _, _, _⟩) rfl (fun K hK => ?_) AllReadyH.nil; go_simp
      (go_at_call 201; refine (HL.out _).mono ?_; rintro e2 w2 ⟨rfl, hb2⟩; have B1 := Lib.hid (B1.out.trans (hb2.mono (Nat.le_of_lt F1.out.lt))); have F1 := Lib.hid (F1.out.below hb2 F1.out.lt); obtain ⟨x3, x0, x1, x2, x4⟩ := F1.out; clear hb2)
      (try go_wp2_with fail); refine hK.out _ _ ?_ ?_; (focus ((try dsimp only); (try go_keep); done)); clear hHeld hK K; intro hHeld; (try simp only [Act.put, List.setIfInBounds_toArray, List.set_cons_zero, List.set_cons_succ])
      refine wpAnyH_ready (rs := [6]) (by kernel_rfl) (by simp) ?_; refine AllReadyH.cons (o := ⟨_, _, _, _, _, _⟩) rfl (fun K hK => ?_) AllReadyH.nil; go_simp
      (go_at_call 119; refine (HS2.out _).mono ?_; rintro e1 w1 ⟨rfl, rfl⟩)
      (try go_wp2_with fail); refine hK.out _ _ ?_ ?_; (focus ((try dsimp only); (try go_keep); done)); clear hHeld hK K; intro hHeld; (try simp only [Act.put, List.setIfInBounds_toArray, List.set_cons_zero, List.set_cons_succ])
      (refine wpAnyH_take (i := 7) (oi := ⟨_, _, _, _, _, _⟩) (v := ?_) rfl (by kernel_rfl) (by kernel_rfl) (by kernel_rfl) (fun _ _ _ h => h) (Or.inl ⟨by rfl, ?_⟩) (by assumption) ?_); rotate_left; (focus (intro w hSw; (try dsimp only at hSw); go_simp; (try with_reducible rfl); done)); (try simp only [Act.put, List.setIfInBounds_toArray, List.set_cons_zero, List.set_cons_succ])
      (refine wpAnyH_take (i := 8) (oi := ⟨_, _, _, _, _, _⟩) (v := ?_) rfl (by kernel_rfl) (by kernel_rfl) (by kernel_rfl) (fun _ _ _ h => h) (Or.inl ⟨by rfl, ?_⟩) (by assumption) ?_); rotate_left; (focus (intro w hSw; (try dsimp only at hSw); go_simp; (try with_reducible rfl); done)); (try simp only [Act.put, List.setIfInBounds_toArray, List.set_cons_zero, List.set_cons_succ])
      (refine wpAnyH_take (i := 9) (oi := ⟨_, _, _, _, _, _⟩) (v := ?_) rfl (by kernel_rfl) (by kernel_rfl) (by kernel_rfl) (fun _ _ _ h => h) (Or.inl ⟨by rfl, ?_⟩) (by assumption) ?_); rotate_left; (focus (intro w hSw; (try dsimp only at hSw); go_simp; (try with_reducible rfl); done)); (try simp only [Act.put, List.setIfInBounds_toArray, List.set_cons_zero, List.set_cons_succ])
      (refine wpAnyH_take (i := 10) (oi := ⟨_, _, _, _, _, _⟩) (v := ?_) rfl (by kernel_rfl) (by kernel_rfl) (by kernel_rfl) (fun _ _ _ h => h) (Or.inl ⟨by rfl, ?_⟩) (by assumption) ?_); rotate_left; (focus (intro w hSw; (try dsimp only at hSw); go_simp; (try with_reducible rfl); done)); (try simp only [Act.put, List.setIfInBounds_toArray, List.set_cons_zero, List.set_cons_succ])
      (refine wpAnyH_take (i := 11) (oi := ⟨_, _, _, _, _, _⟩) (v := ?_) rfl (by kernel_rfl) (by kernel_rfl) (by kernel_rfl) (fun _ _ _ h => h) (Or.inl ⟨by rfl, ?_⟩) (by assumption) ?_); rotate_left; (focus (intro w hSw; (try dsimp only at hSw); go_simp; (try with_reducible rfl); done)); (try simp only [Act.put, List.setIfInBounds_toArray, List.set_cons_zero, List.set_cons_succ])
      (refine wpAnyH_take (i := 12) (oi := ⟨_, _, _, _, _, _⟩) (v := ?_) rfl (by kernel_rfl) (by kernel_rfl) (by kernel_rfl) (fun _ _ _ h => h) (Or.inl ⟨by rfl, ?_⟩) (by assumption) ?_); rotate_left; (focus (intro w hSw; (try dsimp only at hSw); go_simp; (try with_reducible rfl); done)); (try simp only [Act.put, List.setIfInBounds_toArray, List.set_cons_zero, List.set_cons_succ])
      refine wpAnyH_ready (rs := [13]) (by kernel_rfl) (by simp) ?_; refine AllReadyH.cons (o := ⟨_, _, _, _, _, _⟩) rfl (fun K hK => ?_) AllReadyH.nil; go_simp
      (go_at_call 201; refine (HL.out _).mono ?_; rintro e2 w2 ⟨rfl, hb2⟩; have B1 := Lib.hid (B1.out.trans (hb2.mono (Nat.le_of_lt F1.out.lt))); have F1 := Lib.hid (F1.out.below hb2 F1.out.lt); obtain ⟨x3, x0, x1, x2, x4⟩ := F1.out; clear hb2)
      (try go_wp2_with fail); refine hK.out _ _ ?_ ?_; (focus ((try dsimp only); (try go_keep); done)); clear hHeld hK K; intro hHeld; (try simp only [Act.put, List.setIfInBounds_toArray, List.set_cons_zero, List.set_cons_succ])
      (refine wpAnyH_take (i := 14) (oi := ⟨_, _, _, _, _, _⟩) (v := ?_) rfl (by kernel_rfl) (by kernel_rfl) (by kernel_rfl) (fun _ _ _ h => h) (Or.inl ⟨by rfl, ?_⟩) (by assumption) ?_); rotate_left; (focus (intro w hSw; (try dsimp only at hSw); go_simp; (try with_reducible rfl); done)); (try simp only [Act.put, List.setIfInBounds_toArray, List.set_cons_zero, List.set_cons_succ])
      (refine wpAnyH_take (i := 15) (oi := ⟨_, _, _, _, _, _⟩) (v := ?_) rfl (by kernel_rfl) (by kernel_rfl) (by kernel_rfl) (fun _ _ _ h => h) (Or.inl ⟨by rfl, ?_⟩) (by assumption) ?_); rotate_left; (focus (intro w hSw; (try dsimp only at hSw); go_simp; (try with_reducible rfl); done)); (try simp only [Act.put, List.setIfInBounds_toArray, List.set_cons_zero, List.set_cons_succ])
      (refine wpAnyH_take (i := 16) (oi := ⟨_, _, _, _, _, _⟩) (v := ?_) rfl (by kernel_rfl) (by kernel_rfl) (by kernel_rfl) (fun _ _ _ h => h) (Or.inl ⟨by rfl, ?_⟩) (by assumption) ?_); rotate_left; (focus (intro w hSw; (try dsimp only at hSw); go_simp; (try with_reducible rfl); done)); (try simp only [Act.put, List.setIfInBounds_toArray, List.set_cons_zero, List.set_cons_succ])
      (refine wpAnyH_take (i := 17) (oi := ⟨_, _, _, _, _, _⟩) (v := ?_) rfl (by kernel_rfl) (by kernel_rfl) (by kernel_rfl) (fun _ _ _ h => h) (Or.inl ⟨by rfl, ?_⟩) (by assumption) ?_); rotate_left; (focus (intro w hSw; (try dsimp only at hSw); go_simp; (try with_reducible rfl); done)); (try simp only [Act.put, List.setIfInBounds_toArray, List.set_cons_zero, List.set_cons_succ])
      refine wpAnyH_done (by kernel_rfl) ?_ _
      all_goals go_wp2_with fail
      all_goals go_ret
      all_goals exact ⟨rfl, by rw [HX.out]; exact B1.out⟩
end Go.Proofs.YtiigknimfibdpaaGreatDoor.tb
namespace Go.Proofs.YtiigknimfibdpaaGreatDoor.tb
open Go.RowKit Go.Lib
set_option linter.unusedVariables false
/-- The rows of the first signs. -/
structure Grp (f : Int) (zs : List Int) (j : Nat) (rows : List Rw) : Prop where
  e : rps rows = lsp f (zs.take j)
  d : Dis rows
  o : ∀ r ∈ rows, r.ok
  l : rows.length ≤ j
  t : (j = 0 ∧ rows = []) ∨ ∃ R0 q, rows = R0 ++ [q] ∧ q.f + q.c = f + j ∧ q.t + q.c - 1 = zs.getD (j - 1) 0 ∧ 0 < j
theorem Grp.nil (f : Int) (zs : List Int) : Grp f zs 0 [] := ⟨rfl, List.Pairwise.nil, fun _ h => (by cases h), Nat.le_refl _, .inl ⟨rfl, rfl⟩⟩
theorem take_snoc (zs : List Int) (j : Nat) (hj : j < zs.length) : zs.take (j + 1) = zs.take j ++ [zs.getD j 0] := by
  rw [List.take_add_one, List.getElem?_eq_getElem hj]; simp [List.getD, List.getElem?_eq_getElem hj]
theorem Grp.end_le {f : Int} {zs : List Int} {j : Nat} {rows : List Rw} (h : Grp f zs j rows) : ∀ r ∈ rows, r.f + r.c ≤ f + j := by
  intro r hr
  rcases h.t with ⟨_, rfl⟩ | ⟨R0, q, rfl, h1, _, _⟩
  · cases hr
  · rcases List.mem_append.1 hr with hr | hr
    · have h2 := (List.pairwise_append.1 h.d).2.2 r hr q (List.mem_singleton.2 rfl)
      have := (h.o q (by simp)).c1
      omega
    · rw [List.mem_singleton] at hr
      subst hr
      omega
theorem Grp.new {f : Int} {zs : List Int} {j : Nat} {rows : List Rw} (h : Grp f zs j rows) (hj : j < zs.length) (f0 : 0 ≤ f) (f1 : f + zs.length ≤ 1048576) (hv : 0 ≤ zs.getD j 0 ∧ zs.getD j 0 ≤ 1114111) : Grp f zs (j + 1) (rows ++ [⟨f + j, zs.getD j 0, 1⟩]) := by
  have hok : (⟨f + j, zs.getD j 0, 1⟩ : Rw).ok := ⟨by show 0 ≤ f + (j : Int); omega, by show (1 : Int) ≤ 1; omega, by show f + (j : Int) + 1 ≤ _; omega, hv.1, by show zs.getD j 0 + 1 ≤ _; omega⟩
  refine ⟨?_, List.pairwise_append.2 ⟨h.d, List.pairwise_singleton _ _, fun a ha b hb => ?_⟩, fun r hr => ?_, by rw [List.length_append]; have := h.l; simp; omega, .inr ⟨rows, _, rfl, by show f + (j : Int) + 1 = _; push_cast; omega, by show zs.getD j 0 + 1 - 1 = _; simp, by omega⟩⟩
  · rw [rps_app, h.e, take_snoc zs j hj, lsp_snoc, List.length_take, Nat.min_eq_left (by omega)]
    have : rps [⟨f + j, zs.getD j 0, 1⟩] = [(f + (j : Int), zs.getD j 0)] := by simp [rps, rp, sqp]
    rw [this]
  · rw [List.mem_singleton] at hb
    subst hb
    exact h.end_le a ha
  · rcases List.mem_append.1 hr with hr | hr
    · exact h.o r hr
    · rw [List.mem_singleton] at hr; subst hr; exact hok
theorem Grp.more {f : Int} {zs : List Int} {j : Nat} {R0 : List Rw} {q : Rw} (h : Grp f zs j (R0 ++ [q])) (hj : j < zs.length) (f1 : f + zs.length ≤ 1048576) (hv : zs.getD j 0 ≤ 1114111) (hq : q.f + q.c = f + j) (hp : zs.getD j 0 = q.t + q.c) :
    Grp f zs (j + 1) (R0 ++ [⟨q.f, q.t, q.c + 1⟩]) := by
  have hqo := h.o q (by simp)
  obtain ⟨a0, a1, a2, a3, a4⟩ := hqo
  have hok : (⟨q.f, q.t, q.c + 1⟩ : Rw).ok := ⟨a0, by show 1 ≤ q.c + 1; omega, by show q.f + (q.c + 1) ≤ _; omega, a3, by show q.t + (q.c + 1) ≤ _; omega⟩
  have hd := List.pairwise_append.1 h.d
  have hl := h.l
  rw [List.length_append] at hl
  refine ⟨?_, List.pairwise_append.2 ⟨hd.1, List.pairwise_singleton _ _, fun a ha b hb => ?_⟩, fun r hr => ?_, by rw [List.length_append]; simp at hl ⊢; omega, .inr ⟨R0, _, rfl, by show q.f + (q.c + 1) = _; push_cast; omega, by show q.t + (q.c + 1) - 1 = zs.getD (j + 1 - 1) 0; rw [Nat.add_sub_cancel, hp]; omega, by omega⟩⟩
  · have he := h.e
    have e1 : rps [(⟨q.f, q.t, q.c + 1⟩ : Rw)] = rps [q] ++ [(f + (j : Int), zs.getD j 0)] := by
      simp only [rps, rp, List.flatMap_cons, List.flatMap_nil, List.append_nil]
      rw [show (q.c + 1).toNat = q.c.toNat + 1 by omega, sqp]
      congr 3
      · omega
      · omega
    rw [rps_app, e1, ← List.append_assoc, ← rps_app, he, take_snoc zs j hj, lsp_snoc, List.length_take, Nat.min_eq_left (by omega)]
  · rw [List.mem_singleton] at hb
    subst hb
    exact hd.2.2 a ha q (List.mem_singleton.2 rfl)
  · rcases List.mem_append.1 hr with hr | hr
    · exact h.o r (List.mem_append.2 (.inl hr))
    · rw [List.mem_singleton] at hr; subst hr; exact hok
/-- A code more for the last row. -/
theorem RO.more {w : World} {B g c : Nat} {R0 : List Rw} {q : Rw} (h : RO w B (.slice (some ⟨g, 0, none⟩) (R0 ++ [q]).length c) (R0 ++ [q])) (x : Int) :
    RO (w.setCell ⟨g, R0.length * 3 + 2, none⟩ (.int .i64 x)) B (.slice (some ⟨g, 0, none⟩) (R0 ++ [(⟨q.f, q.t, x⟩ : Rw)]).length c) (R0 ++ [(⟨q.f, q.t, x⟩ : Rw)]) ∧ w.grownBy (w.setCell ⟨g, R0.length * 3 + 2, none⟩ (.int .i64 x)) (some g) := by
  have h' : w.ownsRow B 145 3 (.slice (some ⟨g, 0, none⟩) (R0 ++ [q]).length c) (R0 ++ [q]).length (rcells (R0 ++ [q])) := h
  obtain ⟨h1, h2⟩ := h'.stored (R0.length * 3 + 2) (.int .i64 x)
  refine ⟨?_, h2⟩
  have e : (R0 ++ [(⟨q.f, q.t, x⟩ : Rw)]).length = (R0 ++ [q]).length := by simp
  have e2 : (rcells (R0 ++ [q])).set (R0.length * 3 + 2) (.int .i64 x) = rcells (R0 ++ [⟨q.f, q.t, x⟩]) := by
    rw [rcells_app, rcells_app, List.set_append_right _ _ (by rw [rcells_len]; omega), rcells_len]
    simp [rcells, rcell]
  unfold RO
  rw [e, ← e2]
  exact h1
theorem zs_pos {s : ByteArray} (h : (pt.scan s).2 = none) (h0 : s.size ≠ 0) : 0 < (pt.zsOf s).length := by
  rcases Nat.eq_zero_or_pos (pt.zsOf s).length with h1 | h1
  · have h2 := pt.txt_back s h
    rw [List.length_eq_zero_iff.1 h1] at h2
    have h3 : s.size = 0 := by rw [← h2, pt.txt_size]; rfl
    exact absurd h3 h0
  · exact h1
theorem zs_range (s : ByteArray) (j : Nat) (hj : j < (pt.zsOf s).length) : 0 ≤ (pt.zsOf s).getD j 0 ∧ (pt.zsOf s).getD j 0 ≤ 1114111 := by
  have hv := List.all_eq_true.1 (pt.zsOf_valid s) ((pt.zsOf s)[j]) (List.getElem_mem _)
  have := pt.valid_range hv
  simp [List.getD, List.getElem?_eq_getElem hj]
  exact this
end Go.Proofs.YtiigknimfibdpaaGreatDoor.tb
namespace Go.Proofs.YtiigknimfibdpaaGreatDoor.tb
open Go.RowKit Go.Lib
set_option linter.unusedVariables false
set_option maxRecDepth 100000 in
set_option maxHeartbeats 4000000 in
theorem rowsOf_no (f : Int) (s : ByteArray) (w : World) (f0 : -9223372036854775808 ≤ f) (f1 : f ≤ 9223372036854775807) (hs : s.size ≤ 4000000) (hT : pt.Tabs w) (h : (pt.scan s).2.isSome = true ∨ f < 0 ∨ 1048576 - ((pt.zsOf s).length : Int) < f) :
    Calls Tryz.prog 202 #[.int .i64 f, .string s] w fun e w' => e = .returned (.tuple #[.slice none 0 0, .bool false]) ∧ Below w.heap.size w w' := by
  have hlen := pt.sc_len s s.size 0
  obtain ⟨N, hN⟩ : ∃ N : Int, N = if (pt.scan s).2.isNone then ((pt.scan s).1.length : Int) else 0 := ⟨_, rfl⟩
  have hN0 : 0 ≤ N ∧ N ≤ 4000000 := by
    rw [hN]
    unfold pt.scan
    split <;> omega
  have HC := Lib.hid (fun w2 h2 => pt.count_any s w2 (by omega) h2)
  rw [← hN] at HC
  have hno : decide (0 ≤ f ∧ 0 < N ∧ N ≤ 1048576 - f) = false := decide_eq_false (by
    rw [hN]
    rcases h with h | h | h
    · cases hx : (pt.scan s).2 with
      | none => rw [hx] at h; cases h
      | some a => simp
    · omega
    · rw [pt.zsOf_len] at h
      split <;> omega)
  have HF := Lib.hid (fun w2 => fits_any f N w2 f0 f1 (by omega) (by omega))
  rw [hno] at HF
  have HT := Lib.hid hT
  clear hN h hno hT hlen
  go_enter Tryz.func202, Tryz.ntmps202
  go_wp2_with (first | (go_at_call 190; refine (HC.out _ HT.out).mono ?_; rintro e1 w1 ⟨rfl, hb1⟩; have HB := Lib.hid hb1; clear hb1) | (go_at_call 203; refine (HF.out _).mono ?_; rintro e2 w2 ⟨rfl, rfl⟩))
  go_ret2
  exact ⟨rfl, HB.out⟩
set_option maxRecDepth 100000 in
set_option maxHeartbeats 8000000 in
theorem rowsOf_yes (f : Int) (s : ByteArray) (n : Nat) (w : World) (f0 : 0 ≤ f) (hs : s.size ≤ 4000000) (h0 : s.size ≠ 0) (hT : pt.Tabs w) (h : (pt.scan s).2 = none) (hn : (pt.zsOf s).length = n) (f1 : f + n ≤ 1048576) :
    Calls Tryz.prog 202 #[.int .i64 f, .string s] w fun e w' => ∃ v rows, e = .returned (.tuple #[v, .bool true]) ∧ RO w' w.heap.size v rows ∧ Grp f (pt.zsOf s) n rows ∧ Below w.heap.size w w' := by
  obtain ⟨i0, hi0, hzz⟩ := Option.map_eq_some_iff.1 row_info
  simp only [Prod.mk.injEq] at hzz
  obtain ⟨hz, hsi, hby⟩ := hzz
  have hpos := zs_pos h h0
  rw [hn] at hpos
  have HC : Hid (∀ w2, pt.Tabs w2 → Calls Tryz.prog 190 #[.string s] w2 fun e w' => e = .returned (.int .i64 n) ∧ Below w2.heap.size w2 w') := Lib.hid (fun w2 h2 => (pt.count_any s w2 (by omega) h2).mono fun e w' hh => ⟨by rw [hh.1, h, ← hn, pt.zsOf_len]; rfl, hh.2⟩)
  have HF := Lib.hid (fun w2 => fits_any f n w2 (by omega) (by omega) (by omega) (by omega))
  rw [decide_eq_true (show 0 ≤ f ∧ 0 < (n : Int) ∧ (n : Int) ≤ 1048576 - f by omega)] at HF
  have HP := Lib.hid (fun w2 h2 => pt.points_row s n w2 (by omega) h2 h hn)
  have HR := Lib.hid (zs_range s)
  rw [hn] at HR
  have HT := Lib.hid hT
  have HN := Lib.hid hn
  clear h hT h0
  generalize pt.zsOf s = zs at *
  clear hn
  go_enter Tryz.func202, Tryz.ntmps202
  go_wp2_with (first | (go_at_call 190; refine (HC.out _ HT.out).mono ?_; rintro e1 w1 ⟨rfl, hb1⟩; have HB := Lib.hid hb1; clear hb1) | (go_at_call 203; refine (HF.out _).mono ?_; rintro e2 w2 ⟨rfl, rfl⟩) | (go_at_call 93; refine (HP.out _ (HT.out.below HB.out)).mono ?_; rintro e3 w3 ⟨A, c, rfl, hri, hb3⟩; have HZ := Lib.hid hri; have HB3 := Lib.hid (HB.out.trans (hb3.mono HB.out.size)); clear hri hb3))
  obtain ⟨W0, hW0⟩ : ∃ W0, W0 = w3.alloc (.cells #[.int .i64 0, .int .i64 0] 54) := ⟨_, rfl⟩
  have hA := (Below.refl w3.heap.size w3).alloc (Nat.le_refl _) (.cells #[.int .i64 0, .int .i64 0] 54)
  rw [← hW0] at hA
  have HZ0 := Lib.hid (HZ.out.below hA)
  have HB0 := Lib.hid (HB3.out.trans (hA.mono HB3.out.size))
  have hB0 := HB0.out.size
  have hone : ∀ j, j < n → IntKind.i32.wrap (zs.getD j 0 + 1) = zs.getD j 0 + 1 := fun j hj => by have := HR.out j hj; exact wrap32 (by omega) (by omega)
  have HON := Lib.hid hone
  clear hA hone
  go_loopw [8, 23] (fun v i wr => ∃ (j : Nat) (rows : List Rw), j ≤ n ∧ i = .int .i64 j ∧ RO wr W0.heap.size v rows ∧ Grp f zs j rows ∧ Below W0.heap.size W0 wr) (fun _ i _ => n - (RowKit.intOf i).toNat)
  case atStart => exact ⟨0, [], Nat.zero_le _, rfl, RO.nil _ _, Grp.nil f zs, by rw [hW0]; exact Below.refl _ _⟩
  case round =>
    obtain ⟨j, rows, hj, rfl, hro, hgr, hB⟩ := hrel
    have HRO := Lib.hid hro; have HG := Lib.hid hgr; have HB4 := Lib.hid hB
    have z4 := hB.size
    have hrl := hgr.l
    clear hro hgr hB
    by_cases hlt : j < n
    · obtain ⟨a, rfl, a1, a2, cj⟩ := (HZ0.out.below HB4.out).at j hlt
      unfold maxLen at a2
      have hv := HR.out j hlt
      have HG2 := Lib.hid (HG.out.new (by have := HN.out; omega) f0 (by have := HN.out; omega) hv)
      have hwf : IntKind.i64.wrap (f + (j : Int)) = f + (j : Int) := wrap64 (by omega) (by omega)
      have HPJ := Lib.hid (HZ0.out.below HB4.out)
      obtain ⟨p, hp⟩ : ∃ p, p = zs.getD j 0 := ⟨_, rfl⟩
      have HPV := Lib.hid hp
      rw [← hp] at cj hv HG2
      clear hp
      by_cases hj0 : j = 0
      · have hj0' : ¬ ((0 : Int) < (j : Int)) := by omega
        clear hj0
        go_wp2_with (at_builtin; refine wpList_append_own _ rfl _ _ 72 rfl W0.heap.size 145 i0 _ 3 24 Tryz.underlying72 hi0 hz hsi hby rfl (by decide) _ _ _ rfl (HRO.out.below ((Below.refl _ wr).alloc (Nat.le_refl _) _)) ⟨wr.heap.size, 0, none⟩ 1 1 [.int .i64 (f + (j : Int)), .int .i32 p, .int .i64 1] rfl rfl (new_cells3 wr _ _ _ _) (fun u hu => by simp at hu; rcases hu with rfl | rfl | rfl <;> rfl) (by unfold maxLen; omega) (by omega) (by simp; omega) ?_; intro v5 w5 hown5 hgrow _; have HO5 : Hid (RO w5 W0.heap.size v5 (rows ++ [⟨f + (j : Int), p, 1⟩])) := Lib.hid (RO.snoc hown5); have HB5 := Lib.hid (below_own (HB4.out.alloc z4 (.cells #[.int .i64 (f + (j : Int)), .int .i32 p, .int .i64 1] 145)) (by simp; omega) (HRO.out.below ((Below.refl _ wr).alloc (Nat.le_refl _) _)) hgrow); clear hown5 hgrow)
        go_roundw
        case rel => exact ⟨j + 1, _, by omega, by go_num, HO5.out, HG2.out, HB5.out⟩
        case measure => simp [RowKit.intOf]; omega
      · rcases HG.out.t with ⟨h0, _⟩ | ⟨R0, q, rfl, hq1, hq2, _⟩
        · exact absurd h0 hj0
        obtain ⟨i, hij⟩ : ∃ i, j = i + 1 := ⟨j - 1, by omega⟩
        have HIJ := Lib.hid hij
        have hwi : IntKind.i64.wrap ((j : Int) - 1) = (i : Int) := by rw [wrap64 (by omega) (by omega)]; omega
        have hin : i < n := by omega
        obtain ⟨a', ha', _, _, ci⟩ := HPJ.out.at i hin
        injection ha' with ha'
        subst ha'
        have hon := HON.out i hin
        rw [hij, Nat.add_sub_cancel] at hq2
        obtain ⟨u, hu⟩ : ∃ u, u = zs.getD i 0 := ⟨_, rfl⟩
        rw [← hu] at ci hon hq2
        have hjp : (0 : Int) < (j : Int) := by omega
        clear hu hij hj0
        by_cases hpu : p = u + 1
        · obtain ⟨K, hK⟩ : ∃ K, K = R0.length := ⟨_, rfl⟩
          have hq0 := HG.out.o q (by simp)
          have HM2 : Hid (Grp f zs (j + 1) (R0 ++ [⟨q.f, q.t, q.c + 1⟩])) := Lib.hid (HG.out.more (by have := HN.out; omega) (by have := HN.out; omega) (by have := HR.out j hlt; omega) hq1 (by have := HPV.out; omega))
          obtain ⟨g, c8, rfl⟩ : ∃ g c8, u8 = .slice (some ⟨g, 0, none⟩) (R0 ++ [q]).length c8 := by
            rcases HRO.out.form with ⟨_, h0⟩ | ⟨g, cap, h0, _⟩
            · simp at h0
            · exact ⟨g, cap, h0⟩
          have hfm := HRO.out.form
          have hfr := World.ownsRow.frozenAt (show wr.ownsRow W0.heap.size 145 3 (.slice (some ⟨g, 0, none⟩) (R0 ++ [q]).length c8) (R0 ++ [q]).length (rcells (R0 ++ [q])) from HRO.out) (K * 3 + 2)
          obtain ⟨w1, w2'⟩ := HRO.out.more (q.c + 1)
          have HX1 := Lib.hid w1; have HX2 := Lib.hid (below_own HB4.out z4 HRO.out w2')
          rcases hfm with ⟨h0, _⟩ | ⟨g', cap, h0, _, _, b3, b4, b5⟩
          · cases h0
          cases h0
          have b6 := (b5 R0.length (by simp)).2.2
          have hd : (R0 ++ [q]).getD R0.length default = q := by simp [List.getD]
          rw [hd] at b6
          rw [← hK] at b6 HX1 HX2
          have hlen : (R0 ++ [q]).length = K + 1 := by rw [hK]; simp
          have hlen2 : (R0 ++ [(⟨q.f, q.t, q.c + 1⟩ : Rw)]).length = K + 1 := by rw [hK]; simp
          rw [hlen] at b3 hrl ⊢
          rw [hlen2] at HX1
          unfold maxLen at b4
          have hwc : IntKind.i64.wrap (q.c + 1) = q.c + 1 := by obtain ⟨_, _, _, _, _⟩ := hq0; exact wrap64 (by omega) (by omega)
          have hwk : IntKind.i64.wrap (((K + 1 : Nat) : Int) - 1) = (K : Int) := by rw [wrap64 (by omega) (by omega)]; omega
          clear b5 hd hK hlen hlen2 w1 w2' hq0 HRO
          go_wp2_with fail
          exact ⟨⟨j + 1, _, by omega, by go_num, HX1.out, HM2.out, HX2.out⟩, by simp [RowKit.intOf]; omega⟩
        · go_wp2_with (at_builtin; refine wpList_append_own _ rfl _ _ 72 rfl W0.heap.size 145 i0 _ 3 24 Tryz.underlying72 hi0 hz hsi hby rfl (by decide) _ _ _ rfl (HRO.out.below ((Below.refl _ wr).alloc (Nat.le_refl _) _)) ⟨wr.heap.size, 0, none⟩ 1 1 [.int .i64 (f + (j : Int)), .int .i32 p, .int .i64 1] rfl rfl (new_cells3 wr _ _ _ _) (fun u hu => by simp at hu; rcases hu with rfl | rfl | rfl <;> rfl) (by unfold maxLen; omega) (by omega) (by simp; omega) ?_; intro v5 w5 hown5 hgrow _; have HO5 : Hid (RO w5 W0.heap.size v5 ((R0 ++ [q]) ++ [⟨f + (j : Int), p, 1⟩])) := Lib.hid (RO.snoc hown5); have HB5 := Lib.hid (below_own (HB4.out.alloc z4 (.cells #[.int .i64 (f + (j : Int)), .int .i32 p, .int .i64 1] 145)) (by simp; omega) (HRO.out.below ((Below.refl _ wr).alloc (Nat.le_refl _) _)) hgrow); clear hown5 hgrow)
          go_roundw
          case rel => exact ⟨j + 1, _, by omega, by go_num, HO5.out, HG2.out, HB5.out⟩
          case measure => simp [RowKit.intOf]; omega
    · obtain rfl : j = n := by omega
      obtain ⟨A8, c8, rfl⟩ := HRO.out.slice
      go_wp2_with fail
      go_ret2
      exact ⟨_, rows, rfl, HRO.out.le (by omega), HG.out, HB0.out.trans (HB4.out.mono HB0.out.size)⟩
end Go.Proofs.YtiigknimfibdpaaGreatDoor.tb
namespace Go.Proofs.YtiigknimfibdpaaGreatDoor.tb
open Go.RowKit Go.Lib
set_option linter.unusedVariables false
theorem str_ne {s : ByteArray} (h : s.size ≠ 0) : s.toList.isEmpty = false := by
  have m1 : ¬ s.toList = [] := fun e => by rw [ByteArray.toList_eq] at e; exact h (size_nil e)
  rw [Bool.eq_false_iff]; intro e; exact m1 (List.isEmpty_iff.1 e)
/-- What rows answers. -/
def RowsP (p : Pce) (w : World) (e : Ending) (w' : World) : Prop :=
  (piece p.f p.t p.c p.s = none ∧ e = .returned (.tuple #[.slice none 0 0, .bool false]) ∧ Below w.heap.size w w') ∨
  ∃ v rows, piece p.f p.t p.c p.s = some (rps rows) ∧ e = .returned (.tuple #[v, .bool true]) ∧ RO w' w.heap.size v rows ∧ Dis rows ∧ (∀ r ∈ rows, r.ok) ∧ rows.length ≤ 4000000 ∧ Below w.heap.size w w'
set_option maxRecDepth 100000 in
set_option maxHeartbeats 4000000 in
theorem rows_text (p : Pce) (w : World) (hp : p.ok) (hs : p.s.size ≤ 4000000) (h0 : p.s.size ≠ 0) (hT : pt.Tabs w) :
    Calls Tryz.prog 169 #[.agg #[.int .i64 p.f, .int .i32 p.t, .int .i64 p.c, .string p.s]] w (RowsP p w) := by
  have hne := str_ne h0
  have hpc : piece p.f p.t p.c p.s = if (pt.scan p.s).2.isSome = true ∨ p.f < 0 ∨ 1048576 - ((pt.zsOf p.s).length : Int) < p.f then none else some (lsp p.f (pt.zsOf p.s)) := by
    unfold piece; rw [if_neg h0]
  have HPC := Lib.hid hpc
  have HT := Lib.hid hT
  by_cases hb : (pt.scan p.s).2.isSome = true ∨ p.f < 0 ∨ 1048576 - ((pt.zsOf p.s).length : Int) < p.f
  · have HR := Lib.hid (fun w2 h2 => rowsOf_no p.f p.s w2 hp.f0 hp.f1 hs h2 hb)
    rw [if_pos hb] at HPC
    clear hpc hT hb
    obtain ⟨f, t, c, s⟩ := p
    simp only at HR hne HPC h0 hs ⊢
    go_enter Tryz.func169, Tryz.ntmps169
    go_wp2_with (go_at_call 202; refine (HR.out _ (HT.out.below (by repeat (first | (with_reducible exact Below.refl _ _) | (with_reducible refine Below.setCell ?_ (by simp) _) | (with_reducible refine Below.alloc ?_ (by simp) _))))).mono ?_; rintro e1 w1 ⟨rfl, hb1⟩; have HB := Lib.hid (((Below.refl w.heap.size w).alloc (Nat.le_refl _) (.cells #[.int .i64 f, .int .i32 t, .int .i64 c, .string s] 139)).trans (hb1.mono (by simp))); clear hb1)
    go_ret2
    exact .inl ⟨HPC.out, rfl, HB.out⟩
  · have hsc : (pt.scan p.s).2 = none := by
      cases h : (pt.scan p.s).2 with
      | none => rfl
      | some a => rw [h] at hb; simp at hb
    have HR := Lib.hid (fun w2 h2 => rowsOf_yes p.f p.s _ w2 (by omega) hs h0 h2 hsc rfl (by omega))
    have hzl : (pt.zsOf p.s).length ≤ 4000000 := by rw [pt.zsOf_len]; have := pt.sc_len p.s p.s.size 0; unfold pt.scan; omega
    have HZL := Lib.hid hzl
    rw [if_neg hb] at HPC
    clear hpc hT hb hsc hzl
    obtain ⟨f, t, c, s⟩ := p
    simp only at HR hne HPC h0 hs HZL ⊢
    go_enter Tryz.func169, Tryz.ntmps169
    go_wp2_with (go_at_call 202; refine (HR.out _ (HT.out.below (by repeat (first | (with_reducible exact Below.refl _ _) | (with_reducible refine Below.setCell ?_ (by simp) _) | (with_reducible refine Below.alloc ?_ (by simp) _))))).mono ?_; rintro e1 w1 ⟨v, rows, rfl, hro, hg, hb1⟩; have HRO := Lib.hid hro; have HG := Lib.hid hg; have HB := Lib.hid (((Below.refl w.heap.size w).alloc (Nat.le_refl _) (.cells #[.int .i64 f, .int .i32 t, .int .i64 c, .string s] 139)).trans (hb1.mono (by simp))); clear hb1 hro hg)
    go_ret2
    refine .inr ⟨v, rows, ?_, rfl, HRO.out.le (by simp), HG.out.d, HG.out.o, Nat.le_trans HG.out.l HZL.out, HB.out⟩
    rw [HPC.out, HG.out.e, List.take_length]
set_option maxRecDepth 100000 in
set_option maxHeartbeats 4000000 in
theorem rows_seq (f t c : Int) (w : World) (f0 : -9223372036854775808 ≤ f) (f1 : f ≤ 9223372036854775807) (c0 : -9223372036854775808 ≤ c) (c1 : c ≤ 9223372036854775807) (t0 : -2147483648 ≤ t) (t1 : t ≤ 2147483647) :
    Calls Tryz.prog 169 #[.agg #[.int .i64 f, .int .i32 t, .int .i64 c, .string ⟨#[]⟩]] w (RowsP ⟨f, t, c, ⟨#[]⟩⟩ w) := by
  obtain ⟨PP, hPP⟩ : ∃ PP, PP = RowsP ⟨f, t, c, ⟨#[]⟩⟩ w := ⟨_, rfl⟩
  rw [← hPP]
  have HF := Lib.hid (fun w2 => fits_any f c w2 f0 f1 c0 c1)
  have hpc : piece f t c ⟨#[]⟩ = if f < 0 ∨ c < 1 ∨ 1048576 < c ∨ 1048576 - c < f ∨ validRune t = false then none else if validRune (t + c - 1) = false ∨ (t < 55296 ∧ 57343 < t + c - 1) then none else some (sqp f t c.toNat) := rfl
  by_cases hft : 0 ≤ f ∧ 0 < c ∧ c ≤ 1048576 - f
  · rw [decide_eq_true hft] at HF
    have HS := Lib.hid (fun w2 => signs_any f t c w2 (by omega) (by omega) t0 t1)
    cases hsg : sgns t c with
    | false =>
      rw [hsg] at HS
      have hno : piece f t c ⟨#[]⟩ = none := by
        rw [hpc]
        unfold sgns at hsg
        by_cases h1 : validRune t = true
        · rw [h1] at hsg
          by_cases h2 : validRune (t + c - 1) = true
          · rw [h2] at hsg
            simp only [Bool.true_and] at hsg
            rw [vr_iff] at h1 h2
            have h3 : t < 55296 ∧ ¬ (t + c - 1 < 55296) := by
              by_cases a : t < 55296 <;> by_cases b : t + c - 1 < 55296 <;> simp [a, b] at hsg ⊢
              omega
            split
            · rfl
            · rw [if_pos (.inr (by omega))]
          · split
            · rfl
            · rw [if_pos (.inl (by simpa using h2))]
        · rw [if_pos (by simp at h1; simp [h1])]
      have HFIN : Hid (∀ w', Below w.heap.size w w' → PP (.returned (.tuple #[.slice none 0 0, .bool false])) w') := Lib.hid (fun w' hb => by rw [hPP]; exact .inl ⟨hno, rfl, hb⟩)
      clear hpc hno hsg hPP
      go_enter Tryz.func169, Tryz.ntmps169
      go_wp2_with (first | (go_at_call 203; refine (HF.out _).mono ?_; rintro e1 w1 ⟨rfl, rfl⟩) | (go_at_call 204; refine (HS.out _).mono ?_; rintro e2 w2 ⟨rfl, hb2⟩; have HB := Lib.hid (((((Below.refl w.heap.size w).alloc (Nat.le_refl _) (.cells #[.int .i64 f, .int .i32 t, .int .i64 c, .string ⟨#[]⟩] 139)).alloc (by simp) (.cells #[.int .i64 f, .int .i32 t, .int .i64 c] 145))).trans (hb2.mono (by simp; omega))); clear hb2))
      exact HFIN.out _ HB.out
    | true =>
      rw [hsg] at HS
      have hyes : piece f t c ⟨#[]⟩ = some (rps [⟨f, t, c⟩]) ∧ (⟨f, t, c⟩ : Rw).ok := by
        unfold sgns at hsg
        rw [Bool.and_eq_true, Bool.and_eq_true] at hsg
        obtain ⟨g1, g2, g3⟩ := hsg
        have g4 := (vr_iff _).1 g1
        have g5 := (vr_iff _).1 g2
        refine ⟨?_, ⟨hft.1, by show 1 ≤ c; omega, by show f + c ≤ _; omega, by show 0 ≤ t; omega, by show t + c ≤ _; omega⟩⟩
        rw [hpc, if_neg (by rw [g1]; simp; omega), if_neg]
        · simp [rps, rp]
        · rw [g2]
          simp
          intro g6
          have : t + c - 1 < 55296 := by
            apply Classical.byContradiction
            intro g7
            rw [decide_eq_true g6, decide_eq_false g7] at g3
            cases g3
          omega
      have HFIN : Hid (∀ v w', RO w' w.heap.size v [⟨f, t, c⟩] → Below w.heap.size w w' → PP (.returned (.tuple #[v, .bool true])) w') := Lib.hid (fun v w' hr hb => by
        rw [hPP]
        exact .inr ⟨v, _, hyes.1, rfl, hr, List.pairwise_singleton _ _, fun r hr => by rw [List.mem_singleton] at hr; subst hr; exact hyes.2, by simp, hb⟩)
      clear hpc hyes hsg hPP
      go_enter Tryz.func169, Tryz.ntmps169
      go_wp2_with (first | (go_at_call 203; refine (HF.out _).mono ?_; rintro e1 w1 ⟨rfl, rfl⟩) | (go_at_call 204; refine (HS.out _).mono ?_; rintro e2 w2 ⟨rfl, hb2⟩; have G3 : Hid (F3 w2 (w.heap.size + 1) (.int .i64 f) (.int .i32 t) (.int .i64 c)) := Lib.hid (by have X := (f3_new (w.alloc (.cells #[.int .i64 f, .int .i32 t, .int .i64 c, .string ⟨#[]⟩] 139)) (.int .i64 f) (.int .i32 t) (.int .i64 c) 145).below hb2 (by simp); rwa [World.size_alloc] at X); obtain ⟨x3, x0, x1, x2, x4⟩ := G3.out; have HB := Lib.hid (((((Below.refl w.heap.size w).alloc (Nat.le_refl _) (.cells #[.int .i64 f, .int .i32 t, .int .i64 c, .string ⟨#[]⟩] 139)).alloc (by simp) (.cells #[.int .i64 f, .int .i32 t, .int .i64 c] 145))).trans (hb2.mono (by simp; omega))); clear hb2))
      refine HFIN.out _ _ ?_ (HB.out.alloc HB.out.size _)
      exact World.ownsRow_lit (base := w.heap.size) (e := 145) (size := 3) w2 #[.int .i64 f, .int .i32 t, .int .i64 c] 1 HB.out.size (by unfold maxLen; omega) rfl
  · rw [decide_eq_false hft] at HF
    have hno : piece f t c ⟨#[]⟩ = none := by rw [hpc, if_pos (by omega)]
    have HFIN : Hid (∀ w', Below w.heap.size w w' → PP (.returned (.tuple #[.slice none 0 0, .bool false])) w') := Lib.hid (fun w' hb => by rw [hPP]; exact .inl ⟨hno, rfl, hb⟩)
    clear hpc hno hPP hft
    go_enter Tryz.func169, Tryz.ntmps169
    go_wp2_with (go_at_call 203; refine (HF.out _).mono ?_; rintro e1 w1 ⟨rfl, rfl⟩)
    exact HFIN.out _ (by repeat (first | (with_reducible exact Below.refl _ _) | (with_reducible refine Below.setCell ?_ (by simp) _) | (with_reducible refine Below.alloc ?_ (by simp) _)))
theorem rows_any (p : Pce) (w : World) (hp : p.ok) (hs : p.s.size ≤ 4000000) (hT : pt.Tabs w) :
    Calls Tryz.prog 169 #[.agg #[.int .i64 p.f, .int .i32 p.t, .int .i64 p.c, .string p.s]] w (RowsP p w) := by
  by_cases h0 : p.s.size = 0
  · obtain ⟨f, t, c, s⟩ := p
    have e : s = ⟨#[]⟩ := by
      have h1 : s.size = 0 := h0
      cases s with
      | mk d => congr 1; exact Array.eq_empty_of_size_eq_zero h1
    subst e
    exact rows_seq f t c w hp.f0 hp.f1 hp.c0 hp.c1 hp.t0 hp.t1
  · exact rows_text p w hp hs h0 hT
end Go.Proofs.YtiigknimfibdpaaGreatDoor.tb
namespace Go.Proofs.YtiigknimfibdpaaGreatDoor.tb
open Go.RowKit Go.Lib
set_option linter.unusedVariables false
theorem bool_info : (Tryz.prog.info? 4).map (fun i => (i.zero, i.size, i.bytes)) = some (some (.bool false), 1, 1) := by kernel_rfl
def bit (bs : List Bool) (c : Nat) : Bool := bs.getD c false
theorem bit_app (bs : List Bool) (m c : Nat) : bit (bs ++ List.replicate m false) c = bit bs c := by
  unfold bit
  by_cases h : c < bs.length
  · simp [List.getD, List.getElem?_append_left h]
  · rw [List.getD_eq_getElem?_getD, List.getD_eq_getElem?_getD, List.getElem?_append_right (by omega), List.getElem?_eq_none (show bs.length ≤ c by omega)]
    by_cases h2 : c - bs.length < m
    · rw [List.getElem?_replicate, if_pos h2]; rfl
    · rw [List.getElem?_replicate, if_neg h2]
theorem bit_set (bs : List Bool) (k c : Nat) (hk : k < bs.length) : bit (bs.set k true) c = (bit bs c || decide (c = k)) := by
  unfold bit
  rw [List.getD_eq_getElem?_getD, List.getD_eq_getElem?_getD, List.getElem?_set]
  by_cases h : k = c
  · subst h; simp [hk]
  · have h2 : ¬ c = k := fun e => h e.symm
    simp [h, h2]
/-- A code is among pairs. -/
def amid (ps : List (Int × Int)) (c : Nat) : Bool := ps.any fun q => q.1 == (c : Int)
theorem amid_app (a b : List (Int × Int)) (c : Nat) : amid (a ++ b) c = (amid a c || amid b c) := by simp [amid]
/-- All blocks are as they were but nb, and the one that a slice had. -/
structure Kept (nb : Nat) (g : Option Nat) (w w' : World) : Prop where
  os : w'.os = w.os
  tape : w'.tape = w.tape
  output : w'.output = w.output
  size : w.heap.size ≤ w'.heap.size
  block : ∀ k, k < w.heap.size → k ≠ nb → g ≠ some k → w'.heap[k]? = w.heap[k]?
theorem Kept.refl (nb : Nat) (g : Option Nat) (w : World) : Kept nb g w w := ⟨rfl, rfl, rfl, Nat.le_refl _, fun _ _ _ _ => rfl⟩
theorem Kept.below {nb : Nat} {g : Option Nat} {w W W' : World} (h : Kept nb g w W) (hb : Below W.heap.size W W') : Kept nb g w W' :=
  ⟨hb.os.trans h.os, hb.tape.trans h.tape, hb.output.trans h.output, Nat.le_trans h.size hb.size, fun k h1 h2 h3 => (hb.block k (Nat.lt_of_lt_of_le h1 h.size)).trans (h.block k h1 h2 h3)⟩
theorem Kept.grown {nb : Nat} {g v : Option Nat} {w W W' : World} (h : Kept nb g w W) (hg : W.grownBy W' v) (hv : ∀ k, v = some k → g = some k ∨ w.heap.size ≤ k) : Kept nb g w W' :=
  ⟨hg.os.trans h.os, hg.tape.trans h.tape, hg.output.trans h.output, Nat.le_trans h.size hg.size, fun k h1 h2 h3 => by
    rw [hg.block k (Nat.lt_of_lt_of_le h1 h.size) (fun e => by rcases hv k e.symm with h4 | h4; exact h3 h4; omega)]
    exact h.block k h1 h2 h3⟩
theorem Kept.put {nb : Nat} {g : Option Nat} {w W : World} (h : Kept nb g w W) (o : Nat) (u : Value) : Kept nb g w (W.setCell ⟨nb, o, none⟩ u) :=
  ⟨h.os, h.tape, h.output, by simpa [World.setCell] using h.size, fun k h1 h2 h3 => (Below.heap_setCell _ _ _ _ (by simpa using h2)).trans (h.block k h1 h2 h3)⟩
/-- What is noted. -/
structure Nb (B nb : Nat) (V : Value) (bs : List Bool) (w : World) : Prop where
  p : F1 w nb V
  o : w.ownsRow B 4 1 V bs.length (bs.map Value.bool)
  lt : nb < B
  sz : B ≤ w.heap.size
theorem Nb.below {B nb : Nat} {V : Value} {bs : List Bool} {w w' : World} (h : Nb B nb V bs w) (hb : Below w.heap.size w w') : Nb B nb V bs w' :=
  ⟨h.p.below hb h.p.lt, owns_below2 h.o hb (Nat.le_refl _), h.lt, Nat.le_trans h.sz hb.size⟩
theorem Nb.form {B nb : Nat} {V : Value} {bs : List Bool} {w : World} (h : Nb B nb V bs w) : ∃ A c, V = .slice A bs.length c := by
  obtain ⟨_, ⟨rfl, h0⟩ | ⟨g, cap, cur, rfl, _⟩⟩ := h.o
  · exact ⟨none, 0, by rw [h0]⟩
  · exact ⟨_, _, rfl⟩
theorem F1.put {w : World} {b : Nat} {X Y : Value} (h : F1 w b X) : F1 (w.setCell ⟨b, 0, none⟩ Y) b Y := by
  refine ⟨by simpa [World.setCell] using h.lt, ?_, by simpa using h.f0⟩
  have h0 := h.c0
  go_simp
/-- A code is noted in its place. -/
theorem Nb.set {B nb g c : Nat} {bs : List Bool} {w : World} (h : Nb B nb (.slice (some ⟨g, 0, none⟩) bs.length c) bs w) (k : Nat) (hk : k < bs.length) :
    Nb B nb (.slice (some ⟨g, 0, none⟩) bs.length c) (bs.set k true) (w.setCell ⟨g, k, none⟩ (.bool true)) ∧ w.grownBy (w.setCell ⟨g, k, none⟩ (.bool true)) (some g) := by
  obtain ⟨h1, h2⟩ := h.o.stored k (.bool true)
  have hb := (h.o.lt g rfl).1
  have hl := h.lt
  refine ⟨⟨h.p.grown h2 (by intro e; injection e with e; omega), ?_, h.lt, by simpa [World.setCell] using h.sz⟩, h2⟩
  rw [List.length_set, List.map_set]
  exact h1
theorem Nb.cell {B nb g c : Nat} {bs : List Bool} {w : World} (h : Nb B nb (.slice (some ⟨g, 0, none⟩) bs.length c) bs w) (k : Nat) (hk : k < bs.length) : w.cell? ⟨g, k, none⟩ = some (.bool (bit bs k)) ∧ w.frozen? ⟨g, k, none⟩ = false ∧ bs.length ≤ c ∧ c ≤ maxLen := by
  refine ⟨?_, h.o.frozenAt k, ?_⟩
  · rw [h.o.cellAt k (by omega), List.getElem?_map, List.getElem?_eq_getElem hk]
    simp [bit, List.getD, List.getElem?_eq_getElem hk]
  · obtain ⟨_, ⟨h0, _⟩ | ⟨g', cap, cur, h0, _, _, h3, h4, _⟩⟩ := h.o
    · cases h0
    · cases h0; exact ⟨h3, h4⟩
end Go.Proofs.YtiigknimfibdpaaGreatDoor.tb
namespace Go.Proofs.YtiigknimfibdpaaGreatDoor.tb
open Go.RowKit Go.Lib
set_option linter.unusedVariables false
/-- What note answers. -/
def NoteP (B nb : Nat) (V : Value) (bs : List Bool) (ps : List (Int × Int)) (w : World) (e : Ending) (w' : World) : Prop :=
  Kept nb V.ownBlock w w' ∧ ((e = .returned (.bool false) ∧ ∃ c : Nat, amid ps c = true ∧ bit bs c = true) ∨
  (e = .returned (.bool true) ∧ (∀ c : Nat, amid ps c = true → bit bs c = false) ∧ ∃ V' bs', Nb B nb V' bs' w' ∧ bs'.length ≤ 1048576 ∧ ∀ c, bit bs' c = (bit bs c || amid ps c)))
theorem RowRw.kept {w W : World} {A : Option Addr} {c nb : Nat} {l : List Rw} {v : Option Nat} (h : RowRw w A c l) (hk : Kept nb v w W) (hA : ∀ g o, A = some ⟨g, o, none⟩ → g ≠ nb ∧ v ≠ some g) : RowRw W A c l := by
  rcases h with h | ⟨g, o, h1, h2, h3, h4, h5⟩
  · exact .inl h
  · have e := hk.block g h4 (hA g o h1).1 (hA g o h1).2
    have hB : ∀ k, W.cell? ⟨g, k, none⟩ = w.cell? ⟨g, k, none⟩ := fun k => World.cell?_of_block (w := w) (a := ⟨g, k, none⟩) e
    exact .inr ⟨g, o, h1, h2, h3, Nat.lt_of_lt_of_le h4 hk.size, fun i hi => by
      obtain ⟨x, y, z⟩ := h5 i hi
      exact ⟨(hB _).trans x, (hB _).trans y, (hB _).trans z⟩⟩
theorem RB.apart {W : World} {X nb : Nat} {r : Rw} (h : RB W X r) (hne : nb ≠ X) (u : Value) (o : Nat := 0) : RB (W.setCell ⟨nb, o, none⟩ u) X r := by
  have e : (W.setCell ⟨nb, o, none⟩ u).heap[X]? = W.heap[X]? := Below.heap_setCell _ _ _ _ (by simpa using hne.symm)
  obtain ⟨⟨cs, fz, hx⟩, hf⟩ := h
  have hc : ∀ i, (W.setCell ⟨nb, o, none⟩ u).cell? ⟨X, i, none⟩ = W.cell? ⟨X, i, none⟩ := fun i => World.cell?_of_block (w := W) (a := ⟨X, i, none⟩) e
  have hfz : ∀ i, (W.setCell ⟨nb, o, none⟩ u).frozen? ⟨X, i, none⟩ = W.frozen? ⟨X, i, none⟩ := fun i => World.frozen?_of_block (w := W) (a := ⟨X, i, none⟩) e
  exact ⟨⟨cs, fz, by rw [e]; exact hx⟩, ⟨by simpa [World.setCell] using hf.lt, (hc 0).trans hf.c0, (hc 1).trans hf.c1, (hc 2).trans hf.c2, fun i => (hfz i).trans (hf.fr i)⟩⟩
/-- What stands in note. -/
structure Ns (B nb X : Nat) (V : Value) (bs : List Bool) (r : Rw) (w : World) (v : Option Nat) (W : World) : Prop where
  n : Nb B nb V bs W
  x : RB W X r
  k : Kept nb v w W
theorem Ns.below {B nb X : Nat} {V : Value} {bs : List Bool} {r : Rw} {w : World} {v : Option Nat} {W W' : World} (h : Ns B nb X V bs r w v W) (hb : Below W.heap.size W W') : Ns B nb X V bs r w v W' :=
  ⟨h.n.below hb, h.x.below hb h.x.f.lt, h.k.below hb⟩
theorem Ns.set {B nb X g c : Nat} {bs : List Bool} {r : Rw} {w : World} {v : Option Nat} {W : World} (h : Ns B nb X (.slice (some ⟨g, 0, none⟩) bs.length c) bs r w v W) (k : Nat) (hk : k < bs.length) (hX : g ≠ X) (hoc : v = some g ∨ w.heap.size ≤ g) :
    Ns B nb X (.slice (some ⟨g, 0, none⟩) (bs.set k true).length c) (bs.set k true) r w v (W.setCell ⟨g, k, none⟩ (.bool true)) := by
  obtain ⟨h1, h2⟩ := h.n.set k hk
  exact ⟨by rw [List.length_set]; exact h1, h.x.apart hX _ k, h.k.grown h2 (fun q hq => by injection hq with hq; rw [← hq]; exact hoc)⟩
theorem amid_row (F : Nat) (t : Int) (k c : Nat) : amid (sqp (F : Int) t k) c = (decide (F ≤ c) && decide (c < F + k)) := by
  unfold amid
  rw [Bool.eq_iff_iff, List.any_eq_true]
  constructor
  · rintro ⟨q, hq, h⟩
    have := (sqp_iff _ _ _ _).1 hq
    simp at h ⊢
    omega
  · intro h
    simp at h
    exact ⟨((c : Int), t + ((c : Int) - (F : Int))), (sqp_iff _ _ _ _).2 ⟨by simp; omega, by simp; omega, rfl⟩, by simp⟩
theorem amid_lt {l : List Rw} (hd : Dis l) (hok : ∀ r ∈ l, r.ok) (j : Nat) (hj : j < l.length) {c : Nat} (h : amid (rps (l.take j)) c = true) : (c : Int) < (l.getD j default).f := by
  unfold amid at h
  rw [List.any_eq_true] at h
  obtain ⟨q, hq, h⟩ := h
  obtain ⟨r, hr, h1, h2, _⟩ := (rps_iff _ _).1 hq
  simp at h
  obtain ⟨i, hi, rfl⟩ := List.getElem_of_mem hr
  rw [List.length_take] at hi
  have h3 := List.pairwise_iff_getElem.1 hd i j (by omega) hj (by omega)
  rw [List.getElem_take] at h1 h2
  rw [getD_get l j hj]
  omega
theorem amid_up (l : List Rw) (j c : Nat) (h : amid (rps (l.take j)) c = true) : amid (rps l) c = true := by
  have : rps l = rps (l.take j) ++ rps (l.drop j) := by rw [← rps_app, List.take_append_drop]
  rw [this, amid_app, h]; rfl
set_option maxRecDepth 100000 in
set_option maxHeartbeats 8000000 in
theorem note_any (B nb : Nat) (V : Value) (bs : List Bool) (A : Option Addr) (n c : Nat) (l : List Rw) (w : World) (h : RowRw w A c l) (hn : n = l.length) (hok : ∀ r ∈ l, r.ok) (hd : Dis l) (hs : n ≤ 100000000)
    (hN : Nb B nb V bs w) (hb : bs.length ≤ 1048576) (hA : ∀ g o, A = some ⟨g, o, none⟩ → g ≠ nb ∧ V.ownBlock ≠ some g) :
    Calls Tryz.prog 170 #[.pointer (some ⟨nb, 0, none⟩), .slice A n c] w (NoteP B nb V bs (rps l) w) := by
  obtain ⟨i0, hi0, hzz⟩ := Option.map_eq_some_iff.1 bool_info
  simp only [Prod.mk.injEq] at hzz
  obtain ⟨hz, hsi, hby⟩ := hzz
  have H := Lib.hid h; have HN := Lib.hid hn; have HO := Lib.hid hok; have HD := Lib.hid hd; have HNB := Lib.hid hN; have HA := Lib.hid hA
  have hP : NoteP B nb V bs (rps l) w = NoteP B nb V bs (rps l) w := rfl
  generalize hPP : NoteP B nb V bs (rps l) w = PP at hP ⊢
  have HPP := Lib.hid hPP
  have hlt := hN.p.lt
  have hnB := hN.lt
  clear h hn hok hd hN hP hPP hA
  go_enter Tryz.func170, Tryz.ntmps170
  go_wp2
  go_loopw [10] (fun k wr => ∃ (j : Nat) (V1 : Value) (b1 : List Bool), j ≤ n ∧ k = .int .i64 j ∧ Nb B nb V1 b1 wr ∧ b1.length ≤ 1048576 ∧ Kept nb V.ownBlock w wr ∧ (∀ k, V1.ownBlock = some k → V.ownBlock = some k ∨ w.heap.size ≤ k) ∧ (∀ c, bit b1 c = (bit bs c || amid (rps (l.take j)) c)) ∧ (∀ c : Nat, amid (rps (l.take j)) c = true → bit bs c = false)) (fun k _ => n - (RowKit.intOf k).toNat)
  case atStart => exact ⟨0, V, bs, Nat.zero_le _, rfl, HNB.out, hb, Kept.refl _ _ _, fun k hk => .inl hk, fun c => by simp [rps, amid], fun c hc => by simp [rps, amid] at hc⟩
  case round =>
    obtain ⟨j, V1, b1, hj, rfl, hnb1, hb1, hk1, hoc, hbit, hun⟩ := hrel
    have HK1 := Lib.hid hk1; have HOC := Lib.hid hoc; have HBIT := Lib.hid hbit; have HUN := Lib.hid hun
    have z0 := hk1.size
    clear hk1 hoc hbit hun
    by_cases hjn : j < n
    · have hjl : j < l.length := by have := HN.out; omega
      obtain ⟨g, o, rfl, a1, a2, a3, k0, k1, k2, hmem⟩ := (H.out.kept HK1.out HA.out).at j hjl
      rw [← HN.out] at a1
      unfold maxLen at a2
      have hro := HO.out _ hmem
      have HLT := Lib.hid (fun c h => amid_lt HD.out HO.out j hjl (c := c) h)
      have HTK := Lib.hid (take_rps l j hjl)
      clear hmem hjl
      generalize l.getD j default = r at *
      obtain ⟨f, t, cc⟩ := r
      obtain ⟨f0, c1, f1, t0, t1⟩ := hro
      simp only at f0 c1 f1 t0 t1 k0 k1 k2 HLT HTK
      obtain ⟨F, rfl⟩ : ∃ F : Nat, f = F := ⟨f.toNat, by omega⟩
      obtain ⟨C, rfl⟩ : ∃ C : Nat, cc = C := ⟨cc.toNat, by omega⟩
      simp only [Int.toNat_natCast] at HTK
      generalize hR0 : rps (l.take j) = R0 at *
      have HR0 := Lib.hid hR0
      clear hR0
      have HE := Lib.hid (fun w => end_any (F : Int) t (C : Int) w (by omega) (by omega))
      have S0 := Lib.hid hnb1
      obtain ⟨A1, c1', rfl⟩ := hnb1.form
      clear hnb1
      obtain ⟨X, hX⟩ : ∃ X, X = wr.heap.size := ⟨_, rfl⟩
      have S1 : Hid (Ns B nb X (.slice A1 b1.length c1') b1 ⟨F, t, C⟩ w V.ownBlock (wr.alloc (.cells #[.int .i64 (F : Int), .int .i32 t, .int .i64 (C : Int)] 145))) := Lib.hid (by
        have hb := (Below.refl wr.heap.size wr).alloc (Nat.le_refl _) (.cells #[.int .i64 (F : Int), .int .i32 t, .int .i64 (C : Int)] 145)
        exact ⟨S0.out.below hb, by rw [hX]; exact RB.new wr ⟨F, t, C⟩, HK1.out.below hb⟩)
      have hXn : nb ≠ X := by have := S0.out.p.lt; omega
      have HXW : Hid (w.heap.size ≤ X) := Lib.hid (by omega)
      by_cases hgr : b1.length < F + C
      all_goals
        go_wp2_with fail
        rw [← hX] at *
        generalize wr.alloc (.cells #[.int .i64 (F : Int), .int .i32 t, .int .i64 (C : Int)] 145) = W at *
        clear k0 k1 k2 a3
        obtain ⟨x3, x0, x1, x2, x4⟩ := S1.out.x.f
        simp only at x0 x1 x2
        obtain ⟨y3, y0, y1⟩ := S1.out.n.p
        have S2 := Lib.hid (S1.out.below ((Below.refl _ W).drew))
        go_region_held3 (fun w' => w'.cell? ⟨nb, 0, none⟩ = some (.slice A1 b1.length c1') ∧ w'.cell? ⟨X, 0, none⟩ = some (.int .i64 (F : Int)) ∧ w'.cell? ⟨X, 1, none⟩ = some (.int .i32 t) ∧ w'.cell? ⟨X, 2, none⟩ = some (.int .i64 (C : Int))) (go_keep) (first | (go_at_call 195; refine (HE.out _).mono ?_; rintro e1 w2 ⟨rfl, hb2⟩; have S3 := Lib.hid (S2.out.below hb2); obtain ⟨x3, x0, x1, x2, x4⟩ := S3.out.x.f; simp only at x0 x1 x2; obtain ⟨y3, y0, y1⟩ := S3.out.n.p; clear hb2))
      focus
        go_wp2_with fail
        obtain ⟨m, hm⟩ : ∃ m : Nat, m = F + C - b1.length := ⟨_, rfl⟩
        have e5 : IntKind.i64.wrap ((F : Int) + (C : Int) - (b1.length : Int)) = (m : Int) := by rw [wrap64 (by omega) (by omega)]; omega
        have HM := Lib.hid hm
        clear hm
        have S4 := Lib.hid (S3.out.below ((Below.refl _ w2).drew))
        refine OnBut.start (by kernel_rfl) (fun w' => w'.cell? ⟨nb, 0, none⟩ = some (.slice A1 b1.length c1') ∧ w'.cell? ⟨X, 0, none⟩ = some (.int .i64 (F : Int)) ∧ w'.cell? ⟨X, 1, none⟩ = some (.int .i32 t) ∧ w'.cell? ⟨X, 2, none⟩ = some (.int .i64 (C : Int))) 13 ?_
        have hHeld : (fun w' => w'.cell? ⟨nb, 0, none⟩ = some (.slice A1 b1.length c1') ∧ w'.cell? ⟨X, 0, none⟩ = some (.int .i64 (F : Int)) ∧ w'.cell? ⟨X, 1, none⟩ = some (.int .i32 t) ∧ w'.cell? ⟨X, 2, none⟩ = some (.int .i64 (C : Int))) w2.drew := (by go_keep)
        (refine OnBut.take (i := 0) (oi := ⟨_, _, _, _, _, _⟩) (v := ?_) rfl (by kernel_rfl) (by kernel_rfl) (by kernel_rfl) (by kernel_rfl) (fun _ _ _ h => h) (Or.inl ⟨by rfl, ?_⟩) (by assumption) ?_); rotate_left; (focus (intro w hSw; (try dsimp only at hSw); go_simp; (try with_reducible rfl); done)); (try simp only [Act.put, List.setIfInBounds_toArray, List.set_cons_zero, List.set_cons_succ])
        (refine OnBut.take (i := 1) (oi := ⟨_, _, _, _, _, _⟩) (v := ?_) rfl (by kernel_rfl) (by kernel_rfl) (by kernel_rfl) (by kernel_rfl) (fun _ _ _ h => h) (Or.inl ⟨by rfl, ?_⟩) (by assumption) ?_); rotate_left; (focus (intro w hSw; (try dsimp only at hSw); go_simp; (try with_reducible rfl); done)); (try simp only [Act.put, List.setIfInBounds_toArray, List.set_cons_zero, List.set_cons_succ])
        (refine OnBut.take (i := 2) (oi := ⟨_, _, _, _, _, _⟩) (v := ?_) rfl (by kernel_rfl) (by kernel_rfl) (by kernel_rfl) (by kernel_rfl) (fun _ _ _ h => h) (Or.inl ⟨by rfl, ?_⟩) (by assumption) ?_); rotate_left; (focus (intro w hSw; (try dsimp only at hSw); go_simp; (try with_reducible rfl); done)); (try simp only [Act.put, List.setIfInBounds_toArray, List.set_cons_zero, List.set_cons_succ])
        (refine OnBut.take (i := 3) (oi := ⟨_, _, _, _, _, _⟩) (v := ?_) rfl (by kernel_rfl) (by kernel_rfl) (by kernel_rfl) (by kernel_rfl) (fun _ _ _ h => h) (Or.inl ⟨by rfl, ?_⟩) (by assumption) ?_); rotate_left; (focus (intro w hSw; (try dsimp only at hSw); go_simp; (try with_reducible rfl); done)); (try simp only [Act.put, List.setIfInBounds_toArray, List.set_cons_zero, List.set_cons_succ])
        (refine OnBut.take (i := 4) (oi := ⟨_, _, _, _, _, _⟩) (v := ?_) rfl (by kernel_rfl) (by kernel_rfl) (by kernel_rfl) (by kernel_rfl) (fun _ _ _ h => h) (Or.inl ⟨by rfl, ?_⟩) (by assumption) ?_); rotate_left; (focus (intro w hSw; (try dsimp only at hSw); go_simp; (try with_reducible rfl); done)); (try simp only [Act.put, List.setIfInBounds_toArray, List.set_cons_zero, List.set_cons_succ])
        (refine OnBut.take (i := 6) (oi := ⟨_, _, _, _, _, _⟩) (v := ?_) rfl (by kernel_rfl) (by kernel_rfl) (by kernel_rfl) (by kernel_rfl) (fun _ _ _ h => h) (Or.inl ⟨by rfl, ?_⟩) (by assumption) ?_); rotate_left; (focus (intro w hSw; (try dsimp only at hSw); go_simp; (try with_reducible rfl); done)); (try simp only [Act.put, List.setIfInBounds_toArray, List.set_cons_zero, List.set_cons_succ])
        (refine OnBut.take (i := 7) (oi := ⟨_, _, _, _, _, _⟩) (v := ?_) rfl (by kernel_rfl) (by kernel_rfl) (by kernel_rfl) (by kernel_rfl) (fun _ _ _ h => h) (Or.inl ⟨by rfl, ?_⟩) (by assumption) ?_); rotate_left; (focus (intro w hSw; (try dsimp only at hSw); go_simp; (try with_reducible rfl); done)); (try simp only [Act.put, List.setIfInBounds_toArray, List.set_cons_zero, List.set_cons_succ])
        (refine OnBut.take (i := 8) (oi := ⟨_, _, _, _, _, _⟩) (v := ?_) rfl (by kernel_rfl) (by kernel_rfl) (by kernel_rfl) (by kernel_rfl) (fun _ _ _ h => h) (Or.inl ⟨by rfl, ?_⟩) (by assumption) ?_); rotate_left; (focus (intro w hSw; (try dsimp only at hSw); go_simp; (try with_reducible rfl); done)); (try simp only [Act.put, List.setIfInBounds_toArray, List.set_cons_zero, List.set_cons_succ])
        (refine OnBut.take (i := 9) (oi := ⟨_, _, _, _, _, _⟩) (v := ?_) rfl (by kernel_rfl) (by kernel_rfl) (by kernel_rfl) (by kernel_rfl) (fun _ _ _ h => h) (Or.inl ⟨by rfl, ?_⟩) (by assumption) ?_); rotate_left; (focus (intro w hSw; (try dsimp only at hSw); go_simp; (try with_reducible rfl); done)); (try simp only [Act.put, List.setIfInBounds_toArray, List.set_cons_zero, List.set_cons_succ])
        refine OnBut.one (i := 5) (o := ⟨_, _, _, _, _, _⟩) (by kernel_rfl) rfl (fun K hK => ?_); go_simp
        (go_at_call 195; refine (HE.out _).mono ?_; rintro e1 w4 ⟨rfl, hb4⟩; have S5 := Lib.hid (S4.out.below hb4); obtain ⟨x3, x0, x1, x2, x4⟩ := S5.out.x.f; simp only at x0 x1 x2; obtain ⟨y3, y0, y1⟩ := S5.out.n.p; clear hb4)
        (try go_wp2_with fail); refine hK.out _ _ (fun _ => ?_) ?_; (focus ((try dsimp only); (try go_keep); done)); clear hHeld hK K; intro hh; have hHeld := hh (by decide); clear hh; (try simp only [Act.put, List.setIfInBounds_toArray, List.set_cons_zero, List.set_cons_succ])
        (refine OnBut.take (i := 10) (oi := ⟨_, _, _, _, _, _⟩) (v := ?_) rfl (by kernel_rfl) (by kernel_rfl) (by kernel_rfl) (by kernel_rfl) (fun _ _ _ h => h) (Or.inl ⟨by rfl, ?_⟩) (by assumption) ?_); rotate_left; (focus (intro w hSw; (try dsimp only at hSw); go_simp; (try with_reducible rfl); done)); (try simp only [Act.put, List.setIfInBounds_toArray, List.set_cons_zero, List.set_cons_succ])
        obtain ⟨v5, w5, hrun, ho5, hg5, hoc5⟩ := run_zeros_own (P := Tryz.prog) w4 B 185 3 185 4 i0 (.bool false) .i64 Tryz.underlying185 Tryz.underlying3 hi0 hz hsi hby rfl rfl _ b1.length m _ S5.out.n.o (by have := HM.out; omega) (by have := HM.out; omega) S5.out.n.sz
        obtain ⟨g5, c5, rfl⟩ : ∃ g5 c5, v5 = .slice (some ⟨g5, 0, none⟩) (b1.length + m) c5 := by
          rcases ho5.2 with ⟨_, h0⟩ | ⟨g5, cap, cur, h0, _⟩
          · have := HM.out; omega
          · exact ⟨_, _, h0⟩
        have S6 : Hid (Nb B nb (.slice (some ⟨g5, 0, none⟩) (b1.length + m) c5) (b1 ++ List.replicate m false) (w5.setCell ⟨nb, 0, none⟩ (.slice (some ⟨g5, 0, none⟩) (b1.length + m) c5))) := Lib.hid (by
          have hp := S5.out.n.p.grown hg5 (fun e => by have := (S5.out.n.o.lt _ e).1; omega)
          refine ⟨hp.put, ?_, hnB, by have := S5.out.n.sz; have := hg5.size; simp [World.setCell]; omega⟩
          refine ownsRow_setCell_below ?_ (by show nb < B; exact hnB) _
          simpa using ho5)
        have X6 : Hid (RB (w5.setCell ⟨nb, 0, none⟩ (.slice (some ⟨g5, 0, none⟩) (b1.length + m) c5)) X ⟨F, t, C⟩) := Lib.hid ((S5.out.x.grown hg5 (kind_ne S5.out.n.o S5.out.x.b.choose_spec.choose_spec (by decide))).apart hXn _)
        have K6 : Hid (Kept nb V.ownBlock w (w5.setCell ⟨nb, 0, none⟩ (.slice (some ⟨g5, 0, none⟩) (b1.length + m) c5))) := Lib.hid ((S5.out.k.grown hg5 HOC.out).put 0 _)
        refine OnBut.one (i := 11) (o := ⟨_, _, _, _, _, _⟩) (by kernel_rfl) rfl (fun K hK => ?_)
        rw [if_pos (by rfl)]
        refine wp_append_run w4 _ _ 185 3 rfl _ _ rfl rfl _ w5 hrun ?_
        obtain ⟨y3, y0, y1⟩ := S5.out.n.p.grown hg5 (fun e => by have := (S5.out.n.o.lt _ e).1; omega)
        obtain ⟨x3, x0, x1, x2, x4⟩ := (S5.out.x.grown hg5 (kind_ne S5.out.n.o S5.out.x.b.choose_spec.choose_spec (by decide))).f
        simp only at x0 x1 x2
        have HOC2 : Hid (∀ k, Value.ownBlock (.slice (some ⟨g5, 0, none⟩) (b1.length + m) c5) = some k → V.ownBlock = some k ∨ w.heap.size ≤ k) := Lib.hid (fun k hk => by
          rcases hoc5 k hk with h1 | h1
          · exact HOC.out k h1
          · exact .inr (Nat.le_trans S5.out.k.size h1))
        clear hrun ho5 hg5 hoc5
        simp only [Act.put, List.setIfInBounds_toArray, List.set_cons_zero, List.set_cons_succ]
        (try go_wp2_with fail); refine hK.out _ _ (fun _ => ?_) ?_; (focus ((try dsimp only); (try go_keep); done)); clear hHeld hK K; intro hh; have hHeld := hh (by decide); clear hh; (try simp only [Act.put, List.setIfInBounds_toArray, List.set_cons_zero, List.set_cons_succ])
        (refine OnBut.take (i := 12) (oi := ⟨_, _, _, _, _, _⟩) (v := ?_) rfl (by kernel_rfl) (by kernel_rfl) (by kernel_rfl) (by kernel_rfl) (fun _ _ _ h => h) (Or.inl ⟨by rfl, ?_⟩) (by assumption) ?_); rotate_left; (focus (intro w hSw; (try dsimp only at hSw); go_simp; (try with_reducible rfl); done)); (try simp only [Act.put, List.setIfInBounds_toArray, List.set_cons_zero, List.set_cons_succ])
        refine OnBut.one (i := 13) (o := ⟨_, _, _, _, _, _⟩) (by kernel_rfl) rfl (fun K hK => ?_); go_simp
        (try go_wp2_with fail); refine hK.out _ _ (fun h => absurd rfl h) ?_; clear hHeld hK K; intro _; refine OnBut.done (by kernel_rfl) ?_; (try simp only [Act.put, List.setIfInBounds_toArray, List.set_cons_zero, List.set_cons_succ])
        go_wp2_with fail
        obtain ⟨b2, hb2⟩ : ∃ b2, b2 = b1 ++ List.replicate m false := ⟨_, rfl⟩
        have hlb : b2.length = b1.length + m := by rw [hb2]; simp
        have S8 : Hid (Ns B nb X (.slice (some ⟨g5, 0, none⟩) b2.length c5) b2 ⟨F, t, C⟩ w V.ownBlock (w5.setCell ⟨nb, 0, none⟩ (.slice (some ⟨g5, 0, none⟩) (b1.length + m) c5))) := Lib.hid ⟨by rw [hlb, hb2]; exact S6.out, X6.out, K6.out⟩
        have HL2 : Hid (F + C ≤ b2.length ∧ b2.length ≤ 1048576) := Lib.hid (by rw [hlb]; have := HM.out; omega)
        have HB2 : Hid (∀ c, bit b2 c = (bit bs c || amid R0 c)) := Lib.hid (fun c => by rw [hb2, bit_app]; exact HBIT.out c)
        have HOC3 : Hid (∀ k, Value.ownBlock (.slice (some ⟨g5, 0, none⟩) b2.length c5) = some k → V.ownBlock = some k ∨ w.heap.size ≤ k) := HOC2
        clear hb2 hlb S6 X6 K6 HOC2 y3 y0 y1 x3 x0 x1 x2 x4 e5
      rotate_left
      focus
        obtain ⟨g5, c5, he⟩ : ∃ g5 c5, Value.slice A1 b1.length c1' = .slice (some ⟨g5, 0, none⟩) b1.length c5 := by
          rcases S3.out.n.o.2 with ⟨_, h0⟩ | ⟨g5, cap, cur, h0, _⟩
          · omega
          · exact ⟨_, _, h0⟩
        have HEE := Lib.hid he
        clear he
        go_wp2_with fail
        have he := HEE.out
        obtain ⟨b2, hb2⟩ : ∃ b2, b2 = b1 := ⟨_, rfl⟩
        have S8 := S3
        have HOC3 := HOC
        rw [he] at S8 HOC3
        rw [← hb2] at S8 HOC3
        have HL2 : Hid (F + C ≤ b2.length ∧ b2.length ≤ 1048576) := Lib.hid (by rw [hb2]; omega)
        have HB2 : Hid (∀ c, bit b2 c = (bit bs c || amid R0 c)) := Lib.hid (fun c => by rw [hb2]; exact HBIT.out c)
        clear he hb2 y3 y0 y1 x3 x0 x1 x2 x4
      all_goals
        go_loopw [7] (fun q wx => ∃ (k : Nat) (b3 : List Bool), k ≤ C ∧ q = .int .i64 ((F + k : Nat) : Int) ∧ Ns B nb X (.slice (some ⟨g5, 0, none⟩) b3.length c5) b3 ⟨F, t, C⟩ w V.ownBlock wx ∧ b3.length = b2.length ∧ (∀ c, bit b3 c = (bit bs c || amid (R0 ++ sqp F t k) c)) ∧ (∀ c : Nat, amid (R0 ++ sqp F t k) c = true → bit bs c = false)) (fun q _ => F + C - (RowKit.intOf q).toNat)
        case atStart => exact ⟨0, b2, Nat.zero_le _, by simp, S8.out, rfl, by simpa [sqp] using HB2.out, by simpa [sqp] using HUN.out⟩
        case round =>
          obtain ⟨k, b3, hk, rfl, hns, hl3, hbit3, hun3⟩ := hrel
          have S9 := Lib.hid hns; have HBIT3 := Lib.hid hbit3; have HUN3 := Lib.hid hun3
          obtain ⟨x3, x0, x1, x2, x4⟩ := hns.x.f
          simp only at x0 x1 x2
          obtain ⟨y3, y0, y1⟩ := hns.n.p
          have z9 := hns.k.size
          clear hns hbit3 hun3
          by_cases hkc : k < C
          · obtain ⟨I, hI⟩ : ∃ I, I = F + k := ⟨_, rfl⟩
            rw [← hI]
            have hI3 : I < b3.length := by have := HL2.out.1; omega
            obtain ⟨c0, c3, c4, c5'⟩ := S9.out.n.cell I hI3
            have HG := Lib.hid (S9.out.n.o.lt g5 rfl)
            have HXG : Hid (g5 ≠ X) := Lib.hid (fun e => kind_ne S9.out.n.o S9.out.x.b.choose_spec.choose_spec (by decide) (by rw [e]; rfl))
            have HL3 := Lib.hid hl3
            have HI : Hid (amid (sqp F t (k + 1)) I = true ∧ amid (R0 ++ sqp F t k) I = false) := Lib.hid (by
              refine ⟨by rw [amid_row]; simp; omega, ?_⟩
              rw [amid_app, amid_row]
              have h1 : amid R0 I = false := by
                cases h : amid R0 I with
                | false => rfl
                | true => have := HLT.out _ h; omega
              rw [h1]
              simp
              omega)
            unfold maxLen at c5'
            have HL4 := HL2.out.2
            have HIK := Lib.hid hI
            have hI2 : (I : Int) < (F : Int) + (C : Int) := by omega
            have hI4 : I ≤ 1048576 := by omega
            clear hI hl3
            cases hbI : bit b3 I with
            | true =>
              rw [hbI] at c0
              have HFIN : Hid (∀ v w', v = .returned (.bool false) → Kept nb V.ownBlock w w' → PP v w') := Lib.hid (fun v w' hv hk => by
                rw [← HPP.out]
                refine ⟨hk, .inl ⟨hv, I, ?_, ?_⟩⟩
                · refine amid_up l (j + 1) I ?_
                  rw [HTK.out, amid_app, amid_row]
                  have := HIK.out
                  have h3 : (decide (F ≤ I) && decide (I < F + C)) = true := by simp; omega
                  rw [h3]; simp
                · have h4 := HBIT3.out I
                  rw [hbI, HI.out.2, Bool.or_false] at h4
                  exact h4.symm)
              clear hbI
              go_wp2_with (go_at_call 195; refine (HE.out _).mono ?_; rintro e1 wy ⟨rfl, hby⟩; have S10 := Lib.hid (S9.out.below hby); obtain ⟨x3, x0, x1, x2, x4⟩ := S10.out.x.f; simp only at x0 x1 x2; obtain ⟨y3, y0, y1⟩ := S10.out.n.p; have c0 := (hby.cell (p := ⟨g5, I, none⟩) HG.out.2).trans c0; clear hby)
              exact HFIN.out _ _ rfl S10.out.k
            | false =>
              rw [hbI] at c0
              have HB4 : Hid (∀ c, bit (b3.set I true) c = (bit bs c || amid (R0 ++ sqp F t (k + 1)) c)) := Lib.hid (fun c => by
                have e : sqp (F : Int) t (k + 1) = sqp F t k ++ [((F : Int) + k, t + k)] := rfl
                rw [bit_set b3 I c hI3, HBIT3.out c, e, ← List.append_assoc, amid_app (R0 ++ sqp F t k), Bool.or_assoc]
                congr 2
                unfold amid
                have := HIK.out
                rw [Bool.eq_iff_iff]
                simp
                omega)
              have HU4 : Hid (∀ c : Nat, amid (R0 ++ sqp F t (k + 1)) c = true → bit bs c = false) := Lib.hid (fun c hc => by
                have e : sqp (F : Int) t (k + 1) = sqp F t k ++ [((F : Int) + k, t + k)] := rfl
                rw [e, ← List.append_assoc, amid_app, Bool.or_eq_true] at hc
                rcases hc with hc | hc
                · exact HUN3.out c hc
                · have : c = I := by
                    unfold amid at hc
                    have := HIK.out
                    simp at hc
                    omega
                  subst this
                  have h4 := HBIT3.out c
                  rw [hbI, HI.out.2, Bool.or_false] at h4
                  exact h4.symm)
              have hw7 : IntKind.i64.wrap ((I : Int) + 1) = (I : Int) + 1 := wrap64 (by omega) (by omega)
              clear hbI
              go_wp2_with (go_at_call 195; refine (HE.out _).mono ?_; rintro e1 wy ⟨rfl, hby⟩; have S10 := Lib.hid (S9.out.below hby); obtain ⟨x3, x0, x1, x2, x4⟩ := S10.out.x.f; simp only at x0 x1 x2; obtain ⟨y3, y0, y1⟩ := S10.out.n.p; have c0 := (hby.cell (p := ⟨g5, I, none⟩) HG.out.2).trans c0; have c3 := (hby.frozen (p := ⟨g5, I, none⟩) HG.out.2).trans c3; clear hby)
              go_roundw
              case rel => exact ⟨k + 1, b3.set I true, by omega, by rw [HIK.out]; congr 1, S10.out.set I hI3 HXG.out (HOC3.out g5 rfl), by rw [List.length_set]; exact HL3.out, HB4.out, HU4.out⟩
              case measure => simp [RowKit.intOf]; omega
          · have hkC : k = C := by omega
            subst hkC
            have HB4 : Hid (∀ c, bit b3 c = (bit bs c || amid (rps (l.take (j + 1))) c)) := Lib.hid (by rw [HTK.out]; exact HBIT3.out)
            have HU4 : Hid (∀ c : Nat, amid (rps (l.take (j + 1))) c = true → bit bs c = false) := Lib.hid (by rw [HTK.out]; exact HUN3.out)
            have HL4 : Hid (b3.length ≤ 1048576) := Lib.hid (by have := HL2.out.2; omega)
            have HOC5 : Hid (∀ q, Value.ownBlock (.slice (some ⟨g5, 0, none⟩) b3.length c5) = some q → V.ownBlock = some q ∨ w.heap.size ≤ q) := HOC3
            have hge : ¬ (((F + k : Nat) : Int) < (F : Int) + (k : Int)) := by omega
            clear hl3 hkc
            go_wp2_with (go_at_call 195; refine (HE.out _).mono ?_; rintro e1 wy ⟨rfl, hby⟩; have S10 := Lib.hid (S9.out.below hby); clear hby)
            go_roundw
            case rel => exact ⟨j + 1, _, b3, by omega, by go_num, S10.out.n, HL4.out, S10.out.k, HOC5.out, HB4.out, HU4.out⟩
            case measure => simp [RowKit.intOf]; omega
    · obtain rfl : j = n := by omega
      have e : l.take j = l := by rw [HN.out]; exact List.take_length
      rw [e] at HBIT HUN
      have HFIN : Hid (∀ v, v = .returned (.bool true) → PP v wr) := Lib.hid (fun v hv => by rw [← HPP.out]; exact ⟨HK1.out, .inr ⟨hv, HUN.out, V1, b1, hnb1, hb1, HBIT.out⟩⟩)
      clear e hnb1
      go_wp2_with fail
      exact HFIN.out _ rfl
end Go.Proofs.YtiigknimfibdpaaGreatDoor.tb
