/- The law SingleNone of layer 5. -/
import Derived.Test.YtiokdeomdeenbaaDoorSg9
namespace Go.Proofs.YtiokdeomdeenbaaDoor.sg
open Go.RowKit Go.Lib
open Go.Proofs.YtiokdeomdeenbaaDoor.tb
set_option linter.unusedVariables false
set_option maxRecDepth 100000 in
set_option maxHeartbeats 4000000 in
theorem none_empty (w : World) (hT : pt.Tabs w) :
    Calls Tryd.prog 11 #[.string ⟨#[]⟩] w fun e w' => e = .returned (.bool true) ∧ Below w.heap.size w w' := by
  have HAW := Lib.hid (fun w2 h2 => awake5_any w2 h2)
  have HBD : Hid (∀ W, Calls Tryd.prog 17 #[.agg #[.int .i64 0, .int .i64 0]] W fun e w' => e = .returned (.bool false) ∧ Below W.heap.size W w') := Lib.hid (fun W => pt.bad_any W 0 0)
  have HT := Lib.hid hT
  have HDD := fun W h => decode_none 0 (.slice none 0 0) ⟨#[]⟩ W (by decide) h
  have HD : Hid (∀ W, TE TBr W (.slice none 0 0) [] → Calls Tryd.prog 30 #[.agg #[.slice none 0 0, .int .i64 0], .string ⟨#[]⟩] W fun e w' => e = .returned (.tuple #[.string ⟨#[]⟩, .agg #[.int .i64 0, .int .i64 0]]) ∧ Below W.heap.size W w') := Lib.hid (fun W h => HDD W h)
  have HE : Hid (∀ W, pt.Tabs W → Calls Tryd.prog 31 #[.agg #[.slice none 0 0, .int .i64 0], .string ⟨#[97]⟩] W fun e w' => e = .returned (.tuple #[.string ⟨#[]⟩, .agg #[.int .i64 6, .int .i64 0]]) ∧ Below W.heap.size W w') := Lib.hid (fun W hW => encode_none 0 _ W (te_nil W) hW)
  have LL : Hid (Lw w w.heap.size (.slice none 0 0) 0 [] (w.alloc (.cells #[.slice none 0 0, .int .i64 0] 56))) := Lib.hid (Lw.new (Below.refl _ _) (te_nil w))
  obtain ⟨⟨_, y0, y1, y2, _⟩, _, _⟩ := LL.out
  clear hT HDD
  go_enter Tryd.func11, Tryd.ntmps11
  go_wp2_with (first | (go_at_call 30; (with_reducible refine (HD.out _ (te_nil _)).mono ?_); rintro e2 w2 ⟨rfl, hb2⟩; have hA : Below w2.heap.size w2 (w2.alloc (.cells #[.int .i64 0, .int .i64 0] 30)) := (Below.refl _ _).alloc (Nat.le_refl _) _; have LL := Lib.hid ((LL.out.below hb2).below hA); have FF := Lib.hid (pt.f2_new w2 0 0 30); obtain ⟨⟨_, y0, y1, y2, _⟩, _, _⟩ := LL.out; obtain ⟨_, FF0, FF1, FF2, FF3⟩ := FF.out; obtain ⟨_, m0, m1, m2, m3⟩ := pt.f2_new w2 0 0 30; clear hb2 hA) | (go_at_call 31; (with_reducible refine (HE.out _ (HT.out.below LL.out.b)).mono ?_); rintro e3 w3 ⟨rfl, hb3⟩; have hA : Below w3.heap.size w3 (w3.alloc (.cells #[.int .i64 6, .int .i64 0] 30)) := (Below.refl _ _).alloc (Nat.le_refl _) _; have LL := Lib.hid ((LL.out.below hb3).below hA); have FF := Lib.hid ((FF.out.below hb3 FF.out.lt).below hA (Nat.lt_of_lt_of_le FF.out.lt hb3.size)); have GG := Lib.hid (pt.f2_new w3 6 0 30); obtain ⟨_, FF0, FF1, _, _⟩ := FF.out; obtain ⟨_, GG0, GG1, _, _⟩ := GG.out; obtain ⟨_, n0, n1, n2, n3⟩ := pt.f2_new w3 0 0 30; clear hb3 hA))
  have LL := Lib.hid (LL.out.below (Below.refl _ _).drew)
  have FF := Lib.hid (FF.out.below (Below.refl _ _).drew FF.out.lt)
  have GG := Lib.hid (GG.out.below (Below.refl _ _).drew GG.out.lt)
  refine wp_region_held_drew (S := (fun w' => w'.cell? ⟨w2.heap.size, 0, none⟩ = some (.int .i64 0) ∧ w'.cell? ⟨w2.heap.size, 1, none⟩ = some (.int .i64 0) ∧ w'.cell? ⟨w3.heap.size, 0, none⟩ = some (.int .i64 6) ∧ w'.cell? ⟨w3.heap.size, 1, none⟩ = some (.int .i64 0))) (by kernel_rfl) (by go_keep) (fun hHeld => ?_)
  refine wpAnyH_ready (rs := [0]) (by kernel_rfl) (by simp) ?_; refine AllReadyH.cons (o := ⟨_, _, _, _, _, _⟩) rfl (fun K hK => ?_) AllReadyH.nil; go_simp
  (go_at_call 28; (with_reducible refine (HAW.out _ (HT.out.below LL.out.b)).mono ?_); rintro e9 w9 ⟨rfl, hb⟩; have LL := Lib.hid (LL.out.below hb); have FF := Lib.hid (FF.out.below hb FF.out.lt); have GG := Lib.hid (GG.out.below hb GG.out.lt); obtain ⟨_, FF0, FF1, _, _⟩ := FF.out; obtain ⟨_, GG0, GG1, _, _⟩ := GG.out; clear hb)
  (try go_wp2_with fail); refine hK.out _ _ ?_ ?_; (focus ((try dsimp only); (try go_keep); done)); clear hHeld hK K; intro hHeld; (try simp only [Act.put, List.setIfInBounds_toArray, List.set_cons_zero, List.set_cons_succ])
  (refine wpAnyH_take (i := 1) (oi := ⟨_, _, _, _, _, _⟩) (v := ?_) rfl (by kernel_rfl) (by kernel_rfl) (by kernel_rfl) (fun _ _ _ h => h) (Or.inl ⟨by rfl, ?_⟩) (by assumption) ?_); rotate_left; (focus (intro w hSw; (try dsimp only at hSw); go_simp; (try with_reducible rfl); done)); (try simp only [Act.put, List.setIfInBounds_toArray, List.set_cons_zero, List.set_cons_succ]); (refine wpAnyH_take (i := 2) (oi := ⟨_, _, _, _, _, _⟩) (v := ?_) rfl (by kernel_rfl) (by kernel_rfl) (by kernel_rfl) (fun _ _ _ h => h) (Or.inl ⟨by rfl, ?_⟩) (by assumption) ?_); rotate_left; (focus (intro w hSw; (try dsimp only at hSw); go_simp; (try with_reducible rfl); done)); (try simp only [Act.put, List.setIfInBounds_toArray, List.set_cons_zero, List.set_cons_succ]); (refine wpAnyH_take (i := 3) (oi := ⟨_, _, _, _, _, _⟩) (v := ?_) rfl (by kernel_rfl) (by kernel_rfl) (by kernel_rfl) (fun _ _ _ h => h) (Or.inl ⟨by rfl, ?_⟩) (by assumption) ?_); rotate_left; (focus (intro w hSw; (try dsimp only at hSw); go_simp; (try with_reducible rfl); done)); (try simp only [Act.put, List.setIfInBounds_toArray, List.set_cons_zero, List.set_cons_succ]); (refine wpAnyH_take (i := 4) (oi := ⟨_, _, _, _, _, _⟩) (v := ?_) rfl (by kernel_rfl) (by kernel_rfl) (by kernel_rfl) (fun _ _ _ h => h) (Or.inl ⟨by rfl, ?_⟩) (by assumption) ?_); rotate_left; (focus (intro w hSw; (try dsimp only at hSw); go_simp; (try with_reducible rfl); done)); (try simp only [Act.put, List.setIfInBounds_toArray, List.set_cons_zero, List.set_cons_succ]); (refine wpAnyH_take (i := 5) (oi := ⟨_, _, _, _, _, _⟩) (v := ?_) rfl (by kernel_rfl) (by kernel_rfl) (by kernel_rfl) (fun _ _ _ h => h) (Or.inl ⟨by rfl, ?_⟩) (by assumption) ?_); rotate_left; (focus (intro w hSw; (try dsimp only at hSw); go_simp; (try with_reducible rfl); done)); (try simp only [Act.put, List.setIfInBounds_toArray, List.set_cons_zero, List.set_cons_succ]); (refine wpAnyH_take (i := 6) (oi := ⟨_, _, _, _, _, _⟩) (v := ?_) rfl (by kernel_rfl) (by kernel_rfl) (by kernel_rfl) (fun _ _ _ h => h) (Or.inl ⟨by rfl, ?_⟩) (by assumption) ?_); rotate_left; (focus (intro w hSw; (try dsimp only at hSw); go_simp; (try with_reducible rfl); done)); (try simp only [Act.put, List.setIfInBounds_toArray, List.set_cons_zero, List.set_cons_succ]); (refine wpAnyH_take (i := 8) (oi := ⟨_, _, _, _, _, _⟩) (v := ?_) rfl (by kernel_rfl) (by kernel_rfl) (by kernel_rfl) (fun _ _ _ h => h) (Or.inl ⟨by rfl, ?_⟩) (by assumption) ?_); rotate_left; (focus (intro w hSw; (try dsimp only at hSw); go_simp; (try with_reducible rfl); done)); (try simp only [Act.put, List.setIfInBounds_toArray, List.set_cons_zero, List.set_cons_succ]); (refine wpAnyH_take (i := 9) (oi := ⟨_, _, _, _, _, _⟩) (v := ?_) rfl (by kernel_rfl) (by kernel_rfl) (by kernel_rfl) (fun _ _ _ h => h) (Or.inl ⟨by rfl, ?_⟩) (by assumption) ?_); rotate_left; (focus (intro w hSw; (try dsimp only at hSw); go_simp; (try with_reducible rfl); done)); (try simp only [Act.put, List.setIfInBounds_toArray, List.set_cons_zero, List.set_cons_succ])
  refine wpAnyH_ready (rs := [7]) (by kernel_rfl) (by simp) ?_; refine AllReadyH.cons (o := ⟨_, _, _, _, _, _⟩) rfl (fun K hK => ?_) AllReadyH.nil; go_simp
  (go_at_call 17; (with_reducible refine (HBD.out _).mono ?_); rintro e10 w10 ⟨rfl, hb⟩; have LL := Lib.hid (LL.out.below hb); have FF := Lib.hid (FF.out.below hb FF.out.lt); have GG := Lib.hid (GG.out.below hb GG.out.lt); obtain ⟨_, FF0, FF1, _, _⟩ := FF.out; obtain ⟨_, GG0, GG1, _, _⟩ := GG.out; clear hb)
  (try go_wp2_with fail); refine hK.out _ _ ?_ ?_; (focus ((try dsimp only); (try go_keep); done)); clear hHeld hK K; intro hHeld; (try simp only [Act.put, List.setIfInBounds_toArray, List.set_cons_zero, List.set_cons_succ])
  (refine wpAnyH_take (i := 10) (oi := ⟨_, _, _, _, _, _⟩) (v := ?_) rfl (by kernel_rfl) (by kernel_rfl) (by kernel_rfl) (fun _ _ _ h => h) (Or.inl ⟨by first | rfl | kernel_rfl, ?_⟩) (by assumption) ?_); rotate_left; (focus (intro w hSw; (try dsimp only at hSw); go_simp; (try with_reducible rfl); done)); (try simp only [Act.put, List.setIfInBounds_toArray, List.set_cons_zero, List.set_cons_succ]); (refine wpAnyH_take (i := 11) (oi := ⟨_, _, _, _, _, _⟩) (v := ?_) rfl (by kernel_rfl) (by kernel_rfl) (by kernel_rfl) (fun _ _ _ h => h) (Or.inl ⟨by first | rfl | kernel_rfl, ?_⟩) (by assumption) ?_); rotate_left; (focus (intro w hSw; (try dsimp only at hSw); go_simp; (try with_reducible rfl); done)); (try simp only [Act.put, List.setIfInBounds_toArray, List.set_cons_zero, List.set_cons_succ]); (refine wpAnyH_take (i := 12) (oi := ⟨_, _, _, _, _, _⟩) (v := ?_) rfl (by kernel_rfl) (by kernel_rfl) (by kernel_rfl) (fun _ _ _ h => h) (Or.inl ⟨by first | rfl | kernel_rfl, ?_⟩) (by assumption) ?_); rotate_left; (focus (intro w hSw; (try dsimp only at hSw); go_simp; (try with_reducible rfl); done)); (try simp only [Act.put, List.setIfInBounds_toArray, List.set_cons_zero, List.set_cons_succ]); (refine wpAnyH_take (i := 13) (oi := ⟨_, _, _, _, _, _⟩) (v := ?_) rfl (by kernel_rfl) (by kernel_rfl) (by kernel_rfl) (fun _ _ _ h => h) (Or.inl ⟨by first | rfl | kernel_rfl, ?_⟩) (by assumption) ?_); rotate_left; (focus (intro w hSw; (try dsimp only at hSw); go_simp; (try with_reducible rfl); done)); (try simp only [Act.put, List.setIfInBounds_toArray, List.set_cons_zero, List.set_cons_succ]); (refine wpAnyH_take (i := 14) (oi := ⟨_, _, _, _, _, _⟩) (v := ?_) rfl (by kernel_rfl) (by kernel_rfl) (by kernel_rfl) (fun _ _ _ h => h) (Or.inl ⟨by first | rfl | kernel_rfl, ?_⟩) (by assumption) ?_); rotate_left; (focus (intro w hSw; (try dsimp only at hSw); go_simp; (try with_reducible rfl); done)); (try simp only [Act.put, List.setIfInBounds_toArray, List.set_cons_zero, List.set_cons_succ]); (refine wpAnyH_take (i := 15) (oi := ⟨_, _, _, _, _, _⟩) (v := ?_) rfl (by kernel_rfl) (by kernel_rfl) (by kernel_rfl) (fun _ _ _ h => h) (Or.inl ⟨by first | rfl | kernel_rfl, ?_⟩) (by assumption) ?_); rotate_left; (focus (intro w hSw; (try dsimp only at hSw); go_simp; (try with_reducible rfl); done)); (try simp only [Act.put, List.setIfInBounds_toArray, List.set_cons_zero, List.set_cons_succ])
  (refine wpAnyH_take (i := 16) (oi := ⟨_, _, _, _, _, _⟩) (v := _) rfl (by kernel_rfl) (by kernel_rfl) (by kernel_rfl) (fun _ _ _ h => h) (Or.inr ⟨by first | rfl | kernel_rfl, rfl⟩) (by assumption) ?_); (try simp only [Act.put, List.setIfInBounds_toArray, List.set_cons_zero, List.set_cons_succ]); (refine wpAnyH_take (i := 17) (oi := ⟨_, _, _, _, _, _⟩) (v := _) rfl (by kernel_rfl) (by kernel_rfl) (by kernel_rfl) (fun _ _ _ h => h) (Or.inr ⟨by first | rfl | kernel_rfl, rfl⟩) (by assumption) ?_); (try simp only [Act.put, List.setIfInBounds_toArray, List.set_cons_zero, List.set_cons_succ]); (refine wpAnyH_take (i := 18) (oi := ⟨_, _, _, _, _, _⟩) (v := _) rfl (by kernel_rfl) (by kernel_rfl) (by kernel_rfl) (fun _ _ _ h => h) (Or.inr ⟨by first | rfl | kernel_rfl, rfl⟩) (by assumption) ?_); (try simp only [Act.put, List.setIfInBounds_toArray, List.set_cons_zero, List.set_cons_succ])
  (refine wpAnyH_take (i := 19) (oi := ⟨_, _, _, _, _, _⟩) (v := ?_) rfl (by kernel_rfl) (by kernel_rfl) (by kernel_rfl) (fun _ _ _ h => h) (Or.inl ⟨by first | rfl | kernel_rfl, ?_⟩) (by assumption) ?_); rotate_left; (focus (intro w hSw; (try dsimp only at hSw); go_simp; (try with_reducible rfl); done)); (try simp only [Act.put, List.setIfInBounds_toArray, List.set_cons_zero, List.set_cons_succ]); (refine wpAnyH_take (i := 20) (oi := ⟨_, _, _, _, _, _⟩) (v := ?_) rfl (by kernel_rfl) (by kernel_rfl) (by kernel_rfl) (fun _ _ _ h => h) (Or.inl ⟨by first | rfl | kernel_rfl, ?_⟩) (by assumption) ?_); rotate_left; (focus (intro w hSw; (try dsimp only at hSw); go_simp; (try with_reducible rfl); done)); (try simp only [Act.put, List.setIfInBounds_toArray, List.set_cons_zero, List.set_cons_succ]); (refine wpAnyH_take (i := 21) (oi := ⟨_, _, _, _, _, _⟩) (v := ?_) rfl (by kernel_rfl) (by kernel_rfl) (by kernel_rfl) (fun _ _ _ h => h) (Or.inl ⟨by first | rfl | kernel_rfl, ?_⟩) (by assumption) ?_); rotate_left; (focus (intro w hSw; (try dsimp only at hSw); go_simp; (try with_reducible rfl); done)); (try simp only [Act.put, List.setIfInBounds_toArray, List.set_cons_zero, List.set_cons_succ]); (refine wpAnyH_take (i := 22) (oi := ⟨_, _, _, _, _, _⟩) (v := ?_) rfl (by kernel_rfl) (by kernel_rfl) (by kernel_rfl) (fun _ _ _ h => h) (Or.inl ⟨by first | rfl | kernel_rfl, ?_⟩) (by assumption) ?_); rotate_left; (focus (intro w hSw; (try dsimp only at hSw); go_simp; (try with_reducible rfl); done)); (try simp only [Act.put, List.setIfInBounds_toArray, List.set_cons_zero, List.set_cons_succ]); (refine wpAnyH_take (i := 23) (oi := ⟨_, _, _, _, _, _⟩) (v := ?_) rfl (by kernel_rfl) (by kernel_rfl) (by kernel_rfl) (fun _ _ _ h => h) (Or.inl ⟨by first | rfl | kernel_rfl, ?_⟩) (by assumption) ?_); rotate_left; (focus (intro w hSw; (try dsimp only at hSw); go_simp; (try with_reducible rfl); done)); (try simp only [Act.put, List.setIfInBounds_toArray, List.set_cons_zero, List.set_cons_succ]); (refine wpAnyH_take (i := 24) (oi := ⟨_, _, _, _, _, _⟩) (v := ?_) rfl (by kernel_rfl) (by kernel_rfl) (by kernel_rfl) (fun _ _ _ h => h) (Or.inl ⟨by first | rfl | kernel_rfl, ?_⟩) (by assumption) ?_); rotate_left; (focus (intro w hSw; (try dsimp only at hSw); go_simp; (try with_reducible rfl); done)); (try simp only [Act.put, List.setIfInBounds_toArray, List.set_cons_zero, List.set_cons_succ]); (refine wpAnyH_take (i := 25) (oi := ⟨_, _, _, _, _, _⟩) (v := ?_) rfl (by kernel_rfl) (by kernel_rfl) (by kernel_rfl) (fun _ _ _ h => h) (Or.inl ⟨by first | rfl | kernel_rfl, ?_⟩) (by assumption) ?_); rotate_left; (focus (intro w hSw; (try dsimp only at hSw); go_simp; (try with_reducible rfl); done)); (try simp only [Act.put, List.setIfInBounds_toArray, List.set_cons_zero, List.set_cons_succ]); (refine wpAnyH_take (i := 26) (oi := ⟨_, _, _, _, _, _⟩) (v := ?_) rfl (by kernel_rfl) (by kernel_rfl) (by kernel_rfl) (fun _ _ _ h => h) (Or.inl ⟨by first | rfl | kernel_rfl, ?_⟩) (by assumption) ?_); rotate_left; (focus (intro w hSw; (try dsimp only at hSw); go_simp; (try with_reducible rfl); done)); (try simp only [Act.put, List.setIfInBounds_toArray, List.set_cons_zero, List.set_cons_succ])
  refine wpAnyH_done (by kernel_rfl) ?_ _
  go_wp2_with fail
  go_ret
  exact ⟨rfl, LL.out.b⟩
set_option maxRecDepth 100000 in
set_option maxHeartbeats 4000000 in
theorem none_some (b : ByteArray) (w : World) (hT : pt.Tabs w) (hb : ¬ 300 < b.size) (hz : b.size ≠ 0) :
    Calls Tryd.prog 11 #[.string b] w fun e w' => e = .returned (.bool true) ∧ Below w.heap.size w w' := by
  have HAW := Lib.hid (fun w2 h2 => awake5_any w2 h2)
  have HBD : Hid (∀ W, Calls Tryd.prog 17 #[.agg #[.int .i64 0, .int .i64 0]] W fun e w' => e = .returned (.bool false) ∧ Below W.heap.size W w') := Lib.hid (fun W => pt.bad_any W 0 0)
  have HT := Lib.hid hT
  have HDD := fun W h => decode_none 0 (.slice none 0 0) b W (by omega) h
  rw [if_neg hz] at HDD
  have HD : Hid (∀ W, TE TBr W (.slice none 0 0) [] → Calls Tryd.prog 30 #[.agg #[.slice none 0 0, .int .i64 0], .string b] W fun e w' => e = .returned (.tuple #[.string ⟨#[]⟩, .agg #[.int .i64 2, .int .i64 0]]) ∧ Below W.heap.size W w') := Lib.hid (fun W h => HDD W h)
  have HE : Hid (∀ W, pt.Tabs W → Calls Tryd.prog 31 #[.agg #[.slice none 0 0, .int .i64 0], .string ⟨#[97]⟩] W fun e w' => e = .returned (.tuple #[.string ⟨#[]⟩, .agg #[.int .i64 6, .int .i64 0]]) ∧ Below W.heap.size W w') := Lib.hid (fun W hW => encode_none 0 _ W (te_nil W) hW)
  have LL : Hid (Lw w w.heap.size (.slice none 0 0) 0 [] (w.alloc (.cells #[.slice none 0 0, .int .i64 0] 56))) := Lib.hid (Lw.new (Below.refl _ _) (te_nil w))
  obtain ⟨⟨_, y0, y1, y2, _⟩, _, _⟩ := LL.out
  have HB2 : Hid (∀ W, Calls Tryd.prog 17 #[.agg #[.int .i64 2, .int .i64 0]] W fun e w' => e = .returned (.bool true) ∧ Below W.heap.size W w') := Lib.hid (fun W => pt.bad_any W 2 0)
  have HFT : Hid (∀ W, Calls Tryd.prog 34 #[.int .i64 0] W fun e w' => e = .returned (.agg #[.int .i64 2, .int .i64 0]) ∧ Below W.heap.size W w') := Lib.hid (fun W => pt.fault_any 0 W)
  have hne : ¬ b = ⟨#[]⟩ := fun e => hz (by rw [e]; rfl)
  have hli : b.toList.isEmpty = false := by
    cases h : b.toList.isEmpty with
    | false => rfl
    | true =>
      exfalso
      apply hne
      rw [List.isEmpty_iff, Lib.toList_data] at h
      apply ByteArray.ext
      apply Array.ext'
      exact h
  have hle : ¬ (300 : Int) < (b.size : Int) := by omega
  clear hT HDD hz hb
  go_enter Tryd.func11, Tryd.ntmps11
  go_wp2_with (first | (go_at_call 30; (with_reducible refine (HD.out _ (te_nil _)).mono ?_); rintro e2 w2 ⟨rfl, hb2⟩; have hA : Below w2.heap.size w2 (w2.alloc (.cells #[.int .i64 2, .int .i64 0] 30)) := (Below.refl _ _).alloc (Nat.le_refl _) _; have LL := Lib.hid ((LL.out.below hb2).below hA); have FF := Lib.hid (pt.f2_new w2 2 0 30); obtain ⟨⟨_, y0, y1, y2, _⟩, _, _⟩ := LL.out; obtain ⟨_, FF0, FF1, FF2, FF3⟩ := FF.out; obtain ⟨_, m0, m1, m2, m3⟩ := pt.f2_new w2 0 0 30; clear hb2 hA) | (go_at_call 31; (with_reducible refine (HE.out _ (HT.out.below LL.out.b)).mono ?_); rintro e3 w3 ⟨rfl, hb3⟩; have hA : Below w3.heap.size w3 (w3.alloc (.cells #[.int .i64 6, .int .i64 0] 30)) := (Below.refl _ _).alloc (Nat.le_refl _) _; have LL := Lib.hid ((LL.out.below hb3).below hA); have FF := Lib.hid ((FF.out.below hb3 FF.out.lt).below hA (Nat.lt_of_lt_of_le FF.out.lt hb3.size)); have GG := Lib.hid (pt.f2_new w3 6 0 30); obtain ⟨_, FF0, FF1, _, _⟩ := FF.out; obtain ⟨_, GG0, GG1, _, _⟩ := GG.out; obtain ⟨_, n0, n1, n2, n3⟩ := pt.f2_new w3 0 0 30; clear hb3 hA))
  have LL := Lib.hid (LL.out.below (Below.refl _ _).drew)
  have FF := Lib.hid (FF.out.below (Below.refl _ _).drew FF.out.lt)
  have GG := Lib.hid (GG.out.below (Below.refl _ _).drew GG.out.lt)
  go_region_held3 (fun w' => w'.cell? ⟨w2.heap.size, 0, none⟩ = some (.int .i64 2) ∧ w'.cell? ⟨w2.heap.size, 1, none⟩ = some (.int .i64 0) ∧ w'.cell? ⟨w3.heap.size, 0, none⟩ = some (.int .i64 6) ∧ w'.cell? ⟨w3.heap.size, 1, none⟩ = some (.int .i64 0)) (go_keep) (first
    | (go_at_call 28; (with_reducible refine (HAW.out _ (HT.out.below LL.out.b)).mono ?_); rintro e9 w9 ⟨rfl, hb⟩; have LL := Lib.hid (LL.out.below hb); have FF := Lib.hid (FF.out.below hb FF.out.lt); have GG := Lib.hid (GG.out.below hb GG.out.lt); obtain ⟨_, FF0, FF1, _, _⟩ := FF.out; obtain ⟨_, GG0, GG1, _, _⟩ := GG.out; clear hb)
    | (go_at_call 17; (with_reducible refine (HB2.out _).mono ?_); rintro e10 w10 ⟨rfl, hb⟩; have LL := Lib.hid (LL.out.below hb); have FF := Lib.hid (FF.out.below hb FF.out.lt); have GG := Lib.hid (GG.out.below hb GG.out.lt); obtain ⟨_, FF0, FF1, _, _⟩ := FF.out; obtain ⟨_, GG0, GG1, _, _⟩ := GG.out; clear hb)
    | (go_at_call 34; (with_reducible refine (HFT.out _).mono ?_); rintro e11 w11 ⟨rfl, hb⟩; have LL := Lib.hid (LL.out.below hb); have FF := Lib.hid (FF.out.below hb FF.out.lt); have GG := Lib.hid (GG.out.below hb GG.out.lt); obtain ⟨_, FF0, FF1, _, _⟩ := FF.out; obtain ⟨_, GG0, GG1, _, _⟩ := GG.out; clear hb))
  all_goals go_wp2_with fail
  go_ret
  exact ⟨rfl, LL.out.b⟩
set_option maxRecDepth 100000 in
theorem SingleNone_walk (b : ByteArray) (w : World) (hT : pt.Tabs w) :
    Calls Tryd.prog 11 #[.string b] w fun e w' => e = .returned (.bool true) ∧ Below w.heap.size w w' := by
  by_cases h : 300 < b.size
  · have h' : (300 : Int) < (b.size : Int) := by omega
    have HAW := Lib.hid (fun w2 h2 => awake5_any w2 h2)
    have HT := Lib.hid hT
    clear hT
    go_enter Tryd.func11, Tryd.ntmps11
    go_wp2_with (go_at_call 28; refine (HAW.out _ HT.out).mono ?_; rintro e1 w1 ⟨rfl, hb1⟩)
    go_ret
    exact ⟨rfl, hb1⟩
  by_cases hz : b.size = 0
  · have e : b = ⟨#[]⟩ := by
      apply ByteArray.ext
      exact Array.eq_empty_of_size_eq_zero hz
    subst e
    exact none_empty w hT
  · exact none_some b w hT h hz
end Go.Proofs.YtiokdeomdeenbaaDoor.sg
