/- The landed frame: what its bits mean: contracts. -/
import Derived.Test.YtkhajafjieofhaaFr0
import Derived.Test.YtkhajafjieofhaaBk
import Derived.Deep.RegionHeld3
namespace Go.Proofs.Ytkhajafjieofhaa.fl
open Go.RowKit Go.Lib
open Go.Proofs.Ytkhajafjieofhaa.fr Go.Proofs.Ytkhajafjieofhaa.bk
set_option linter.unusedVariables false
theorem nb {a b : Int} (h : ¬ a = b) : (a == b) = false ∧ (a != b) = true := by
  constructor
  · simpa using h
  · simpa using h
def mL (v : Int) : Nat := if v = 3 then 192 else if v = 4 then 12 else 0
def mG (v : Int) : Nat := if v = 3 then 32 else if v = 4 then 64 else 0
def mM (v : Int) : Nat := if v = 4 then 1 else 0
def mS (v : Int) : Nat := if v = 4 then 2 else 0
set_option maxRecDepth 100000 in
theorem meant_any (v : Int) (w : World) : Calls Try.prog 32 #[.int .i64 v] w fun r w' => r = .returned (.agg #[.int .u8 (mL v : Nat), .int .u8 (mG v : Nat), .int .u8 (mM v : Nat), .int .u8 (mS v : Nat)]) ∧ Below w.heap.size w w' := by
  by_cases h3 : v = 3
  · subst h3
    go_enter Try.func32, Try.ntmps32
    go_wp2
    (try simp only [Exit.inBlock, Exit.then])
    refine bodyPost_ret (v := .agg #[.int .u8 192, .int .u8 32, .int .u8 0, .int .u8 0]) (by simp [results, Try.results32, go_sem]) rfl ⟨rfl, ?_⟩
    repeat (first | (with_reducible exact Below.refl _ _) | (with_reducible refine Below.setCell ?_ (by simp) _) | (with_reducible refine Below.alloc ?_ (by simp) _))
  · obtain ⟨q3, _⟩ := nb h3
    by_cases h4 : v = 4
    · subst h4
      go_enter Try.func32, Try.ntmps32
      go_wp2
      (try simp only [Exit.inBlock, Exit.then])
      refine bodyPost_ret (v := .agg #[.int .u8 12, .int .u8 64, .int .u8 1, .int .u8 2]) (by simp [results, Try.results32, go_sem]) rfl ⟨rfl, ?_⟩
      repeat (first | (with_reducible exact Below.refl _ _) | (with_reducible refine Below.setCell ?_ (by simp) _) | (with_reducible refine Below.alloc ?_ (by simp) _))
    · obtain ⟨q4, _⟩ := nb h4
      have e : (.agg #[.int .u8 (mL v : Nat), .int .u8 (mG v : Nat), .int .u8 (mM v : Nat), .int .u8 (mS v : Nat)] : Value) = .agg #[.int .u8 0, .int .u8 0, .int .u8 0, .int .u8 0] := by
        unfold mL mG mM mS
        simp [h3, h4]
      rw [e]
      go_enter Try.func32, Try.ntmps32
      go_wp2
      (try simp only [Exit.inBlock, Exit.then])
      refine bodyPost_ret (v := .agg #[.int .u8 0, .int .u8 0, .int .u8 0, .int .u8 0]) (by simp [results, Try.results32, go_sem]) rfl ⟨rfl, ?_⟩
      repeat (first | (with_reducible exact Below.refl _ _) | (with_reducible refine Below.setCell ?_ (by simp) _) | (with_reducible refine Below.alloc ?_ (by simp) _))
theorem an192 : ∀ n : Fin 256, (bits BinOp.and IntKind.u8 (n.val : Int) 192 != 0) = (bit n.val 128 || bit n.val 64) := by decide +kernel
theorem an12 : ∀ n : Fin 256, (bits BinOp.and IntKind.u8 (n.val : Int) 12 != 0) = (bit n.val 8 || bit n.val 4) := by decide +kernel
theorem an32 : ∀ n : Fin 256, (bits BinOp.and IntKind.u8 (n.val : Int) 32 != 0) = bit n.val 32 := by decide +kernel
theorem an64 : ∀ n : Fin 256, (bits BinOp.and IntKind.u8 (n.val : Int) 64 != 0) = bit n.val 64 := by decide +kernel
theorem an1 : ∀ n : Fin 256, (bits BinOp.and IntKind.u8 (n.val : Int) 1 != 0) = bit n.val 1 := by decide +kernel
theorem an2 : ∀ n : Fin 256, (bits BinOp.and IntKind.u8 (n.val : Int) 2 != 0) = bit n.val 2 := by decide +kernel
theorem an0 : ∀ n : Fin 256, (bits BinOp.and IntKind.u8 (n.val : Int) 0 != 0) = false := by decide +kernel
theorem or2 : ∀ n : Fin 256, bits BinOp.or IntKind.u8 (n.val : Int) 2 = ((if bit n.val 2 = true then n.val else n.val + 2 : Nat) : Int) := by decide +kernel
theorem is_lckd (v : Int) (m : Nat) (h : m < 256) : (bits BinOp.and IntKind.u8 (m : Int) ((mL v : Nat) : Int) != 0) = lckd v m := by
  unfold mL lckd
  by_cases h3 : v = 3
  · subst h3; exact an192 ⟨m, h⟩
  by_cases h4 : v = 4
  · subst h4; exact an12 ⟨m, h⟩
  rw [if_neg h3, if_neg h4, if_neg h3, decide_eq_false h4]; exact an0 ⟨m, h⟩
theorem is_grpd (v : Int) (m : Nat) (h : m < 256) : ((bits BinOp.and IntKind.u8 (m : Int) ((mG v : Nat) : Int) != 0) && !lckd v m) = grpd v m := by
  unfold mG grpd
  by_cases h3 : v = 3
  · subst h3; have := an32 ⟨m, h⟩; simp only [if_true]; rw [show ((32 : Nat) : Int) = 32 from rfl, this]; cases lckd 3 m <;> simp
  by_cases h4 : v = 4
  · subst h4; have := an64 ⟨m, h⟩; rw [if_neg (by omega), if_pos rfl, show ((64 : Nat) : Int) = 64 from rfl, this]; cases lckd 4 m <;> simp
  rw [if_neg h3, if_neg h4, decide_eq_false h3, decide_eq_false h4, show ((0 : Nat) : Int) = 0 from rfl, an0 ⟨m, h⟩]; simp
theorem is_msrd (v : Int) (m : Nat) (h : m < 256) : ((bits BinOp.and IntKind.u8 (m : Int) ((mM v : Nat) : Int) != 0) && !lckd v m) = msrd v m := by
  unfold mM msrd
  by_cases h4 : v = 4
  · subst h4; have := an1 ⟨m, h⟩; rw [if_pos rfl, show ((1 : Nat) : Int) = 1 from rfl, this]; cases lckd 4 m <;> simp
  rw [if_neg h4, decide_eq_false h4, show ((0 : Nat) : Int) = 0 from rfl, an0 ⟨m, h⟩]; simp
theorem is_sprd (v : Int) (m : Nat) (h : m < 256) : ((bits BinOp.and IntKind.u8 (m : Int) ((mS v : Nat) : Int) != 0) && !lckd v m) = sprd v m := by
  unfold mS sprd
  by_cases h4 : v = 4
  · subst h4; have := an2 ⟨m, h⟩; rw [if_pos rfl, show ((2 : Nat) : Int) = 2 from rfl, this]; cases lckd 4 m <;> simp
  rw [if_neg h4, decide_eq_false h4, show ((0 : Nat) : Int) = 0 from rfl, an0 ⟨m, h⟩]; simp
set_option maxRecDepth 100000 in
theorem locked_any (v : Int) (I : ByteArray) (s : Int) (m : Nat) (w : World) (hm : m < 256) : Calls Try.prog 8 #[.agg #[.string I, .int .u8 s, .int .u8 m], .int .i64 v] w fun e w' => e = .returned (.bool (lckd v m)) ∧ Below w.heap.size w w' := by
  have HM := Lib.hid (fun W => meant_any v W)
  have HV := is_lckd v m hm
  generalize ((mL v : Nat) : Int) = l at *
  generalize ((mG v : Nat) : Int) = g at *
  generalize ((mM v : Nat) : Int) = p at *
  generalize ((mS v : Nat) : Int) = q at *
  generalize lckd v m = O at *
  generalize (m : Int) = M at *
  have hf := fun (W : World) => (show (Instr.field 56 (.agg #[.int .u8 l, .int .u8 g, .int .u8 p, .int .u8 q]) 0).run Try.prog W = .ok (.int .u8 l) W from by kernel_rfl)
  go_enter Try.func8, Try.ntmps8
  go_wp2_with fail
  have Q0 := Lib.hid ((Bk.new w 24 [.string I, .int .u8 s, .int .u8 M]).drew)
  have B0 : Hid (Below w.heap.size w (w.alloc (.cells #[.string I, .int .u8 s, .int .u8 M] 24)).drew) := Lib.hid ((Below.refl _ _).alloc (Nat.le_refl _) _).drew
  have y2 := Q0.out.c 2 _ rfl
  refine wp_region_held_drew (S := (fun W => W.cell? ⟨w.heap.size, 2, none⟩ = some (.int .u8 M))) (by kernel_rfl) ?_ (fun hHeld => ?_)
  · exact y2
  (refine wpAnyH_take (i := 0) (oi := ⟨_, _, _, _, _, _⟩) (v := ?_) rfl (by kernel_rfl) (by kernel_rfl) (by kernel_rfl) (fun _ _ _ h => h) (Or.inl ⟨by rfl, ?_⟩) (by assumption) ?_); rotate_left; (focus (intro w hSw; (try dsimp only at hSw); go_simp; (try with_reducible rfl); done)); (try simp only [Act.put, List.setIfInBounds_toArray, List.set_cons_zero, List.set_cons_succ])
  (refine wpAnyH_take (i := 1) (oi := ⟨_, _, _, _, _, _⟩) (v := ?_) rfl (by kernel_rfl) (by kernel_rfl) (by kernel_rfl) (fun _ _ _ h => h) (Or.inl ⟨by rfl, ?_⟩) (by assumption) ?_); rotate_left; (focus (intro w hSw; (try dsimp only at hSw); go_simp; (try with_reducible rfl); done)); (try simp only [Act.put, List.setIfInBounds_toArray, List.set_cons_zero, List.set_cons_succ])
  (refine wpAnyH_take (i := 2) (oi := ⟨_, _, _, _, _, _⟩) (v := ?_) rfl (by kernel_rfl) (by kernel_rfl) (by kernel_rfl) (fun _ _ _ h => h) (Or.inl ⟨by rfl, ?_⟩) (by assumption) ?_); rotate_left; (focus (intro w hSw; (try dsimp only at hSw); go_simp; (try with_reducible rfl); done)); (try simp only [Act.put, List.setIfInBounds_toArray, List.set_cons_zero, List.set_cons_succ])
  refine wpAnyH_ready (rs := [3]) (by kernel_rfl) (by simp) ?_; refine AllReadyH.cons (o := ⟨_, _, _, _, _, _⟩) rfl (fun K hK => ?_) AllReadyH.nil; go_simp
  (go_at_call 32; refine (HM.out _).mono ?_; rintro e6 w6 ⟨rfl, hb6⟩; have Q1 := Lib.hid (Q0.out.below hb6); have B1 := Lib.hid (B0.out.trans (hb6.mono B0.out.size)); have y2 := Q1.out.c 2 _ rfl; clear hb6)
  (try go_wp2_with fail); refine hK.out _ _ ?_ ?_; (focus ((try dsimp only); (try go_keep); done)); clear hHeld hK K; intro hHeld; (try simp only [Act.put, List.setIfInBounds_toArray, List.set_cons_zero, List.set_cons_succ])
  (refine wpAnyH_take (i := 4) (oi := ⟨_, _, _, _, _, _⟩) (v := ?_) rfl (by kernel_rfl) (by kernel_rfl) (by kernel_rfl) (fun _ _ _ h => h) (Or.inl ⟨by rfl, ?_⟩) (by assumption) ?_); rotate_left; (focus (intro w hSw; (try dsimp only at hSw); go_simp; (try with_reducible rfl); done)); (try simp only [Act.put, List.setIfInBounds_toArray, List.set_cons_zero, List.set_cons_succ])
  (refine wpAnyH_take (i := 5) (oi := ⟨_, _, _, _, _, _⟩) (v := ?_) rfl (by kernel_rfl) (by kernel_rfl) (by kernel_rfl) (fun _ _ _ h => h) (Or.inl ⟨by rfl, ?_⟩) (by assumption) ?_); rotate_left; (focus (intro w hSw; (try dsimp only at hSw); go_simp; (try with_reducible rfl); done)); (try simp only [Act.put, List.setIfInBounds_toArray, List.set_cons_zero, List.set_cons_succ])
  (refine wpAnyH_take (i := 6) (oi := ⟨_, _, _, _, _, _⟩) (v := ?_) rfl (by kernel_rfl) (by kernel_rfl) (by kernel_rfl) (fun _ _ _ h => h) (Or.inl ⟨by rfl, ?_⟩) (by assumption) ?_); rotate_left; (focus (intro w hSw; (try dsimp only at hSw); go_simp; (try with_reducible rfl); done)); (try simp only [Act.put, List.setIfInBounds_toArray, List.set_cons_zero, List.set_cons_succ])
  (refine wpAnyH_take (i := 7) (oi := ⟨_, _, _, _, _, _⟩) (v := ?_) rfl (by kernel_rfl) (by kernel_rfl) (by kernel_rfl) (fun _ _ _ h => h) (Or.inl ⟨by rfl, ?_⟩) (by assumption) ?_); rotate_left; (focus (intro w hSw; (try dsimp only at hSw); go_simp; (try with_reducible rfl); done)); (try simp only [Act.put, List.setIfInBounds_toArray, List.set_cons_zero, List.set_cons_succ])
  refine wpAnyH_done (by kernel_rfl) ?_ _
  go_wp2_with fail
  refine bodyPost_ret (v := .bool O) (by simp [results, Try.results8, go_sem]) rfl ⟨rfl, B1.out⟩
set_option maxRecDepth 100000 in
theorem open_any (v : Int) (I : ByteArray) (s : Int) (m : Nat) (b : Int) (w : World) (hm : m < 256) : Calls Try.prog 34 #[.agg #[.string I, .int .u8 s, .int .u8 m], .int .i64 v, .int .u8 b] w fun e w' => e = .returned (.bool ((bits BinOp.and IntKind.u8 (m : Int) b != 0) && !lckd v m)) ∧ Below w.heap.size w w' := by
  have HL := Lib.hid (fun W => locked_any v I s m W hm)
  generalize lckd v m = O at *
  generalize (m : Int) = M at *
  cases hq : (bits BinOp.and IntKind.u8 M b != 0) with
  | false =>
    go_enter Try.func34, Try.ntmps34
    go_wp2_with fail
    go_ret
    exact ⟨rfl, by repeat (first | (with_reducible exact Below.refl _ _) | (with_reducible refine Below.setCell ?_ (by simp) _) | (with_reducible refine Below.alloc ?_ (by simp) _))⟩
  | true =>
    cases O with
    | false =>
      go_enter Try.func34, Try.ntmps34
      go_wp2_with (go_at_call 8; refine (HL.out _).mono ?_; rintro e1 w1 ⟨rfl, hb1⟩)
      go_ret
      exact ⟨rfl, ((Below.refl _ _).alloc (Nat.le_refl _) _).trans (hb1.mono (by rw [World.size_alloc]; omega))⟩
    | true =>
      go_enter Try.func34, Try.ntmps34
      go_wp2_with (go_at_call 8; refine (HL.out _).mono ?_; rintro e1 w1 ⟨rfl, hb1⟩)
      go_ret
      exact ⟨rfl, ((Below.refl _ _).alloc (Nat.le_refl _) _).trans (hb1.mono (by rw [World.size_alloc]; omega))⟩
set_option maxRecDepth 100000 in
theorem grouped_any (v : Int) (I : ByteArray) (s : Int) (m : Nat) (w : World) (hm : m < 256) : Calls Try.prog 10 #[.agg #[.string I, .int .u8 s, .int .u8 m], .int .i64 v] w fun e w' => e = .returned (.bool (grpd v m)) ∧ Below w.heap.size w w' := by
  have HM := Lib.hid (fun W => meant_any v W)
  have HV := is_grpd v m hm
  have HO := Lib.hid (fun b W => open_any v I s m b W hm)
  generalize ((mL v : Nat) : Int) = l at *
  generalize ((mG v : Nat) : Int) = g at *
  generalize ((mM v : Nat) : Int) = p at *
  generalize ((mS v : Nat) : Int) = q at *
  generalize lckd v m = O at *
  generalize grpd v m = G at *
  generalize (m : Int) = M at *
  have hf := fun (W : World) => (show (Instr.field 56 (.agg #[.int .u8 l, .int .u8 g, .int .u8 p, .int .u8 q]) 1).run Try.prog W = .ok (.int .u8 g) W from by kernel_rfl)
  go_enter Try.func10, Try.ntmps10
  go_wp2_with fail
  have Q0 := Lib.hid ((Bk.new w 24 [.string I, .int .u8 s, .int .u8 M]).drew)
  have B0 : Hid (Below w.heap.size w (w.alloc (.cells #[.string I, .int .u8 s, .int .u8 M] 24)).drew) := Lib.hid ((Below.refl _ _).alloc (Nat.le_refl _) _).drew
  have y0 := Q0.out.c 0 _ rfl
  have y1 := Q0.out.c 1 _ rfl
  have y2 := Q0.out.c 2 _ rfl
  refine wp_region_held_drew (S := (fun W => W.cell? ⟨w.heap.size, 0, none⟩ = some (.string I) ∧ W.cell? ⟨w.heap.size, 1, none⟩ = some (.int .u8 s) ∧ W.cell? ⟨w.heap.size, 2, none⟩ = some (.int .u8 M))) (by kernel_rfl) ?_ (fun hHeld => ?_)
  · exact ⟨y0, y1, y2⟩
  (refine wpAnyH_take (i := 0) (oi := ⟨_, _, _, _, _, _⟩) (v := ?_) rfl (by kernel_rfl) (by kernel_rfl) (by kernel_rfl) (fun _ _ _ h => h) (Or.inl ⟨by rfl, ?_⟩) (by assumption) ?_); rotate_left; (focus (intro w hSw; (try dsimp only at hSw); go_simp; (try with_reducible rfl); done)); (try simp only [Act.put, List.setIfInBounds_toArray, List.set_cons_zero, List.set_cons_succ])
  (refine wpAnyH_take (i := 1) (oi := ⟨_, _, _, _, _, _⟩) (v := ?_) rfl (by kernel_rfl) (by kernel_rfl) (by kernel_rfl) (fun _ _ _ h => h) (Or.inl ⟨by rfl, ?_⟩) (by assumption) ?_); rotate_left; (focus (intro w hSw; (try dsimp only at hSw); go_simp; (try with_reducible rfl); done)); (try simp only [Act.put, List.setIfInBounds_toArray, List.set_cons_zero, List.set_cons_succ])
  (refine wpAnyH_take (i := 2) (oi := ⟨_, _, _, _, _, _⟩) (v := ?_) rfl (by kernel_rfl) (by kernel_rfl) (by kernel_rfl) (fun _ _ _ h => h) (Or.inl ⟨by rfl, ?_⟩) (by assumption) ?_); rotate_left; (focus (intro w hSw; (try dsimp only at hSw); go_simp; (try with_reducible rfl); done)); (try simp only [Act.put, List.setIfInBounds_toArray, List.set_cons_zero, List.set_cons_succ])
  refine wpAnyH_ready (rs := [3]) (by kernel_rfl) (by simp) ?_; refine AllReadyH.cons (o := ⟨_, _, _, _, _, _⟩) rfl (fun K hK => ?_) AllReadyH.nil; go_simp
  (go_at_call 32; refine (HM.out _).mono ?_; rintro e6 w6 ⟨rfl, hb6⟩; have Q1 := Lib.hid (Q0.out.below hb6); have B1 := Lib.hid (B0.out.trans (hb6.mono B0.out.size)); have y0 := Q1.out.c 0 _ rfl; have y1 := Q1.out.c 1 _ rfl; have y2 := Q1.out.c 2 _ rfl; clear hb6)
  (try go_wp2_with fail); refine hK.out _ _ ?_ ?_; (focus ((try dsimp only); (try go_keep); done)); clear hHeld hK K; intro hHeld; (try simp only [Act.put, List.setIfInBounds_toArray, List.set_cons_zero, List.set_cons_succ])
  (refine wpAnyH_take (i := 4) (oi := ⟨_, _, _, _, _, _⟩) (v := ?_) rfl (by kernel_rfl) (by kernel_rfl) (by kernel_rfl) (fun _ _ _ h => h) (Or.inl ⟨by rfl, ?_⟩) (by assumption) ?_); rotate_left; (focus (intro w hSw; (try dsimp only at hSw); go_simp; (try with_reducible rfl); done)); (try simp only [Act.put, List.setIfInBounds_toArray, List.set_cons_zero, List.set_cons_succ])
  refine wpAnyH_ready (rs := [5]) (by kernel_rfl) (by simp) ?_; refine AllReadyH.cons (o := ⟨_, _, _, _, _, _⟩) rfl (fun K hK => ?_) AllReadyH.nil; go_simp
  (go_at_call 34; refine (HO.out _ _).mono ?_; rintro e7 w7 ⟨rfl, hb7⟩; have Q2 := Lib.hid (Q1.out.below hb7); have B2 := Lib.hid (B1.out.trans (hb7.mono B1.out.size)); have y0 := Q2.out.c 0 _ rfl; have y1 := Q2.out.c 1 _ rfl; have y2 := Q2.out.c 2 _ rfl; clear hb7)
  (try go_wp2_with fail); refine hK.out _ _ ?_ ?_; (focus ((try dsimp only); (try go_keep); done)); clear hHeld hK K; intro hHeld; (try simp only [Act.put, List.setIfInBounds_toArray, List.set_cons_zero, List.set_cons_succ])
  (refine wpAnyH_take (i := 6) (oi := ⟨_, _, _, _, _, _⟩) (v := ?_) rfl (by kernel_rfl) (by kernel_rfl) (by kernel_rfl) (fun _ _ _ h => h) (Or.inl ⟨by rfl, ?_⟩) (by assumption) ?_); rotate_left; (focus (intro w hSw; (try dsimp only at hSw); go_simp; (try with_reducible rfl); done)); (try simp only [Act.put, List.setIfInBounds_toArray, List.set_cons_zero, List.set_cons_succ])
  refine wpAnyH_done (by kernel_rfl) ?_ _
  go_wp2_with fail
  refine bodyPost_ret (v := .bool G) (by simp [results, Try.results10, go_sem]) rfl ⟨rfl, B2.out⟩
set_option maxRecDepth 100000 in
theorem measured_any (v : Int) (I : ByteArray) (s : Int) (m : Nat) (w : World) (hm : m < 256) : Calls Try.prog 12 #[.agg #[.string I, .int .u8 s, .int .u8 m], .int .i64 v] w fun e w' => e = .returned (.bool (msrd v m)) ∧ Below w.heap.size w w' := by
  have HM := Lib.hid (fun W => meant_any v W)
  have HV := is_msrd v m hm
  have HO := Lib.hid (fun b W => open_any v I s m b W hm)
  generalize ((mL v : Nat) : Int) = l at *
  generalize ((mG v : Nat) : Int) = g at *
  generalize ((mM v : Nat) : Int) = p at *
  generalize ((mS v : Nat) : Int) = q at *
  generalize lckd v m = O at *
  generalize msrd v m = G at *
  generalize (m : Int) = M at *
  have hf := fun (W : World) => (show (Instr.field 56 (.agg #[.int .u8 l, .int .u8 g, .int .u8 p, .int .u8 q]) 2).run Try.prog W = .ok (.int .u8 p) W from by kernel_rfl)
  go_enter Try.func12, Try.ntmps12
  go_wp2_with fail
  have Q0 := Lib.hid ((Bk.new w 24 [.string I, .int .u8 s, .int .u8 M]).drew)
  have B0 : Hid (Below w.heap.size w (w.alloc (.cells #[.string I, .int .u8 s, .int .u8 M] 24)).drew) := Lib.hid ((Below.refl _ _).alloc (Nat.le_refl _) _).drew
  have y0 := Q0.out.c 0 _ rfl
  have y1 := Q0.out.c 1 _ rfl
  have y2 := Q0.out.c 2 _ rfl
  refine wp_region_held_drew (S := (fun W => W.cell? ⟨w.heap.size, 0, none⟩ = some (.string I) ∧ W.cell? ⟨w.heap.size, 1, none⟩ = some (.int .u8 s) ∧ W.cell? ⟨w.heap.size, 2, none⟩ = some (.int .u8 M))) (by kernel_rfl) ?_ (fun hHeld => ?_)
  · exact ⟨y0, y1, y2⟩
  (refine wpAnyH_take (i := 0) (oi := ⟨_, _, _, _, _, _⟩) (v := ?_) rfl (by kernel_rfl) (by kernel_rfl) (by kernel_rfl) (fun _ _ _ h => h) (Or.inl ⟨by rfl, ?_⟩) (by assumption) ?_); rotate_left; (focus (intro w hSw; (try dsimp only at hSw); go_simp; (try with_reducible rfl); done)); (try simp only [Act.put, List.setIfInBounds_toArray, List.set_cons_zero, List.set_cons_succ])
  (refine wpAnyH_take (i := 1) (oi := ⟨_, _, _, _, _, _⟩) (v := ?_) rfl (by kernel_rfl) (by kernel_rfl) (by kernel_rfl) (fun _ _ _ h => h) (Or.inl ⟨by rfl, ?_⟩) (by assumption) ?_); rotate_left; (focus (intro w hSw; (try dsimp only at hSw); go_simp; (try with_reducible rfl); done)); (try simp only [Act.put, List.setIfInBounds_toArray, List.set_cons_zero, List.set_cons_succ])
  (refine wpAnyH_take (i := 2) (oi := ⟨_, _, _, _, _, _⟩) (v := ?_) rfl (by kernel_rfl) (by kernel_rfl) (by kernel_rfl) (fun _ _ _ h => h) (Or.inl ⟨by rfl, ?_⟩) (by assumption) ?_); rotate_left; (focus (intro w hSw; (try dsimp only at hSw); go_simp; (try with_reducible rfl); done)); (try simp only [Act.put, List.setIfInBounds_toArray, List.set_cons_zero, List.set_cons_succ])
  refine wpAnyH_ready (rs := [3]) (by kernel_rfl) (by simp) ?_; refine AllReadyH.cons (o := ⟨_, _, _, _, _, _⟩) rfl (fun K hK => ?_) AllReadyH.nil; go_simp
  (go_at_call 32; refine (HM.out _).mono ?_; rintro e6 w6 ⟨rfl, hb6⟩; have Q1 := Lib.hid (Q0.out.below hb6); have B1 := Lib.hid (B0.out.trans (hb6.mono B0.out.size)); have y0 := Q1.out.c 0 _ rfl; have y1 := Q1.out.c 1 _ rfl; have y2 := Q1.out.c 2 _ rfl; clear hb6)
  (try go_wp2_with fail); refine hK.out _ _ ?_ ?_; (focus ((try dsimp only); (try go_keep); done)); clear hHeld hK K; intro hHeld; (try simp only [Act.put, List.setIfInBounds_toArray, List.set_cons_zero, List.set_cons_succ])
  (refine wpAnyH_take (i := 4) (oi := ⟨_, _, _, _, _, _⟩) (v := ?_) rfl (by kernel_rfl) (by kernel_rfl) (by kernel_rfl) (fun _ _ _ h => h) (Or.inl ⟨by rfl, ?_⟩) (by assumption) ?_); rotate_left; (focus (intro w hSw; (try dsimp only at hSw); go_simp; (try with_reducible rfl); done)); (try simp only [Act.put, List.setIfInBounds_toArray, List.set_cons_zero, List.set_cons_succ])
  refine wpAnyH_ready (rs := [5]) (by kernel_rfl) (by simp) ?_; refine AllReadyH.cons (o := ⟨_, _, _, _, _, _⟩) rfl (fun K hK => ?_) AllReadyH.nil; go_simp
  (go_at_call 34; refine (HO.out _ _).mono ?_; rintro e7 w7 ⟨rfl, hb7⟩; have Q2 := Lib.hid (Q1.out.below hb7); have B2 := Lib.hid (B1.out.trans (hb7.mono B1.out.size)); have y0 := Q2.out.c 0 _ rfl; have y1 := Q2.out.c 1 _ rfl; have y2 := Q2.out.c 2 _ rfl; clear hb7)
  (try go_wp2_with fail); refine hK.out _ _ ?_ ?_; (focus ((try dsimp only); (try go_keep); done)); clear hHeld hK K; intro hHeld; (try simp only [Act.put, List.setIfInBounds_toArray, List.set_cons_zero, List.set_cons_succ])
  (refine wpAnyH_take (i := 6) (oi := ⟨_, _, _, _, _, _⟩) (v := ?_) rfl (by kernel_rfl) (by kernel_rfl) (by kernel_rfl) (fun _ _ _ h => h) (Or.inl ⟨by rfl, ?_⟩) (by assumption) ?_); rotate_left; (focus (intro w hSw; (try dsimp only at hSw); go_simp; (try with_reducible rfl); done)); (try simp only [Act.put, List.setIfInBounds_toArray, List.set_cons_zero, List.set_cons_succ])
  refine wpAnyH_done (by kernel_rfl) ?_ _
  go_wp2_with fail
  refine bodyPost_ret (v := .bool G) (by simp [results, Try.results12, go_sem]) rfl ⟨rfl, B2.out⟩
set_option maxRecDepth 100000 in
theorem spread_any (v : Int) (I : ByteArray) (s : Int) (m : Nat) (w : World) (hm : m < 256) : Calls Try.prog 14 #[.agg #[.string I, .int .u8 s, .int .u8 m], .int .i64 v] w fun e w' => e = .returned (.bool (sprd v m)) ∧ Below w.heap.size w w' := by
  have HM := Lib.hid (fun W => meant_any v W)
  have HV := is_sprd v m hm
  have HO := Lib.hid (fun b W => open_any v I s m b W hm)
  generalize ((mL v : Nat) : Int) = l at *
  generalize ((mG v : Nat) : Int) = g at *
  generalize ((mM v : Nat) : Int) = p at *
  generalize ((mS v : Nat) : Int) = q at *
  generalize lckd v m = O at *
  generalize sprd v m = G at *
  generalize (m : Int) = M at *
  have hf := fun (W : World) => (show (Instr.field 56 (.agg #[.int .u8 l, .int .u8 g, .int .u8 p, .int .u8 q]) 3).run Try.prog W = .ok (.int .u8 q) W from by kernel_rfl)
  go_enter Try.func14, Try.ntmps14
  go_wp2_with fail
  have Q0 := Lib.hid ((Bk.new w 24 [.string I, .int .u8 s, .int .u8 M]).drew)
  have B0 : Hid (Below w.heap.size w (w.alloc (.cells #[.string I, .int .u8 s, .int .u8 M] 24)).drew) := Lib.hid ((Below.refl _ _).alloc (Nat.le_refl _) _).drew
  have y0 := Q0.out.c 0 _ rfl
  have y1 := Q0.out.c 1 _ rfl
  have y2 := Q0.out.c 2 _ rfl
  refine wp_region_held_drew (S := (fun W => W.cell? ⟨w.heap.size, 0, none⟩ = some (.string I) ∧ W.cell? ⟨w.heap.size, 1, none⟩ = some (.int .u8 s) ∧ W.cell? ⟨w.heap.size, 2, none⟩ = some (.int .u8 M))) (by kernel_rfl) ?_ (fun hHeld => ?_)
  · exact ⟨y0, y1, y2⟩
  (refine wpAnyH_take (i := 0) (oi := ⟨_, _, _, _, _, _⟩) (v := ?_) rfl (by kernel_rfl) (by kernel_rfl) (by kernel_rfl) (fun _ _ _ h => h) (Or.inl ⟨by rfl, ?_⟩) (by assumption) ?_); rotate_left; (focus (intro w hSw; (try dsimp only at hSw); go_simp; (try with_reducible rfl); done)); (try simp only [Act.put, List.setIfInBounds_toArray, List.set_cons_zero, List.set_cons_succ])
  (refine wpAnyH_take (i := 1) (oi := ⟨_, _, _, _, _, _⟩) (v := ?_) rfl (by kernel_rfl) (by kernel_rfl) (by kernel_rfl) (fun _ _ _ h => h) (Or.inl ⟨by rfl, ?_⟩) (by assumption) ?_); rotate_left; (focus (intro w hSw; (try dsimp only at hSw); go_simp; (try with_reducible rfl); done)); (try simp only [Act.put, List.setIfInBounds_toArray, List.set_cons_zero, List.set_cons_succ])
  (refine wpAnyH_take (i := 2) (oi := ⟨_, _, _, _, _, _⟩) (v := ?_) rfl (by kernel_rfl) (by kernel_rfl) (by kernel_rfl) (fun _ _ _ h => h) (Or.inl ⟨by rfl, ?_⟩) (by assumption) ?_); rotate_left; (focus (intro w hSw; (try dsimp only at hSw); go_simp; (try with_reducible rfl); done)); (try simp only [Act.put, List.setIfInBounds_toArray, List.set_cons_zero, List.set_cons_succ])
  refine wpAnyH_ready (rs := [3]) (by kernel_rfl) (by simp) ?_; refine AllReadyH.cons (o := ⟨_, _, _, _, _, _⟩) rfl (fun K hK => ?_) AllReadyH.nil; go_simp
  (go_at_call 32; refine (HM.out _).mono ?_; rintro e6 w6 ⟨rfl, hb6⟩; have Q1 := Lib.hid (Q0.out.below hb6); have B1 := Lib.hid (B0.out.trans (hb6.mono B0.out.size)); have y0 := Q1.out.c 0 _ rfl; have y1 := Q1.out.c 1 _ rfl; have y2 := Q1.out.c 2 _ rfl; clear hb6)
  (try go_wp2_with fail); refine hK.out _ _ ?_ ?_; (focus ((try dsimp only); (try go_keep); done)); clear hHeld hK K; intro hHeld; (try simp only [Act.put, List.setIfInBounds_toArray, List.set_cons_zero, List.set_cons_succ])
  (refine wpAnyH_take (i := 4) (oi := ⟨_, _, _, _, _, _⟩) (v := ?_) rfl (by kernel_rfl) (by kernel_rfl) (by kernel_rfl) (fun _ _ _ h => h) (Or.inl ⟨by rfl, ?_⟩) (by assumption) ?_); rotate_left; (focus (intro w hSw; (try dsimp only at hSw); go_simp; (try with_reducible rfl); done)); (try simp only [Act.put, List.setIfInBounds_toArray, List.set_cons_zero, List.set_cons_succ])
  refine wpAnyH_ready (rs := [5]) (by kernel_rfl) (by simp) ?_; refine AllReadyH.cons (o := ⟨_, _, _, _, _, _⟩) rfl (fun K hK => ?_) AllReadyH.nil; go_simp
  (go_at_call 34; refine (HO.out _ _).mono ?_; rintro e7 w7 ⟨rfl, hb7⟩; have Q2 := Lib.hid (Q1.out.below hb7); have B2 := Lib.hid (B1.out.trans (hb7.mono B1.out.size)); have y0 := Q2.out.c 0 _ rfl; have y1 := Q2.out.c 1 _ rfl; have y2 := Q2.out.c 2 _ rfl; clear hb7)
  (try go_wp2_with fail); refine hK.out _ _ ?_ ?_; (focus ((try dsimp only); (try go_keep); done)); clear hHeld hK K; intro hHeld; (try simp only [Act.put, List.setIfInBounds_toArray, List.set_cons_zero, List.set_cons_succ])
  (refine wpAnyH_take (i := 6) (oi := ⟨_, _, _, _, _, _⟩) (v := ?_) rfl (by kernel_rfl) (by kernel_rfl) (by kernel_rfl) (fun _ _ _ h => h) (Or.inl ⟨by rfl, ?_⟩) (by assumption) ?_); rotate_left; (focus (intro w hSw; (try dsimp only at hSw); go_simp; (try with_reducible rfl); done)); (try simp only [Act.put, List.setIfInBounds_toArray, List.set_cons_zero, List.set_cons_succ])
  refine wpAnyH_done (by kernel_rfl) ?_ _
  go_wp2_with fail
  refine bodyPost_ret (v := .bool G) (by simp [results, Try.results14, go_sem]) rfl ⟨rfl, B2.out⟩
end Go.Proofs.Ytkhajafjieofhaa.fl
