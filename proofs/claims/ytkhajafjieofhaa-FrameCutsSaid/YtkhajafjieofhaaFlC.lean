/- The landed frame: most, sized, flags, ahead, body: contracts. -/
import Derived.Test.YtkhajafjieofhaaFlB
import Derived.Test.YtkhajafjieofhaaFn3
import Derived.Test.YtkhajafjieofhaaJn
namespace Go.Proofs.Ytkhajafjieofhaa.fl
open Go.RowKit Go.Lib
open Go.Proofs.Ytkhajafjieofhaa.un (bs bs_list bs_size bs_app bs_back size_list wrap64)
open Go.Proofs.Ytkhajafjieofhaa.fr Go.Proofs.Ytkhajafjieofhaa.bk
open Go.Proofs.Ytkhajafjieofhaa.fn (vF vH big_one)
set_option linter.unusedVariables false
theorem wrapu {x : Int} (h0 : 0 ≤ x) (h1 : x ≤ 18446744073709551615) : IntKind.u64.wrap x = x := by simp [IntKind.wrap, IntKind.bits, IntKind.signed]; omega
/-- A frame's cells. -/
def cF (f : Fr) (a : Int) : List Value := [.string (bs f.id), .int .u8 (f.st.toNat : Int), .int .u8 (f.fm.toNat : Int), .int .u8 (f.gr.toNat : Int), .string (bs f.bd), .int .i64 a]
def mst (v : Int) : Int := if v = 2 then 16777215 else 268435455
theorem most_any (v : Int) (w : World) : Calls Try.prog 39 #[.int .i64 v] w fun e w' => e = .returned (.int .i64 (mst v)) ∧ w = w' := by
  unfold mst
  by_cases h2 : v = 2
  · subst h2
    go_enter Try.func39, Try.ntmps39
    go_wp2
    go_ret
    exact ⟨rfl, rfl⟩
  obtain ⟨q2, _⟩ := nb h2
  rw [if_neg h2]
  go_enter Try.func39, Try.ntmps39
  go_wp2
  go_ret
  exact ⟨rfl, rfl⟩
set_option maxRecDepth 100000 in
theorem sized_any (v : Int) (n : Nat) (w : World) (hv : v = 2 ∨ v = 3 ∨ v = 4) (hn : n ≤ 100000) : Calls Try.prog 41 #[.int .i64 v, .int .i64 (n : Int)] w fun e w' => e = .returned (.string (bs (siz v n))) ∧ Below w.heap.size w w' := by
  have e1 : IntKind.u64.wrap (n : Int) = (n : Int) := wrapu (by omega) (by omega)
  have H3 := Lib.hid (fun W => oct.big_any n 3 3 W (by omega) (by omega) rfl (by omega))
  have H4 := Lib.hid (fun W => oct.big_any n 4 4 W (by omega) (by omega) rfl (by omega))
  have HS := Lib.hid (fun W => oct.safe_ok n W (by omega))
  have q0 : (0 : Int) ≤ (n : Int) := by omega
  rcases hv with rfl | rfl | rfl
  · change Calls _ _ _ _ fun e w' => e = .returned (.string ⟨(oct.bigL 256 3 n).toArray⟩) ∧ _
    generalize (⟨(oct.bigL 256 3 n).toArray⟩ : ByteArray) = S at *
    generalize (n : Int) = m at *
    go_enter Try.func41, Try.ntmps41
    go_wp2_with (go_at_call 58; refine (H3.out _).mono ?_; rintro e1 w1 ⟨rfl, hb1⟩)
    go_ret
    exact ⟨rfl, hb1⟩
  · change Calls _ _ _ _ fun e w' => e = .returned (.string ⟨(oct.bigL 256 4 n).toArray⟩) ∧ _
    generalize (⟨(oct.bigL 256 4 n).toArray⟩ : ByteArray) = S at *
    generalize (n : Int) = m at *
    go_enter Try.func41, Try.ntmps41
    go_wp2_with (go_at_call 58; refine (H4.out _).mono ?_; rintro e1 w1 ⟨rfl, hb1⟩)
    go_ret
    exact ⟨rfl, hb1⟩
  · change Calls _ _ _ _ fun e w' => e = .returned (.string ⟨(oct.bigL 128 4 n).toArray⟩) ∧ _
    generalize (⟨(oct.bigL 128 4 n).toArray⟩ : ByteArray) = S at *
    generalize (n : Int) = m at *
    go_enter Try.func41, Try.ntmps41
    go_wp2_with (go_at_call 59; refine (HS.out _).mono ?_; rintro e1 w1 ⟨rfl, hb1⟩)
    go_ret
    exact ⟨rfl, hb1⟩
theorem one_bs (c : UInt8) : (⟨(oct.bigL 256 1 c.toNat).toArray⟩ : ByteArray) = bs [c] := by rw [big_one]; rfl
set_option maxRecDepth 100000 in
theorem flags_any (v : Int) (f : Fr) (w : World) : Calls Try.prog 42 #[vH f, .int .i64 v] w fun e w' => e = .returned (.string (bs (flg v f))) ∧ Below w.heap.size w w' := by
  unfold vH
  have hs := UInt8.toNat_lt f.st
  have hf := UInt8.toNat_lt f.fm
  have HBS := Lib.hid (fun W => oct.big_any f.st.toNat 1 1 W (by omega) (by omega) rfl (by omega))
  have HBF := Lib.hid (fun W => oct.big_any f.fm.toNat 1 1 W (by omega) (by omega) rfl (by omega))
  rw [one_bs] at HBS HBF
  have us : IntKind.u64.wrap (f.st.toNat : Int) = (f.st.toNat : Int) := wrapu (by omega) (by omega)
  have uf : IntKind.u64.wrap (f.fm.toNat : Int) = (f.fm.toNat : Int) := wrapu (by omega) (by omega)
  by_cases h2 : v = 2
  · subst h2
    change Calls _ _ _ _ fun e w' => e = .returned (.string ⟨#[]⟩) ∧ _
    generalize ((f.st.toNat : Nat) : Int) = s at *
    generalize ((f.fm.toNat : Nat) : Int) = m at *
    go_enter Try.func42, Try.ntmps42
    go_wp2
    go_ret
    exact ⟨rfl, by repeat (first | (with_reducible exact Below.refl _ _) | (with_reducible refine Below.setCell ?_ (by simp) _) | (with_reducible refine Below.alloc ?_ (by simp) _))⟩
  obtain ⟨q2, _⟩ := nb h2
  have HJ := Lib.hid (fun W => jn.join_2 (bs [f.st]) (bs [f.fm]) W (by rw [bs_size]; simp) (by rw [bs_size]; simp))
  rw [bs_list, bs_list, show [f.st] ++ [f.fm] = flg v f by unfold flg; rw [if_neg h2]; rfl] at HJ
  generalize bs (flg v f) = O at *
  generalize bs [f.st] = X at *
  generalize bs [f.fm] = Y at *
  generalize bs f.id = I at *
  clear hs hf
  generalize ((f.st.toNat : Nat) : Int) = s at *
  generalize ((f.fm.toNat : Nat) : Int) = m at *
  go_enter Try.func42, Try.ntmps42
  go_wp2_with fail
  have Q0 := Lib.hid ((Bk.new w 24 [.string I, .int .u8 s, .int .u8 m]).drew)
  have B0 : Hid (Below w.heap.size w (w.alloc (.cells #[.string I, .int .u8 s, .int .u8 m] 24)).drew) := Lib.hid ((Below.refl _ _).alloc (Nat.le_refl _) _).drew
  have y1 := Q0.out.c 1 _ rfl
  have y2 := Q0.out.c 2 _ rfl
  refine wp_region_held_drew (S := (fun W => W.cell? ⟨w.heap.size, 1, none⟩ = some (.int .u8 s) ∧ W.cell? ⟨w.heap.size, 2, none⟩ = some (.int .u8 m))) (by kernel_rfl) ?_ (fun hHeld => ?_)
  · exact ⟨y1, y2⟩
  (refine wpAnyH_take (i := 0) (oi := ⟨_, _, _, _, _, _⟩) (v := ?_) rfl (by kernel_rfl) (by kernel_rfl) (by kernel_rfl) (fun _ _ _ h => h) (Or.inl ⟨by rfl, ?_⟩) (by assumption) ?_); rotate_left; (focus (intro w hSw; (try dsimp only at hSw); go_simp; (try with_reducible rfl); done)); (try simp only [Act.put, List.setIfInBounds_toArray, List.set_cons_zero, List.set_cons_succ])
  (refine wpAnyH_take (i := 1) (oi := ⟨_, _, _, _, _, _⟩) (v := ?_) rfl (by kernel_rfl) (by kernel_rfl) (by kernel_rfl) (fun _ _ _ h => h) (Or.inl ⟨by rfl, ?_⟩) (by assumption) ?_); rotate_left; (focus (intro w hSw; (try dsimp only at hSw); go_simp; (try with_reducible rfl); done)); (try simp only [Act.put, List.setIfInBounds_toArray, List.set_cons_zero, List.set_cons_succ])
  (refine wpAnyH_take (i := 2) (oi := ⟨_, _, _, _, _, _⟩) (v := ?_) rfl (by kernel_rfl) (by kernel_rfl) (by kernel_rfl) (fun _ _ _ h => h) (Or.inl ⟨by rfl, ?_⟩) (by assumption) ?_); rotate_left; (focus (intro w hSw; (try dsimp only at hSw); go_simp; (try with_reducible rfl); done)); (try simp only [Act.put, List.setIfInBounds_toArray, List.set_cons_zero, List.set_cons_succ])
  (refine wpAnyH_take (i := 4) (oi := ⟨_, _, _, _, _, _⟩) (v := ?_) rfl (by kernel_rfl) (by kernel_rfl) (by kernel_rfl) (fun _ _ _ h => h) (Or.inl ⟨by rfl, ?_⟩) (by assumption) ?_); rotate_left; (focus (intro w hSw; (try dsimp only at hSw); go_simp; (try with_reducible rfl); done)); (try simp only [Act.put, List.setIfInBounds_toArray, List.set_cons_zero, List.set_cons_succ])
  (refine wpAnyH_take (i := 5) (oi := ⟨_, _, _, _, _, _⟩) (v := ?_) rfl (by kernel_rfl) (by kernel_rfl) (by kernel_rfl) (fun _ _ _ h => h) (Or.inl ⟨by rfl, ?_⟩) (by assumption) ?_); rotate_left; (focus (intro w hSw; (try dsimp only at hSw); go_simp; (try with_reducible rfl); done)); (try simp only [Act.put, List.setIfInBounds_toArray, List.set_cons_zero, List.set_cons_succ])
  (refine wpAnyH_take (i := 6) (oi := ⟨_, _, _, _, _, _⟩) (v := ?_) rfl (by kernel_rfl) (by kernel_rfl) (by kernel_rfl) (fun _ _ _ h => h) (Or.inl ⟨by rfl, ?_⟩) (by assumption) ?_); rotate_left; (focus (intro w hSw; (try dsimp only at hSw); go_simp; (try with_reducible rfl); done)); (try simp only [Act.put, List.setIfInBounds_toArray, List.set_cons_zero, List.set_cons_succ])
  refine wpAnyH_ready (rs := [3]) (by kernel_rfl) (by simp) ?_; refine AllReadyH.cons (o := ⟨_, _, _, _, _, _⟩) rfl (fun K hK => ?_) AllReadyH.nil; go_simp
  (go_at_call 58; refine (HBS.out _).mono ?_; rintro e6 w6 ⟨rfl, hb6⟩; have Q1 := Lib.hid (Q0.out.below hb6); have B1 := Lib.hid (B0.out.trans (hb6.mono B0.out.size)); have y1 := Q1.out.c 1 _ rfl; have y2 := Q1.out.c 2 _ rfl; clear hb6)
  (try go_wp2_with fail); refine hK.out _ _ ?_ ?_; (focus ((try dsimp only); (try go_keep); done)); clear hHeld hK K; intro hHeld; (try simp only [Act.put, List.setIfInBounds_toArray, List.set_cons_zero, List.set_cons_succ])
  refine wpAnyH_ready (rs := [7]) (by kernel_rfl) (by simp) ?_; refine AllReadyH.cons (o := ⟨_, _, _, _, _, _⟩) rfl (fun K hK => ?_) AllReadyH.nil; go_simp
  (go_at_call 58; refine (HBF.out _).mono ?_; rintro e7 w7 ⟨rfl, hb7⟩; have Q2 := Lib.hid (Q1.out.below hb7); have B2 := Lib.hid (B1.out.trans (hb7.mono B1.out.size)); have y1 := Q2.out.c 1 _ rfl; have y2 := Q2.out.c 2 _ rfl; clear hb7)
  (try go_wp2_with fail); refine hK.out _ _ ?_ ?_; (focus ((try dsimp only); (try go_keep); done)); clear hHeld hK K; intro hHeld; (try simp only [Act.put, List.setIfInBounds_toArray, List.set_cons_zero, List.set_cons_succ])
  refine wpAnyH_ready (rs := [8]) (by kernel_rfl) (by simp) ?_; refine AllReadyH.cons (o := ⟨_, _, _, _, _, _⟩) rfl (fun K hK => ?_) AllReadyH.nil; go_simp
  (try go_wp2_with fail); refine hK.out _ _ ?_ ?_; (focus ((try dsimp only); (try go_keep); done)); clear hHeld hK K; intro hHeld; (try simp only [Act.put, List.setIfInBounds_toArray, List.set_cons_zero, List.set_cons_succ])
  refine wpAnyH_ready (rs := [9]) (by kernel_rfl) (by simp) ?_; refine AllReadyH.cons (o := ⟨_, _, _, _, _, _⟩) rfl (fun K hK => ?_) AllReadyH.nil; go_simp
  (go_at_call 40; refine (HJ.out _).mono ?_; rintro e8 w8 ⟨rfl, hb8⟩; have Q3 := Lib.hid ((Q2.out.alloc _).below hb8); have B3 : Hid (Below w.heap.size w w8) := Lib.hid ((B2.out.alloc B2.out.size (.cells #[.string X, .string Y] 9)).trans (hb8.mono (by rw [World.size_alloc]; have := B2.out.size; omega))); have y1 := Q3.out.c 1 _ rfl; have y2 := Q3.out.c 2 _ rfl; clear hb8)
  (try go_wp2_with fail); refine hK.out _ _ ?_ ?_; (focus ((try dsimp only); (try go_keep); done)); clear hHeld hK K; intro hHeld; (try simp only [Act.put, List.setIfInBounds_toArray, List.set_cons_zero, List.set_cons_succ])
  (refine wpAnyH_take (i := 10) (oi := ⟨_, _, _, _, _, _⟩) (v := ?_) rfl (by kernel_rfl) (by kernel_rfl) (by kernel_rfl) (fun _ _ _ h => h) (Or.inl ⟨by rfl, ?_⟩) (by assumption) ?_); rotate_left; (focus (intro w hSw; (try dsimp only at hSw); go_simp; (try with_reducible rfl); done)); (try simp only [Act.put, List.setIfInBounds_toArray, List.set_cons_zero, List.set_cons_succ])
  refine wpAnyH_done (by kernel_rfl) ?_ _
  go_wp2_with fail
  go_ret
  exact ⟨rfl, B3.out⟩
/-- What stands in the data ahead of the Body. -/
def ahd (v : Int) (f : Fr) : List UInt8 := (if grpd v f.fm.toNat then [f.gr] else []) ++ (if msrd v f.fm.toNat then oct.bigL 128 4 f.bd.length else [])
set_option maxRecDepth 100000 in
set_option maxHeartbeats 1000000 in
theorem ahead_any (v : Int) (f : Fr) (a : Int) (w : World) (hb : f.bd.length ≤ 4000) : Calls Try.prog 37 #[vF f a, .int .i64 v] w fun e w' => e = .returned (.string (bs (ahd v f))) ∧ Below w.heap.size w w' := by
  unfold vF
  have hgr := UInt8.toNat_lt f.gr
  have hfm := UInt8.toNat_lt f.fm
  have HG := Lib.hid (fun W => grouped_any v (bs f.id) (f.st.toNat : Int) f.fm.toNat W (by omega))
  have HM := Lib.hid (fun W => measured_any v (bs f.id) (f.st.toNat : Int) f.fm.toNat W (by omega))
  have HBG := Lib.hid (fun W => oct.big_any f.gr.toNat 1 1 W (by omega) (by omega) rfl (by omega))
  rw [one_bs] at HBG
  have HS := Lib.hid (fun W => oct.safe_ok f.bd.length W (by omega))
  change Hid (∀ W : World, Calls _ _ _ W fun e w' => e = .returned (.tuple #[.string (bs (oct.bigL 128 4 f.bd.length)), .bool true]) ∧ _) at HS
  have ug : IntKind.u64.wrap (f.gr.toNat : Int) = (f.gr.toNat : Int) := wrapu (by omega) (by omega)
  have us : IntKind.u64.wrap (f.bd.length : Int) = (f.bd.length : Int) := wrapu (by omega) (by omega)
  have hz : (((bs f.bd).size : Nat) : Int) = (f.bd.length : Int) := by rw [bs_size]
  obtain ⟨X, hX⟩ : ∃ X : ByteArray, X = if grpd v f.fm.toNat then bs [f.gr] else ⟨#[]⟩ := ⟨_, rfl⟩
  obtain ⟨Y, hY⟩ : ∃ Y : ByteArray, Y = if msrd v f.fm.toNat then bs (oct.bigL 128 4 f.bd.length) else ⟨#[]⟩ := ⟨_, rfl⟩
  have hXs : X.size ≤ 10000 := by rw [hX]; split; rw [bs_size]; simp; decide
  have hYs : Y.size ≤ 10000 := by rw [hY]; split; rw [bs_size, oct.bigL_len]; omega; decide
  have hXl : X.data.toList = if grpd v f.fm.toNat then [f.gr] else [] := by rw [hX]; split <;> rfl
  have hYl : Y.data.toList = if msrd v f.fm.toNat then oct.bigL 128 4 f.bd.length else [] := by rw [hY]; split; rw [bs_list]; rfl
  have HJ := Lib.hid (fun W => jn.join_2 X Y W hXs hYs)
  rw [hXl, hYl, show _ ++ _ = ahd v f from rfl] at HJ
  clear hXl hYl hXs hYs hgr hfm hb
  generalize bs (ahd v f) = O at *
  generalize bs [f.gr] = T at *
  generalize bs (oct.bigL 128 4 f.bd.length) = U at *
  generalize grpd v f.fm.toNat = G at *
  generalize msrd v f.fm.toNat = E at *
  generalize bs f.id = I at *
  generalize bs f.bd = B at *
  generalize ((f.st.toNat : Nat) : Int) = s at *
  generalize ((f.fm.toNat : Nat) : Int) = m at *
  generalize ((f.gr.toNat : Nat) : Int) = g at *
  generalize (f.bd.length : Int) = L at *
  have Q0 := Lib.hid (Bk.new w 31 [.string I, .int .u8 s, .int .u8 m, .int .u8 g, .string B, .int .i64 a])
  have B0 : Hid (Below w.heap.size w (w.alloc (.cells #[.string I, .int .u8 s, .int .u8 m, .int .u8 g, .string B, .int .i64 a] 31))) := Lib.hid ((Below.refl _ _).alloc (Nat.le_refl _) _)
  rcases (show G = true ∧ E = true ∨ G = true ∧ E = false ∨ G = false ∧ E = true ∨ G = false ∧ E = false by cases G <;> cases E <;> simp) with ⟨rfl, rfl⟩ | ⟨rfl, rfl⟩ | ⟨rfl, rfl⟩ | ⟨rfl, rfl⟩
  · obtain rfl : X = T := by rw [hX]; rfl
    obtain rfl : Y = U := by rw [hY]; rfl
    clear hX hY
    go_enter Try.func37, Try.ntmps37
    go_wp2_with (first
      | (go_at_call 10; refine (HG.out _).mono ?_; rintro e1 w1 ⟨rfl, hb1⟩; have Q1 := Lib.hid (Q0.out.below hb1); have B1 := Lib.hid (B0.out.trans (hb1.mono B0.out.size)); have y0 := Q1.out.c 0 _ rfl; have y1 := Q1.out.c 1 _ rfl; have y2 := Q1.out.c 2 _ rfl; have y3 := Q1.out.c 3 _ rfl; have y4 := Q1.out.c 4 _ rfl; clear hb1)
      | (go_at_call 58; refine (HBG.out _).mono ?_; rintro e2 w2 ⟨rfl, hb2⟩; have Q2 := Lib.hid (Q1.out.below hb2); have B2 := Lib.hid (B1.out.trans (hb2.mono B1.out.size)); have y0 := Q2.out.c 0 _ rfl; have y1 := Q2.out.c 1 _ rfl; have y2 := Q2.out.c 2 _ rfl; have y3 := Q2.out.c 3 _ rfl; have y4 := Q2.out.c 4 _ rfl; clear hb2)
      | (go_at_call 12; refine (HM.out _).mono ?_; rintro e3 w3 ⟨rfl, hb3⟩; have Q3 := Lib.hid (Q2.out.below hb3); have B3 := Lib.hid (B2.out.trans (hb3.mono B2.out.size)); have y0 := Q3.out.c 0 _ rfl; have y1 := Q3.out.c 1 _ rfl; have y2 := Q3.out.c 2 _ rfl; have y3 := Q3.out.c 3 _ rfl; have y4 := Q3.out.c 4 _ rfl; clear hb3)
      | (go_at_call 59; refine (HS.out _).mono ?_; rintro e4 w4 ⟨rfl, hb4⟩; have Q4 := Lib.hid (Q3.out.below hb4); have B4 := Lib.hid (B3.out.trans (hb4.mono B3.out.size)); have y0 := Q4.out.c 0 _ rfl; have y1 := Q4.out.c 1 _ rfl; have y2 := Q4.out.c 2 _ rfl; have y3 := Q4.out.c 3 _ rfl; have y4 := Q4.out.c 4 _ rfl; clear hb4)
      | (go_at_call 40; refine (HJ.out _).mono ?_; rintro e9 w9 ⟨rfl, hb9⟩; have B9 : Hid (Below w.heap.size w w9) := Lib.hid ((B4.out.alloc B4.out.size _).trans (hb9.mono (by rw [World.size_alloc]; have := B4.out.size; omega))); clear hb9))
    go_ret
    exact ⟨rfl, B9.out⟩
  · obtain rfl : X = T := by rw [hX]; rfl
    obtain rfl : Y = ⟨#[]⟩ := by rw [hY]; rfl
    clear hX hY
    go_enter Try.func37, Try.ntmps37
    go_wp2_with (first
      | (go_at_call 10; refine (HG.out _).mono ?_; rintro e1 w1 ⟨rfl, hb1⟩; have Q1 := Lib.hid (Q0.out.below hb1); have B1 := Lib.hid (B0.out.trans (hb1.mono B0.out.size)); have y0 := Q1.out.c 0 _ rfl; have y1 := Q1.out.c 1 _ rfl; have y2 := Q1.out.c 2 _ rfl; have y3 := Q1.out.c 3 _ rfl; have y4 := Q1.out.c 4 _ rfl; clear hb1)
      | (go_at_call 58; refine (HBG.out _).mono ?_; rintro e2 w2 ⟨rfl, hb2⟩; have Q2 := Lib.hid (Q1.out.below hb2); have B2 := Lib.hid (B1.out.trans (hb2.mono B1.out.size)); have y0 := Q2.out.c 0 _ rfl; have y1 := Q2.out.c 1 _ rfl; have y2 := Q2.out.c 2 _ rfl; have y3 := Q2.out.c 3 _ rfl; have y4 := Q2.out.c 4 _ rfl; clear hb2)
      | (go_at_call 12; refine (HM.out _).mono ?_; rintro e3 w3 ⟨rfl, hb3⟩; have Q3 := Lib.hid (Q2.out.below hb3); have B3 := Lib.hid (B2.out.trans (hb3.mono B2.out.size)); have y0 := Q3.out.c 0 _ rfl; have y1 := Q3.out.c 1 _ rfl; have y2 := Q3.out.c 2 _ rfl; have y3 := Q3.out.c 3 _ rfl; have y4 := Q3.out.c 4 _ rfl; clear hb3)
      | (go_at_call 40; refine (HJ.out _).mono ?_; rintro e9 w9 ⟨rfl, hb9⟩; have B9 : Hid (Below w.heap.size w w9) := Lib.hid ((B3.out.alloc B3.out.size _).trans (hb9.mono (by rw [World.size_alloc]; have := B3.out.size; omega))); clear hb9))
    go_ret
    exact ⟨rfl, B9.out⟩
  · obtain rfl : X = ⟨#[]⟩ := by rw [hX]; rfl
    obtain rfl : Y = U := by rw [hY]; rfl
    clear hX hY
    go_enter Try.func37, Try.ntmps37
    go_wp2_with (first
      | (go_at_call 10; refine (HG.out _).mono ?_; rintro e1 w1 ⟨rfl, hb1⟩; have Q1 := Lib.hid (Q0.out.below hb1); have B1 := Lib.hid (B0.out.trans (hb1.mono B0.out.size)); have y0 := Q1.out.c 0 _ rfl; have y1 := Q1.out.c 1 _ rfl; have y2 := Q1.out.c 2 _ rfl; have y3 := Q1.out.c 3 _ rfl; have y4 := Q1.out.c 4 _ rfl; clear hb1)
      | (go_at_call 12; refine (HM.out _).mono ?_; rintro e2 w2 ⟨rfl, hb2⟩; have Q2 := Lib.hid (Q1.out.below hb2); have B2 := Lib.hid (B1.out.trans (hb2.mono B1.out.size)); have y0 := Q2.out.c 0 _ rfl; have y1 := Q2.out.c 1 _ rfl; have y2 := Q2.out.c 2 _ rfl; have y3 := Q2.out.c 3 _ rfl; have y4 := Q2.out.c 4 _ rfl; clear hb2)
      | (go_at_call 59; refine (HS.out _).mono ?_; rintro e3 w3 ⟨rfl, hb3⟩; have Q3 := Lib.hid (Q2.out.below hb3); have B3 := Lib.hid (B2.out.trans (hb3.mono B2.out.size)); have y0 := Q3.out.c 0 _ rfl; have y1 := Q3.out.c 1 _ rfl; have y2 := Q3.out.c 2 _ rfl; have y3 := Q3.out.c 3 _ rfl; have y4 := Q3.out.c 4 _ rfl; clear hb3)
      | (go_at_call 40; refine (HJ.out _).mono ?_; rintro e9 w9 ⟨rfl, hb9⟩; have B9 : Hid (Below w.heap.size w w9) := Lib.hid ((B3.out.alloc B3.out.size _).trans (hb9.mono (by rw [World.size_alloc]; have := B3.out.size; omega))); clear hb9))
    go_ret
    exact ⟨rfl, B9.out⟩
  · obtain rfl : X = ⟨#[]⟩ := by rw [hX]; rfl
    obtain rfl : Y = ⟨#[]⟩ := by rw [hY]; rfl
    clear hX hY
    go_enter Try.func37, Try.ntmps37
    go_wp2_with (first
      | (go_at_call 10; refine (HG.out _).mono ?_; rintro e1 w1 ⟨rfl, hb1⟩; have Q1 := Lib.hid (Q0.out.below hb1); have B1 := Lib.hid (B0.out.trans (hb1.mono B0.out.size)); have y0 := Q1.out.c 0 _ rfl; have y1 := Q1.out.c 1 _ rfl; have y2 := Q1.out.c 2 _ rfl; have y3 := Q1.out.c 3 _ rfl; have y4 := Q1.out.c 4 _ rfl; clear hb1)
      | (go_at_call 12; refine (HM.out _).mono ?_; rintro e2 w2 ⟨rfl, hb2⟩; have Q2 := Lib.hid (Q1.out.below hb2); have B2 := Lib.hid (B1.out.trans (hb2.mono B1.out.size)); have y0 := Q2.out.c 0 _ rfl; have y1 := Q2.out.c 1 _ rfl; have y2 := Q2.out.c 2 _ rfl; have y3 := Q2.out.c 3 _ rfl; have y4 := Q2.out.c 4 _ rfl; clear hb2)
      | (go_at_call 40; refine (HJ.out _).mono ?_; rintro e9 w9 ⟨rfl, hb9⟩; have B9 : Hid (Below w.heap.size w w9) := Lib.hid ((B2.out.alloc B2.out.size _).trans (hb9.mono (by rw [World.size_alloc]; have := B2.out.size; omega))); clear hb9))
    go_ret
    exact ⟨rfl, B9.out⟩
set_option maxRecDepth 100000 in
theorem body_any {K : World → Prop} (u : un.Un K) (v : Int) (f : Fr) (a : Int) (w : World) (hK : K w) (hb : f.bd.length ≤ 4000) : Calls Try.prog 43 #[vF f a, .int .i64 v] w fun e w' => e = .returned (.string (bs (if sprd v f.fm.toNat then un.putL f.bd else f.bd))) ∧ Below w.heap.size w w' := by
  unfold vF
  have hfm := UInt8.toNat_lt f.fm
  have HS := Lib.hid (fun W => spread_any v (bs f.id) (f.st.toNat : Int) f.fm.toNat W (by omega))
  have HK : Hid (∀ W, Below w.heap.size w W → K W) := Lib.hid (fun W h => u.stay w W hK h)
  have HP := Lib.hid (fun W h => u.put (bs f.bd) W h (by rw [bs_size]; exact hb))
  rw [bs_list] at HP
  clear hfm hb hK
  obtain ⟨T, hT⟩ : ∃ T, T = bs (un.putL f.bd) := ⟨_, rfl⟩
  rw [← hT] at HP
  have e : bs (if sprd v f.fm.toNat then un.putL f.bd else f.bd) = if sprd v f.fm.toNat then T else bs f.bd := by rw [hT]; split <;> rfl
  rw [e]
  clear e hT
  generalize sprd v f.fm.toNat = G at *
  generalize bs f.id = I at *
  generalize bs f.bd = B at *
  generalize ((f.st.toNat : Nat) : Int) = s at *
  generalize ((f.fm.toNat : Nat) : Int) = m at *
  generalize ((f.gr.toNat : Nat) : Int) = g at *
  have Q0 := Lib.hid (Bk.new w 31 [.string I, .int .u8 s, .int .u8 m, .int .u8 g, .string B, .int .i64 a])
  have B0 : Hid (Below w.heap.size w (w.alloc (.cells #[.string I, .int .u8 s, .int .u8 m, .int .u8 g, .string B, .int .i64 a] 31))) := Lib.hid ((Below.refl _ _).alloc (Nat.le_refl _) _)
  cases G with
  | true =>
    change Calls _ _ _ _ fun e w' => e = .returned (.string T) ∧ _
    go_enter Try.func43, Try.ntmps43
    go_wp2_with (first
      | (go_at_call 14; refine (HS.out _).mono ?_; rintro e1 w1 ⟨rfl, hb1⟩; have Q1 := Lib.hid (Q0.out.below hb1); have B1 := Lib.hid (B0.out.trans (hb1.mono B0.out.size)); have y0 := Q1.out.c 0 _ rfl; have y1 := Q1.out.c 1 _ rfl; have y2 := Q1.out.c 2 _ rfl; have y3 := Q1.out.c 3 _ rfl; have y4 := Q1.out.c 4 _ rfl; clear hb1)
      | (go_at_call 62; refine (HP.out _ (HK.out _ B1.out)).mono ?_; rintro e2 w2 ⟨rfl, hb2⟩))
    go_ret
    exact ⟨rfl, B1.out.trans (hb2.mono B1.out.size)⟩
  | false =>
    change Calls _ _ _ _ fun e w' => e = .returned (.string B) ∧ _
    go_enter Try.func43, Try.ntmps43
    go_wp2_with (go_at_call 14; refine (HS.out _).mono ?_; rintro e1 w1 ⟨rfl, hb1⟩; have Q1 := Lib.hid (Q0.out.below hb1); have B1 := Lib.hid (B0.out.trans (hb1.mono B0.out.size)); have y0 := Q1.out.c 0 _ rfl; have y1 := Q1.out.c 1 _ rfl; have y2 := Q1.out.c 2 _ rfl; have y3 := Q1.out.c 3 _ rfl; have y4 := Q1.out.c 4 _ rfl; clear hb1)
    go_ret
    exact ⟨rfl, B1.out⟩
end Go.Proofs.Ytkhajafjieofhaa.fl
