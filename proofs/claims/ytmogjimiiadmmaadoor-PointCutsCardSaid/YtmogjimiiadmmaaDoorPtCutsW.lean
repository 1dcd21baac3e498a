/- The walk of the law PointCuts of layer 2. -/
import Derived.Test.YtmogjimiiadmmaaDoorPt13
import Derived.Test.YtmogjimiiadmmaaDoorPtReadsW
import Derived.Deep.RegionHeld3
import Derived.Deep.DeepCutAuto
namespace Go.Proofs.YtmogjimiiadmmaaDoor.pt
open Go.RowKit Go.Lib
set_option linter.unusedVariables false
theorem sc_fuel (s : ByteArray) : ∀ f g pos, s.size ≤ pos + f → s.size ≤ pos + g → sc s f pos = sc s g pos
  | 0, g, pos, h, _ => by rw [sc_end s 0 pos (by omega), sc_end s g pos (by omega)]
  | f + 1, 0, pos, _, h => by rw [sc_end s 0 pos (by omega), sc_end s (f + 1) pos (by omega)]
  | f + 1, g + 1, pos, h1, h2 => by
    by_cases hp : pos < s.size
    · cases hb : bad s pos with
      | true => simp [sc, hp, hb]
      | false =>
        have hw := width_pos s pos
        rw [sc_good s f pos hp hb, sc_good s g pos hp hb, sc_fuel s f g (pos + (Utf8.decode s pos).2) (by omega) (by omega)]
    · rw [sc_end s (f + 1) pos hp, sc_end s (g + 1) pos hp]
theorem sc_shift (t s : ByteArray) (k : Nat) (hk : t.extract k t.size = s) (hkt : k ≤ t.size) : ∀ f pos, (sc t f (k + pos)).2 = ((sc s f pos).2).map (k + ·)
  | 0, pos => rfl
  | f + 1, pos => by
    have hz : s.size = t.size - k := by rw [← hk, ByteArray.size_extract]; omega
    have hd : Utf8.decode s pos = Utf8.decode t (k + pos) := by rw [← hk, tail_decode]
    have hb : bad s pos = bad t (k + pos) := by unfold bad; rw [hd]
    by_cases hp : pos < s.size
    · cases hb2 : bad s pos with
      | true =>
        have hb3 := hb ▸ hb2
        simp [sc, hp, hb2, hb3, show k + pos < t.size by omega]
      | false =>
        have hb3 := hb ▸ hb2
        rw [sc_good s f pos hp hb2, sc_good t f (k + pos) (by omega) hb3, ← hd]
        have ih := sc_shift t s k hk hkt f (pos + (Utf8.decode s pos).2)
        rw [← Nat.add_assoc] at ih
        exact ih
    · rw [sc_end s (f + 1) pos hp, sc_end t (f + 1) (k + pos) (by omega)]; rfl
theorem data_app (t s : ByteArray) : (t ++ s).data.toList = t.data.toList ++ s.data.toList := by simp
theorem ext_app (t s : ByteArray) : (t ++ s).extract t.size (t ++ s).size = s := by
  apply ByteArray.ext
  have h1 : t.data.extract t.size (t.size + s.size) = #[] := by
    apply Array.eq_empty_of_size_eq_zero
    have e : t.data.size = t.size := rfl
    rw [Array.size_extract]; omega
  have h2 : s.data.extract 0 s.size = s.data := Array.extract_size (xs := s.data)
  simp [h1, h2]
theorem scan_app (zs : List Int) (hv : zs.all validRune = true) (s : ByteArray) : (scan (txt zs ++ s)).2 = ((scan s).2).map ((txt zs).size + ·) := by
  have hz : (txt zs ++ s).size = (txt zs).size + s.size := ByteArray.size_append
  have h := (sc_ahead (txt zs ++ s) s.data.toList zs (txt zs ++ s).size 0 (by unfold Ahead; rw [List.drop_zero, data_app, txt_data]) (by omega) (by omega) hv).1
  have h2 : (scan (txt zs ++ s)).2 = (sc (txt zs ++ s) ((txt zs ++ s).size - zs.length) (0 + (nums zs).length)).2 := h
  have hle : zs.length ≤ (nums zs).length := by
    clear h h2 hz hv
    induction zs with
    | nil => simp
    | cons x zs ih => have := (encodeRuneZ_length x).1; have e : (nums (x :: zs)).length = (encodeRuneZ x).length + (nums zs).length := by simp [nums]
                      rw [e, List.length_cons]; omega
  have hsz := txt_size zs
  rw [h2, sc_fuel _ _ s.size _ (by omega) (by omega)]
  have h3 := sc_shift (txt zs ++ s) s (txt zs).size (ext_app _ _) (by omega) s.size 0
  rw [Nat.add_zero] at h3
  rw [Nat.zero_add, ← hsz]
  exact h3
set_option maxRecDepth 100000 in
theorem cuts_big (p : Option Addr) (n c : Nat) (s : ByteArray) (w : World) (hbig : 200 < n) (hn : n ≤ 9223372036854775807) (hT : Tabs w) : Calls Tryd.prog 4 #[.slice p n c, .string s] w fun e w' => e = .returned (.bool true) ∧ Below w.heap.size w w' := by
  have HA := Lib.hid (awake_any w hT)
  clear hT
  go_enter Tryd.func4, Tryd.ntmps4
  go_wp2_with (go_at_call 9; refine HA.out.mono ?_; rintro e1 w1 ⟨rfl, hb1⟩)
  go_ret
  exact ⟨rfl, hb1⟩
set_option maxRecDepth 100000 in
theorem cuts_big2 (p : Option Addr) (n c : Nat) (s : ByteArray) (w : World) (hn : n ≤ 200) (hbig : 500 < s.size) (hs : s.size ≤ 9223372036854775807) (hT : Tabs w) : Calls Tryd.prog 4 #[.slice p n c, .string s] w fun e w' => e = .returned (.bool true) ∧ Below w.heap.size w w' := by
  have HA := Lib.hid (awake_any w hT)
  clear hT
  go_enter Tryd.func4, Tryd.ntmps4
  go_wp2_with (go_at_call 9; refine HA.out.mono ?_; rintro e1 w1 ⟨rfl, hb1⟩)
  go_ret
  exact ⟨rfl, hb1⟩
set_option maxRecDepth 100000 in
theorem cuts_bad (p : Option Addr) (n c : Nat) (zs : List Int) (s : ByteArray) (w : World) (hr : RowI w p n c zs) (hn : n ≤ 200) (hs : s.size ≤ 500) (hT : Tabs w) (hv : zs.all validRune = false) : Calls Tryd.prog 4 #[.slice p n c, .string s] w fun e w' => e = .returned (.bool true) ∧ Below w.heap.size w w' := by
  have htx := text_row p n c zs w hr (by omega)
  rw [hv] at htx
  have HTX := Lib.hid htx; have HT := Lib.hid hT
  clear htx hT hr hv
  go_enter Tryd.func4, Tryd.ntmps4
  go_wp2_with (first | (go_at_call 10; refine HTX.out.mono ?_; rintro e1 w1 ⟨rfl, hb1⟩) | (go_at_call 9; refine (awake_any _ (HT.out.below hb1)).mono ?_; rintro e2 w2 ⟨rfl, hb2⟩))
  go_ret
  exact ⟨rfl, hb1.trans (hb2.mono hb1.size)⟩
/-- What holds while the law compares. -/
structure Gc (w : World) (X : Nat) (e f g : Int) (W : World) : Prop where
  f : F2 W X e f
  g : F2 W (X + 1) e g
  t : Tabs W
  bel : Below w.heap.size w W
theorem Gc.below {w : World} {X : Nat} {e f g : Int} {W W' : World} (h : Gc w X e f g W) (hb : Below W.heap.size W W') : Gc w X e f g W' :=
  ⟨h.f.below hb h.f.lt, h.g.below hb h.g.lt, h.t.below hb, h.bel.trans (hb.mono h.bel.size)⟩
theorem bad_no (w : World) (at' : Int) : Calls Tryd.prog 15 #[.agg #[.int .i64 0, .int .i64 at']] w fun x w' => x = .returned (.bool false) ∧ Below w.heap.size w w' := bad_any w 0 at'
set_option maxRecDepth 100000 in
set_option maxHeartbeats 1000000 in
theorem cuts_none (p : Option Addr) (n c : Nat) (zs : List Int) (s : ByteArray) (w : World) (hr : RowI w p n c zs) (hn : n ≤ 200) (hs : s.size ≤ 500) (hT : Tabs w) (hv : zs.all validRune = true) (h : (scan s).2 = none) : Calls Tryd.prog 4 #[.slice p n c, .string s] w fun e w' => e = .returned (.bool true) ∧ Below w.heap.size w w' := by
  have htx := text_row p n c zs w hr (by omega)
  rw [hv, if_pos rfl] at htx
  have hz := nums_len zs
  have hsz := txt_size zs
  rw [hr.len] at hz
  have hts : (txt zs).size ≤ 800 := by omega
  have hap := scan_app zs hv s
  rw [h] at hap
  have hc1 := fun w2 hT2 => check_any s w2 (by omega) hT2
  have hc2 := fun w2 hT2 => check_any (txt zs ++ s) w2 (by rw [ByteArray.size_append]; omega) hT2
  rw [h] at hc1
  rw [hap] at hc2
  simp only [fe, fa, Option.map_none] at hc1 hc2
  generalize txt zs = T at *
  have HTX := Lib.hid htx; have HT := Lib.hid hT; have HC1 := Lib.hid hc1; have HC2 := Lib.hid hc2
  clear htx hT hr hv hz hsz hap hc1 hc2 h
  go_enter Tryd.func4, Tryd.ntmps4
  go_wp2_with (first | (go_at_call 10; refine HTX.out.mono ?_; rintro e1 w1 ⟨rfl, hb1⟩; have B1 := Lib.hid hb1; clear hb1) | (go_at_call 18; with_reducible refine (HC1.out _ (HT.out.below B1.out)).mono ?_; rintro e2 w2 ⟨rfl, hb2⟩; have B2 := Lib.hid (B1.out.trans (hb2.mono B1.out.size))) | (go_at_call 18; with_reducible refine (HC2.out _ (HT.out.below B2.out)).mono ?_; rintro e3 w3 ⟨rfl, hb3⟩; have B3 := Lib.hid (B2.out.trans (hb3.mono B2.out.size))))
  have hA : Below w3.heap.size w3 (w3.alloc (.cells #[.int .i64 0, .int .i64 0] 29)) := (Below.refl _ _).alloc (Nat.le_refl _) _
  have hB : Below (w3.alloc (.cells #[.int .i64 0, .int .i64 0] 29)).heap.size (w3.alloc (.cells #[.int .i64 0, .int .i64 0] 29)) ((w3.alloc (.cells #[.int .i64 0, .int .i64 0] 29)).alloc (.cells #[.int .i64 0, .int .i64 0] 29)) := (Below.refl _ _).alloc (Nat.le_refl _) _
  have hF := (f2_new w3 0 0 29).below hB (by simp)
  have hG := f2_new (w3.alloc (.cells #[.int .i64 0, .int .i64 0] 29)) 0 0 29
  rw [World.size_alloc] at hG
  obtain ⟨W, hW⟩ : ∃ W, W = (w3.alloc (.cells #[.int .i64 0, .int .i64 0] 29)).alloc (.cells #[.int .i64 0, .int .i64 0] 29) := ⟨_, rfl⟩
  have hWb : Below w.heap.size w W := by rw [hW]; exact (B3.out.trans (hA.mono B3.out.size)).trans (hB.mono (by have := B3.out.size; simp; omega))
  rw [← hW] at hF hG ⊢
  have G2 : Hid (Gc w w3.heap.size 0 0 0 W.drew) := by
    have hD : Below W.heap.size W W.drew := (Below.refl _ _).drew
    exact Lib.hid ⟨hF.below hD hF.lt, hG.below hD hG.lt, (HT.out.below hWb).below hD, hWb.drew⟩
  obtain ⟨_, c0, c1, _, _⟩ := hF
  obtain ⟨_, d0, d1, _, _⟩ := hG
  clear hA hB hW hWb
  obtain ⟨X, hX⟩ : ∃ X, X = w3.heap.size := ⟨_, rfl⟩
  rw [← hX] at c0 c1 d0 d1 G2 ⊢
  clear hX
  refine wp_region_held_drew (S := fun w' => w'.cell? ⟨X, 0, none⟩ = some (.int .i64 0) ∧ w'.cell? ⟨X, 1, none⟩ = some (.int .i64 0) ∧ w'.cell? ⟨X + 1, 0, none⟩ = some (.int .i64 0) ∧ w'.cell? ⟨X + 1, 1, none⟩ = some (.int .i64 0)) (by kernel_rfl) ?_ (fun hHeld => ?_)
  · go_keep
  refine wpAnyH_ready (rs := [0]) (by kernel_rfl) (by simp) ?_; refine AllReadyH.cons (o := ⟨_, _, _, _, _, _⟩) rfl (fun K hK => ?_) AllReadyH.nil; go_simp
  (go_at_call 9; refine (awake_any _ G2.out.t).mono ?_; rintro e4 w4 ⟨rfl, hb4⟩; have G3 := Lib.hid (G2.out.below hb4); obtain ⟨_, k0, k1, _, _⟩ := G3.out.f; obtain ⟨_, l0, l1, _, _⟩ := G3.out.g)
  (try go_wp2_with fail); refine hK.out _ _ ?_ ?_; (focus ((try dsimp only); (try go_keep); done)); clear hHeld hK K; intro hHeld; (try simp only [Act.put, List.setIfInBounds_toArray, List.set_cons_zero, List.set_cons_succ])
  (refine wpAnyH_take (i := 1) (oi := ⟨_, _, _, _, _, _⟩) (v := ?_) rfl (by kernel_rfl) (by kernel_rfl) (by kernel_rfl) (fun _ _ _ h => h) (Or.inl ⟨by rfl, ?_⟩) (by assumption) ?_); rotate_left; (focus (intro w hSw; (try dsimp only at hSw); go_simp; (try with_reducible rfl); done)); (try simp only [Act.put, List.setIfInBounds_toArray, List.set_cons_zero, List.set_cons_succ])
  (refine wpAnyH_take (i := 2) (oi := ⟨_, _, _, _, _, _⟩) (v := ?_) rfl (by kernel_rfl) (by kernel_rfl) (by kernel_rfl) (fun _ _ _ h => h) (Or.inl ⟨by rfl, ?_⟩) (by assumption) ?_); rotate_left; (focus (intro w hSw; (try dsimp only at hSw); go_simp; (try with_reducible rfl); done)); (try simp only [Act.put, List.setIfInBounds_toArray, List.set_cons_zero, List.set_cons_succ])
  (refine wpAnyH_take (i := 4) (oi := ⟨_, _, _, _, _, _⟩) (v := ?_) rfl (by kernel_rfl) (by kernel_rfl) (by kernel_rfl) (fun _ _ _ h => h) (Or.inl ⟨by rfl, ?_⟩) (by assumption) ?_); rotate_left; (focus (intro w hSw; (try dsimp only at hSw); go_simp; (try with_reducible rfl); done)); (try simp only [Act.put, List.setIfInBounds_toArray, List.set_cons_zero, List.set_cons_succ])
  refine wpAnyH_ready (rs := [3]) (by kernel_rfl) (by simp) ?_; refine AllReadyH.cons (o := ⟨_, _, _, _, _, _⟩) rfl (fun K hK => ?_) AllReadyH.nil; go_simp
  (go_at_call 15; refine (bad_no _ _).mono ?_; rintro e5 w5 ⟨rfl, hb5⟩; have G4 := Lib.hid (G3.out.below hb5); obtain ⟨_, k0, k1, _, _⟩ := G4.out.f; obtain ⟨_, l0, l1, _, _⟩ := G4.out.g)
  (try go_wp2_with fail); refine hK.out _ _ ?_ ?_; (focus ((try dsimp only); (try go_keep); done)); clear hHeld hK K; intro hHeld; (try simp only [Act.put, List.setIfInBounds_toArray, List.set_cons_zero, List.set_cons_succ])
  refine wpAnyH_ready (rs := [5]) (by kernel_rfl) (by simp) ?_; refine AllReadyH.cons (o := ⟨_, _, _, _, _, _⟩) rfl (fun K hK => ?_) AllReadyH.nil; go_simp
  (go_at_call 15; refine (bad_no _ _).mono ?_; rintro e6 w6 ⟨rfl, hb6⟩; have G5 := Lib.hid (G4.out.below hb6); obtain ⟨_, k0, k1, _, _⟩ := G5.out.f; obtain ⟨_, l0, l1, _, _⟩ := G5.out.g)
  (try go_wp2_with fail); refine hK.out _ _ ?_ ?_; (focus ((try dsimp only); (try go_keep); done)); clear hHeld hK K; intro hHeld; (try simp only [Act.put, List.setIfInBounds_toArray, List.set_cons_zero, List.set_cons_succ])
  (refine wpAnyH_take (i := 6) (oi := ⟨_, _, _, _, _, _⟩) (v := ?_) rfl (by kernel_rfl) (by kernel_rfl) (by kernel_rfl) (fun _ _ _ h => h) (Or.inl ⟨by rfl, ?_⟩) (by assumption) ?_); rotate_left; (focus (intro w hSw; (try dsimp only at hSw); go_simp; (try with_reducible rfl); done)); (try simp only [Act.put, List.setIfInBounds_toArray, List.set_cons_zero, List.set_cons_succ])
  (refine wpAnyH_take (i := 7) (oi := ⟨_, _, _, _, _, _⟩) (v := ?_) rfl (by kernel_rfl) (by kernel_rfl) (by kernel_rfl) (fun _ _ _ h => h) (Or.inl ⟨by rfl, ?_⟩) (by assumption) ?_); rotate_left; (focus (intro w hSw; (try dsimp only at hSw); go_simp; (try with_reducible rfl); done)); (try simp only [Act.put, List.setIfInBounds_toArray, List.set_cons_zero, List.set_cons_succ])
  (refine wpAnyH_take (i := 8) (oi := ⟨_, _, _, _, _, _⟩) (v := ?_) rfl (by kernel_rfl) (by kernel_rfl) (by kernel_rfl) (fun _ _ _ h => h) (Or.inl ⟨by rfl, ?_⟩) (by assumption) ?_); rotate_left; (focus (intro w hSw; (try dsimp only at hSw); go_simp; (try with_reducible rfl); done)); (try simp only [Act.put, List.setIfInBounds_toArray, List.set_cons_zero, List.set_cons_succ])
  (refine wpAnyH_take (i := 9) (oi := ⟨_, _, _, _, _, _⟩) (v := ?_) rfl (by kernel_rfl) (by kernel_rfl) (by kernel_rfl) (fun _ _ _ h => h) (Or.inl ⟨by rfl, ?_⟩) (by assumption) ?_); rotate_left; (focus (intro w hSw; (try dsimp only at hSw); go_simp; (try with_reducible rfl); done)); (try simp only [Act.put, List.setIfInBounds_toArray, List.set_cons_zero, List.set_cons_succ])
  refine wpAnyH_ready (rs := [10]) (by kernel_rfl) (by simp) ?_; refine AllReadyH.cons (o := ⟨_, _, _, _, _, _⟩) rfl (fun K hK => ?_) AllReadyH.nil; go_simp
  (go_at_call 15; refine (bad_no _ _).mono ?_; rintro e7 w7 ⟨rfl, hb7⟩; have G6 := Lib.hid (G5.out.below hb7); obtain ⟨_, k0, k1, _, _⟩ := G6.out.f; obtain ⟨_, l0, l1, _, _⟩ := G6.out.g)
  (try go_wp2_with fail); refine hK.out _ _ ?_ ?_; (focus ((try dsimp only); (try go_keep); done)); clear hHeld hK K; intro hHeld; (try simp only [Act.put, List.setIfInBounds_toArray, List.set_cons_zero, List.set_cons_succ])
  (refine wpAnyH_take (i := 11) (oi := ⟨_, _, _, _, _, _⟩) (v := ?_) rfl (by kernel_rfl) (by kernel_rfl) (by kernel_rfl) (fun _ _ _ h => h) (Or.inl ⟨by rfl, ?_⟩) (by assumption) ?_); rotate_left; (focus (intro w hSw; (try dsimp only at hSw); go_simp; (try with_reducible rfl); done)); (try simp only [Act.put, List.setIfInBounds_toArray, List.set_cons_zero, List.set_cons_succ])
  (refine wpAnyH_take (i := 12) (oi := ⟨_, _, _, _, _, _⟩) (v := ?_) rfl (by kernel_rfl) (by kernel_rfl) (by kernel_rfl) (fun _ _ _ h => h) (Or.inl ⟨by rfl, ?_⟩) (by assumption) ?_); rotate_left; (focus (intro w hSw; (try dsimp only at hSw); go_simp; (try with_reducible rfl); done)); (try simp only [Act.put, List.setIfInBounds_toArray, List.set_cons_zero, List.set_cons_succ])
  (refine wpAnyH_take (i := 13) (oi := ⟨_, _, _, _, _, _⟩) (v := _) rfl (by kernel_rfl) (by kernel_rfl) (by kernel_rfl) (fun _ _ _ h => h) (Or.inr ⟨by rfl, rfl⟩) (by assumption) ?_); (try simp only [Act.put, List.setIfInBounds_toArray, List.set_cons_zero, List.set_cons_succ])
  (refine wpAnyH_take (i := 14) (oi := ⟨_, _, _, _, _, _⟩) (v := _) rfl (by kernel_rfl) (by kernel_rfl) (by kernel_rfl) (fun _ _ _ h => h) (Or.inr ⟨by rfl, rfl⟩) (by assumption) ?_); (try simp only [Act.put, List.setIfInBounds_toArray, List.set_cons_zero, List.set_cons_succ])
  (refine wpAnyH_take (i := 15) (oi := ⟨_, _, _, _, _, _⟩) (v := _) rfl (by kernel_rfl) (by kernel_rfl) (by kernel_rfl) (fun _ _ _ h => h) (Or.inr ⟨by rfl, rfl⟩) (by assumption) ?_); (try simp only [Act.put, List.setIfInBounds_toArray, List.set_cons_zero, List.set_cons_succ])
  (refine wpAnyH_take (i := 16) (oi := ⟨_, _, _, _, _, _⟩) (v := _) rfl (by kernel_rfl) (by kernel_rfl) (by kernel_rfl) (fun _ _ _ h => h) (Or.inr ⟨by rfl, rfl⟩) (by assumption) ?_); (try simp only [Act.put, List.setIfInBounds_toArray, List.set_cons_zero, List.set_cons_succ])
  (refine wpAnyH_take (i := 17) (oi := ⟨_, _, _, _, _, _⟩) (v := _) rfl (by kernel_rfl) (by kernel_rfl) (by kernel_rfl) (fun _ _ _ h => h) (Or.inr ⟨by rfl, rfl⟩) (by assumption) ?_); (try simp only [Act.put, List.setIfInBounds_toArray, List.set_cons_zero, List.set_cons_succ])
  (refine wpAnyH_take (i := 18) (oi := ⟨_, _, _, _, _, _⟩) (v := _) rfl (by kernel_rfl) (by kernel_rfl) (by kernel_rfl) (fun _ _ _ h => h) (Or.inr ⟨by rfl, rfl⟩) (by assumption) ?_); (try simp only [Act.put, List.setIfInBounds_toArray, List.set_cons_zero, List.set_cons_succ])
  (refine wpAnyH_take (i := 19) (oi := ⟨_, _, _, _, _, _⟩) (v := _) rfl (by kernel_rfl) (by kernel_rfl) (by kernel_rfl) (fun _ _ _ h => h) (Or.inr ⟨by rfl, rfl⟩) (by assumption) ?_); (try simp only [Act.put, List.setIfInBounds_toArray, List.set_cons_zero, List.set_cons_succ])
  (refine wpAnyH_take (i := 20) (oi := ⟨_, _, _, _, _, _⟩) (v := _) rfl (by kernel_rfl) (by kernel_rfl) (by kernel_rfl) (fun _ _ _ h => h) (Or.inr ⟨by rfl, rfl⟩) (by assumption) ?_); (try simp only [Act.put, List.setIfInBounds_toArray, List.set_cons_zero, List.set_cons_succ])
  (refine wpAnyH_take (i := 21) (oi := ⟨_, _, _, _, _, _⟩) (v := ?_) rfl (by kernel_rfl) (by kernel_rfl) (by kernel_rfl) (fun _ _ _ h => h) (Or.inl ⟨by rfl, ?_⟩) (by assumption) ?_); rotate_left; (focus (intro w hSw; (try dsimp only at hSw); go_simp; (try with_reducible rfl); done)); (try simp only [Act.put, List.setIfInBounds_toArray, List.set_cons_zero, List.set_cons_succ])
  (refine wpAnyH_take (i := 22) (oi := ⟨_, _, _, _, _, _⟩) (v := ?_) rfl (by kernel_rfl) (by kernel_rfl) (by kernel_rfl) (fun _ _ _ h => h) (Or.inl ⟨by rfl, ?_⟩) (by assumption) ?_); rotate_left; (focus (intro w hSw; (try dsimp only at hSw); go_simp; (try with_reducible rfl); done)); (try simp only [Act.put, List.setIfInBounds_toArray, List.set_cons_zero, List.set_cons_succ])
  (refine wpAnyH_take (i := 23) (oi := ⟨_, _, _, _, _, _⟩) (v := ?_) rfl (by kernel_rfl) (by kernel_rfl) (by kernel_rfl) (fun _ _ _ h => h) (Or.inl ⟨by rfl, ?_⟩) (by assumption) ?_); rotate_left; (focus (intro w hSw; (try dsimp only at hSw); go_simp; (try with_reducible rfl); done)); (try simp only [Act.put, List.setIfInBounds_toArray, List.set_cons_zero, List.set_cons_succ])
  refine wpAnyH_done (by kernel_rfl) ?_ _
  all_goals go_wp2_with fail
  all_goals
    go_ret
    exact ⟨rfl, G6.out.bel⟩
set_option maxRecDepth 100000 in
set_option maxHeartbeats 1000000 in
theorem cuts_some (p : Option Addr) (n c : Nat) (zs : List Int) (s : ByteArray) (w : World) (hr : RowI w p n c zs) (hn : n ≤ 200) (hs : s.size ≤ 500) (hT : Tabs w) (hv : zs.all validRune = true) (A : Nat) (hA : A ≤ 500) (h : (scan s).2 = some A) : Calls Tryd.prog 4 #[.slice p n c, .string s] w fun e w' => e = .returned (.bool true) ∧ Below w.heap.size w w' := by
  have htx := text_row p n c zs w hr (by omega)
  rw [hv, if_pos rfl] at htx
  have hz := nums_len zs
  have hsz := txt_size zs
  rw [hr.len] at hz
  have hts : (txt zs).size ≤ 800 := by omega
  have hap := scan_app zs hv s
  rw [h] at hap
  have hc1 := fun w2 hT2 => check_any s w2 (by omega) hT2
  have hc2 := fun w2 hT2 => check_any (txt zs ++ s) w2 (by rw [ByteArray.size_append]; omega) hT2
  rw [h] at hc1
  rw [hap] at hc2
  simp only [fe, fa, Option.map_some, Int.natCast_add] at hc1 hc2
  generalize txt zs = T at *
  have HTX := Lib.hid htx; have HT := Lib.hid hT; have HC1 := Lib.hid hc1; have HC2 := Lib.hid hc2
  clear htx hT hr hv hz hsz hap hc1 hc2 h
  have hwr : IntKind.i64.wrap ((T.size : Int) + (A : Int)) = (T.size : Int) + (A : Int) := by rw [IntKind.wrap_i64]; omega
  have hwq : ((T.size : Int) + (A : Int) == IntKind.i64.wrap ((T.size : Int) + (A : Int))) = true := by rw [hwr]; simp
  go_enter Tryd.func4, Tryd.ntmps4
  go_wp2_with (first | (go_at_call 10; refine HTX.out.mono ?_; rintro e1 w1 ⟨rfl, hb1⟩; have B1 := Lib.hid hb1; clear hb1) | (go_at_call 18; with_reducible refine (HC1.out _ (HT.out.below B1.out)).mono ?_; rintro e2 w2 ⟨rfl, hb2⟩; have B2 := Lib.hid (B1.out.trans (hb2.mono B1.out.size))) | (go_at_call 18; with_reducible refine (HC2.out _ (HT.out.below B2.out)).mono ?_; rintro e3 w3 ⟨rfl, hb3⟩; have B3 := Lib.hid (B2.out.trans (hb3.mono B2.out.size))))
  have hA : Below w3.heap.size w3 (w3.alloc (.cells #[.int .i64 2, .int .i64 (A : Int)] 29)) := (Below.refl _ _).alloc (Nat.le_refl _) _
  have hB : Below (w3.alloc (.cells #[.int .i64 2, .int .i64 (A : Int)] 29)).heap.size (w3.alloc (.cells #[.int .i64 2, .int .i64 (A : Int)] 29)) ((w3.alloc (.cells #[.int .i64 2, .int .i64 (A : Int)] 29)).alloc (.cells #[.int .i64 2, .int .i64 ((T.size : Int) + (A : Int))] 29)) := (Below.refl _ _).alloc (Nat.le_refl _) _
  have hF := (f2_new w3 2 (A : Int) 29).below hB (by simp)
  have hG := f2_new (w3.alloc (.cells #[.int .i64 2, .int .i64 (A : Int)] 29)) 2 ((T.size : Int) + (A : Int)) 29
  rw [World.size_alloc] at hG
  obtain ⟨W, hW⟩ : ∃ W, W = (w3.alloc (.cells #[.int .i64 2, .int .i64 (A : Int)] 29)).alloc (.cells #[.int .i64 2, .int .i64 ((T.size : Int) + (A : Int))] 29) := ⟨_, rfl⟩
  have hWb : Below w.heap.size w W := by rw [hW]; exact (B3.out.trans (hA.mono B3.out.size)).trans (hB.mono (by have := B3.out.size; simp; omega))
  rw [← hW] at hF hG ⊢
  have G2 : Hid (Gc w w3.heap.size 2 (A : Int) ((T.size : Int) + (A : Int)) W.drew) := by
    have hD : Below W.heap.size W W.drew := (Below.refl _ _).drew
    exact Lib.hid ⟨hF.below hD hF.lt, hG.below hD hG.lt, (HT.out.below hWb).below hD, hWb.drew⟩
  obtain ⟨_, c0, c1, _, _⟩ := hF
  obtain ⟨_, d0, d1, _, _⟩ := hG
  clear hA hB hW hWb
  obtain ⟨X, hX⟩ : ∃ X, X = w3.heap.size := ⟨_, rfl⟩
  rw [← hX] at c0 c1 d0 d1 G2 ⊢
  clear hX
  go_region_held3 (fun w' => w'.cell? ⟨X, 0, none⟩ = some (.int .i64 2) ∧ w'.cell? ⟨X, 1, none⟩ = some (.int .i64 (A : Int)) ∧ w'.cell? ⟨X + 1, 0, none⟩ = some (.int .i64 2) ∧ w'.cell? ⟨X + 1, 1, none⟩ = some (.int .i64 ((T.size : Int) + (A : Int)))) (go_keep) (first
    | (go_at_call 9; refine (awake_any _ G2.out.t).mono ?_; rintro e4 w4 ⟨rfl, hb4⟩; have G3 := Lib.hid (G2.out.below hb4); obtain ⟨_, k0, k1, _, _⟩ := G3.out.f; obtain ⟨_, l0, l1, _, _⟩ := G3.out.g)
    | (go_at_call 15; refine (bad_any _ _ _).mono ?_; rintro e5 w5 ⟨rfl, hb5⟩; have G4 := Lib.hid (G3.out.below hb5); obtain ⟨_, k0, k1, _, _⟩ := G4.out.f; obtain ⟨_, l0, l1, _, _⟩ := G4.out.g)
    | (go_at_call 15; refine (bad_any _ _ _).mono ?_; rintro e6 w6 ⟨rfl, hb6⟩; have G5 := Lib.hid (G4.out.below hb6); obtain ⟨_, k0, k1, _, _⟩ := G5.out.f; obtain ⟨_, l0, l1, _, _⟩ := G5.out.g)
    | (go_at_call 15; refine (bad_any _ _ _).mono ?_; rintro e7 w7 ⟨rfl, hb7⟩; have G6 := Lib.hid (G5.out.below hb7); obtain ⟨_, k0, k1, _, _⟩ := G6.out.f; obtain ⟨_, l0, l1, _, _⟩ := G6.out.g))
  all_goals go_wp2_with fail
  all_goals
    go_ret
    exact ⟨rfl, G6.out.bel⟩
theorem cuts_walk (p : Option Addr) (n c : Nat) (zs : List Int) (s : ByteArray) (w : World) (hr : RowI w p n c zs) (hn : n ≤ 9223372036854775807) (hs : s.size ≤ maxLen) (hT : Tabs w) : Calls Tryd.prog 4 #[.slice p n c, .string s] w fun e w' => e = .returned (.bool true) ∧ Below w.heap.size w w' := by
  unfold maxLen at hs
  by_cases h1 : 200 < n
  · exact cuts_big p n c s w h1 hn hT
  by_cases h2 : 500 < s.size
  · exact cuts_big2 p n c s w (by omega) h2 (by omega) hT
  cases hv : zs.all validRune with
  | false => exact cuts_bad p n c zs s w hr (by omega) (by omega) hT hv
  | true =>
    cases h : (scan s).2 with
    | none => exact cuts_none p n c zs s w hr (by omega) (by omega) hT hv h
    | some A => exact cuts_some p n c zs s w hr (by omega) (by omega) hT hv A (by have := sc_place s _ _ A h; omega) h
end Go.Proofs.YtmogjimiiadmmaaDoor.pt
