/- Tables of pieces: a contract of New; the answers of the landed table; the example of layer 4. -/
import Derived.Test.YtiigknimfibdpaaGreatDoorZ36
import Derived.Test.YtiigknimfibdpaaGreatDoorZ24
namespace Go.Proofs.YtiigknimfibdpaaGreatDoor.tb
open Go.RowKit Go.Lib
set_option linter.unusedVariables false
theorem amid_iff (ps : List (Int × Int)) (c : Nat) : amid ps c = true ↔ ∃ q ∈ ps, q.1 = (c : Int) := by
  unfold amid; rw [List.any_eq_true]; simp
theorem join_some {all more : List (Int × Int)} {r : List (Int × Int)} (h : join all more = some r) : ∀ q ∈ more, lk all q.1 = none := by
  unfold join at h
  split at h
  · rename_i h1
    intro q hq
    exact (find_neg all q.1).1 (by simpa using List.all_eq_true.1 h1 q hq)
  · cases h
theorem join_none {all more : List (Int × Int)} (h : join all more = none) : ∃ q ∈ more, lk all q.1 ≠ none := by
  unfold join at h
  split at h
  · cases h
  · rename_i h1
    apply Classical.byContradiction
    intro h2
    apply h1
    rw [List.all_eq_true]
    intro q hq
    have : lk all q.1 = none := Classical.byContradiction fun h3 => h2 ⟨q, hq, h3⟩
    simp [(find_neg all q.1).2 this]
/-- What stands in New. -/
structure Nw (w : World) (v : Value) (rows : List Rw) (V : Value) (bs : List Bool) (W : World) : Prop where
  t : F1 W w.heap.size (.slice none 0 0)
  f : pt.F2 W (w.heap.size + 1) 0 0
  n : Nb (w.heap.size + 1 + 1 + 1) (w.heap.size + 1 + 1) V bs W
  r : RO W (w.heap.size + 1 + 1 + 1) v rows
  bel : Below w.heap.size w W
theorem Nw.below {w : World} {v : Value} {rows : List Rw} {V : Value} {bs : List Bool} {W W' : World} (h : Nw w v rows V bs W) (hb : Below W.heap.size W W') : Nw w v rows V bs W' :=
  ⟨h.t.below hb h.t.lt, h.f.below hb h.f.lt, h.n.below hb, h.r.below hb, h.bel.trans (hb.mono h.bel.size)⟩
theorem RO.kept {W W' : World} {B nb : Nat} {v : Value} {l : List Rw} {V : Value} {n : Nat} {xs : List Value} {B2 : Nat} (h : RO W B v l) (hV : W.ownsRow B2 4 1 V n xs) (hk : Kept nb V.ownBlock W W') (hB : nb < B) : RO W' B v l := by
  obtain ⟨h1, h2 | ⟨g, cap, cur, hv, hg, hh, r⟩⟩ := h
  · exact ⟨h1, .inl h2⟩
  · have hlt : g < W.heap.size := by
      rcases Nat.lt_or_ge g W.heap.size with h' | h'
      · exact h'
      · rw [Array.getElem?_eq_none h'] at hh; cases hh
    exact ⟨h1, .inr ⟨g, cap, cur, hv, hg, by rw [hk.block g hlt (by omega) (kind_ne hV hh (by decide))]; exact hh, r⟩⟩
theorem F2.kept {W W' : World} {b nb : Nat} {x y : Int} {g : Option Nat} (h : pt.F2 W b x y) (hk : Kept nb g W W') (h1 : b ≠ nb) (h2 : g ≠ some b) : pt.F2 W' b x y := by
  have e := hk.block b h.lt h1 h2
  have hc : ∀ i, W'.cell? ⟨b, i, none⟩ = W.cell? ⟨b, i, none⟩ := fun i => World.cell?_of_block (w := W) (a := ⟨b, i, none⟩) e
  have hf : ∀ i, W'.frozen? ⟨b, i, none⟩ = W.frozen? ⟨b, i, none⟩ := fun i => World.frozen?_of_block (w := W) (a := ⟨b, i, none⟩) e
  obtain ⟨a1, a2, a3, a4, a5⟩ := h
  exact ⟨Nat.lt_of_lt_of_le a1 hk.size, (hc _).trans a2, (hc _).trans a3, (hf _).trans a4, (hf _).trans a5⟩
theorem Nw.kept {w : World} {v : Value} {rows : List Rw} {V V' : Value} {bs bs' : List Bool} {W W' : World} (h : Nw w v rows V bs W) (hk : Kept (w.heap.size + 1 + 1) V.ownBlock W W') (hn : Nb (w.heap.size + 1 + 1 + 1) (w.heap.size + 1 + 1) V' bs' W') : Nw w v rows V' bs' W' := by
  have ho := h.n.o.lt
  have hlt : ∀ k, k < w.heap.size + 1 + 1 → V.ownBlock ≠ some k := fun k hk e => by have := (ho _ e).1; omega
  have e := hk.block w.heap.size h.t.lt (by omega) (hlt _ (by omega))
  refine ⟨⟨Nat.lt_of_lt_of_le h.t.lt hk.size, (World.cell?_of_block (w := W) (a := ⟨w.heap.size, 0, none⟩) e).trans h.t.c0, (World.frozen?_of_block (w := W) (a := ⟨w.heap.size, 0, none⟩) e).trans h.t.f0⟩, F2.kept h.f hk (by omega) (hlt _ (by omega)), hn, h.r.kept h.n.o hk (by omega), ?_⟩
  exact h.bel.trans ⟨hk.os, hk.tape, hk.output, hk.size, fun k hk' => hk.block k (by have := h.n.sz; omega) (by omega) (hlt k (by omega))⟩
theorem Nw.app {w : World} {v v' : Value} {rows rows' : List Rw} {V : Value} {bs : List Bool} {W W' : World} (h : Nw w v rows V bs W) (ho : RO W' (w.heap.size + 1 + 1 + 1) v' rows') (hg : W.grownBy W' v.ownBlock) : Nw w v' rows' V bs W' := by
  have hr := h.r.lt
  have hne : ∀ k, k < w.heap.size + 1 + 1 + 1 → v.ownBlock ≠ some k := fun k hk e => by have := (hr _ e).1; omega
  have hc : ∀ k, k < w.heap.size + 1 + 1 + 1 → k < W.heap.size → W'.heap[k]? = W.heap[k]? := fun k hk h1 => hg.block k h1 (fun e => hne k hk e.symm)
  refine ⟨h.t.grown hg (hne _ (by omega)), ?_, ⟨h.n.p.grown hg (hne _ (by omega)), ?_, h.n.lt, Nat.le_trans h.n.sz hg.size⟩, ho, below_own h.bel h.bel.size (own_base h.r (by omega)) hg⟩
  · obtain ⟨a1, a2, a3, a4, a5⟩ := h.f
    have e := hc (w.heap.size + 1) (by omega) a1
    have hc : ∀ i, W'.cell? ⟨w.heap.size + 1, i, none⟩ = W.cell? ⟨w.heap.size + 1, i, none⟩ := fun i => World.cell?_of_block (w := W) (a := ⟨w.heap.size + 1, i, none⟩) e
    have hf : ∀ i, W'.frozen? ⟨w.heap.size + 1, i, none⟩ = W.frozen? ⟨w.heap.size + 1, i, none⟩ := fun i => World.frozen?_of_block (w := W) (a := ⟨w.heap.size + 1, i, none⟩) e
    exact ⟨Nat.lt_of_lt_of_le a1 hg.size, (hc _).trans a2, (hc _).trans a3, (hf _).trans a4, (hf _).trans a5⟩
  · obtain ⟨h1, h2 | ⟨g, cap, cur, hv, hB, hh, r⟩⟩ := h.n.o
    · exact ⟨h1, .inl h2⟩
    · exact ⟨h1, .inr ⟨g, cap, cur, hv, hB, by rw [hg.block g (by rcases Nat.lt_or_ge g W.heap.size with h' | h'; exact h'; rw [Array.getElem?_eq_none h'] at hh; cases hh) (fun e => kind_ne h.r hh (by decide) e.symm)]; exact hh, r⟩⟩
end Go.Proofs.YtiigknimfibdpaaGreatDoor.tb
namespace Go.Proofs.YtiigknimfibdpaaGreatDoor.tb
open Go.RowKit Go.Lib
set_option linter.unusedVariables false
/-- What New answers. -/
def NewP (l : List Pce) (w : World) (e : Ending) (w' : World) : Prop :=
  Below w.heap.size w w' ∧ (((made l).1 = none ∧ e = .returned (.tuple #[.agg #[.slice none 0 0], .agg #[.int .i64 5, .int .i64 (made l).2]])) ∨
  ∃ X S r, (made l).1 = some r ∧ e = .returned (.tuple #[.agg #[X], .agg #[.int .i64 0, .int .i64 0]]) ∧ RO w' w.heap.size X S ∧ Dis S ∧ (∀ q ∈ S, q.ok) ∧ rps S = r)
set_option maxRecDepth 100000 in
set_option maxHeartbeats 16000000 in
theorem new_any (A : Option Addr) (n c : Nat) (l : List Pce) (w : World) (h : RowC w A n c l) (hn12 : n ≤ 100) (hsz : ∀ p ∈ l, p.s.size ≤ 4000000) (hT : pt.Tabs w) :
    Calls Tryz.prog 127 #[.slice A n c] w (NewP l w) := by
  obtain ⟨PP, hPP⟩ : ∃ PP, PP = NewP l w := ⟨_, rfl⟩
  rw [← hPP]
  have HPP := Lib.hid hPP
  have H := Lib.hid h; have HN := Lib.hid h.1; have HSZ := Lib.hid hsz; have HT := Lib.hid hT
  have hb1 := (Below.refl w.heap.size w).alloc (Nat.le_refl _) (.cells #[.slice none 0 0] 74)
  have hb2 := (Below.refl (w.alloc (.cells #[.slice none 0 0] 74)).heap.size (w.alloc (.cells #[.slice none 0 0] 74))).alloc (Nat.le_refl _) (.cells #[.int .i64 0, .int .i64 0] 54)
  have hb3 := (Below.refl ((w.alloc (.cells #[.slice none 0 0] 74)).alloc (.cells #[.int .i64 0, .int .i64 0] 54)).heap.size ((w.alloc (.cells #[.slice none 0 0] 74)).alloc (.cells #[.int .i64 0, .int .i64 0] 54))).alloc (Nat.le_refl _) (.cells #[.slice none 0 0] 185)
  have S0 : Hid (Nw w (.slice none 0 0) [] (.slice none 0 0) [] (((w.alloc (.cells #[.slice none 0 0] 74)).alloc (.cells #[.int .i64 0, .int .i64 0] 54)).alloc (.cells #[.slice none 0 0] 185))) := Lib.hid (by
    have e1 : (w.alloc (.cells #[.slice none 0 0] 74)).heap.size = w.heap.size + 1 := World.size_alloc _ _
    have e2 : ((w.alloc (.cells #[.slice none 0 0] 74)).alloc (.cells #[.int .i64 0, .int .i64 0] 54)).heap.size = w.heap.size + 1 + 1 := by rw [World.size_alloc, e1]
    have f2 := pt.f2_new (w.alloc (.cells #[.slice none 0 0] 74)) 0 0 54
    have f3 := f1_new ((w.alloc (.cells #[.slice none 0 0] 74)).alloc (.cells #[.int .i64 0, .int .i64 0] 54)) (.slice none 0 0) 185
    rw [e1] at f2
    rw [e2] at f3
    refine ⟨((f1_new w _ _).below hb2 (by rw [e1]; omega)).below hb3 (by rw [e2]; omega), f2.below hb3 (by rw [e2]; omega), ⟨f3, ⟨rfl, .inl ⟨rfl, rfl⟩⟩, by omega, by rw [World.size_alloc, e2]; exact Nat.le_refl _⟩, RO.nil _ _, ?_⟩
    exact (hb1.trans (hb2.mono (by rw [e1]; omega))).trans (hb3.mono (by rw [e2]; omega)))
  clear h hsz hT hPP hb1 hb2 hb3
  go_enter Tryz.func127, Tryz.ntmps127
  go_wp2_with fail
  go_loopw [4, 12] (fun v i wr => ∃ (j : Nat) (rows : List Rw) (V : Value) (bs : List Bool) (all : List (Int × Int)), j ≤ n ∧ i = .int .i64 j ∧ Nw w v rows V bs wr ∧ mk j all (l.drop j) = made l ∧ Srt all ∧ (∀ q, q ∈ rps rows ↔ q ∈ all) ∧ rows.Pairwise Apart ∧ (∀ r ∈ rows, r.ok) ∧ (∀ c, bit bs c = amid all c) ∧ bs.length ≤ 1048576 ∧ rows.length ≤ 4000000 * j) (fun _ i _ => n - (RowKit.intOf i).toNat)
  case atStart => exact ⟨0, [], .slice none 0 0, [], [], Nat.zero_le _, rfl, S0.out, rfl, Srt.nil, fun q => by simp [rps], List.Pairwise.nil, fun _ h => (by cases h), fun c => rfl, by simp, by simp⟩
  case round =>
    obtain ⟨j, rows, V, bs, all, hj, rfl, hnw, hmk, hsrt, hmem, hap, hro, hbit, hbl, hrl⟩ := hrel
    have HS := Lib.hid hnw; have HMK := Lib.hid hmk; have HSR := Lib.hid hsrt; have HME := Lib.hid hmem; have HAP := Lib.hid hap; have HRO := Lib.hid hro; have HBI := Lib.hid hbit
    have z3 := hnw.n.sz
    clear hnw hmk hsrt hmem hap hro hbit
    by_cases hlt : j < n
    · obtain ⟨a, rfl, a1, a2, hc, hok, htk, hdr⟩ := (H.out.below HS.out.bel).at j hlt
      unfold maxLen at a2
      have HDR := Lib.hid hdr
      have hps : (l.getD j p0).s.size ≤ 4000000 := HSZ.out _ (by simp [List.getD, List.getElem?_eq_getElem (show j < l.length by have := HN.out; omega)])
      clear htk hdr
      generalize l.getD j p0 = p at *
      obtain ⟨k0, k1, k2, k3⟩ := hc
      have HPR := Lib.hid (fun w2 h2 => rows_any p w2 hok hps h2)
      have hmk2 : made l = (match piece p.f p.t p.c p.s with | none => (none, (j : Int)) | some more => match join all more with | none => (none, (j : Int)) | some r => mk (j + 1) r (l.drop (j + 1))) := by rw [← HMK.out, HDR.out]; rfl
      cases hp : piece p.f p.t p.c p.s with
      | none =>
        rw [hp] at hmk2
        simp only at hmk2
        have HFIN : Hid (∀ w', Below w.heap.size w w' → PP (.returned (.tuple #[.agg #[.slice none 0 0], .agg #[.int .i64 5, .int .i64 (j : Int)]])) w') := Lib.hid (fun w' hb => by rw [HPP.out]; exact ⟨hb, .inl ⟨by rw [hmk2], by rw [hmk2]⟩⟩)
        have HPR2 : Hid (∀ w2, pt.Tabs w2 → Calls Tryz.prog 169 #[.agg #[.int .i64 p.f, .int .i32 p.t, .int .i64 p.c, .string p.s]] w2 fun e w' => e = .returned (.tuple #[.slice none 0 0, .bool false]) ∧ Below w2.heap.size w2 w') := Lib.hid (fun w2 h2 => (HPR.out w2 h2).mono fun e w' h => by
          rcases h with ⟨_, h1, h2⟩ | ⟨_, _, h0, _⟩
          · exact ⟨h1, h2⟩
          · rw [hp] at h0; cases h0)
        clear hmk2 hp HPR hok
        generalize p.c = C at *
        generalize p.s = S at *
        generalize p.f = F at *
        generalize p.t = T at *
        go_wp2_with (go_at_call 169; refine (HPR2.out _ (HT.out.below (HS.out.bel.alloc HS.out.bel.size (.cells #[.int .i64 F, .int .i32 T, .int .i64 C, .string S] 139)))).mono ?_; rintro e1 w1 ⟨rfl, hb1⟩; have S1 := Lib.hid ((HS.out.below ((Below.refl _ wr).alloc (Nat.le_refl _) (.cells #[.int .i64 F, .int .i32 T, .int .i64 C, .string S] 139))).below hb1); clear hb1; obtain ⟨y3, y0, y1⟩ := S1.out.t; obtain ⟨x3, x0, x1, x2, x4⟩ := S1.out.f)
        refine bodyPost_ret (v := .tuple #[.agg #[.slice none 0 0], .agg #[.int .i64 5, .int .i64 (j : Int)]]) (by simp [results, Tryz.results127, go_sem, y0, x0, x1]) rfl (HFIN.out _ ?_)
        exact (((S1.out.bel.setCell (p := ⟨w.heap.size, 0, none⟩) (Nat.le_refl _) _).setCell (p := ⟨w.heap.size + 1, 0, none⟩) (Nat.le_succ _) _).setCell (p := ⟨w.heap.size + 1, 1, none⟩) (Nat.le_succ _) _)
      | some more0 =>
        rw [hp] at hmk2
        simp only at hmk2
        have HPR2 : Hid (∀ w2, pt.Tabs w2 → Calls Tryz.prog 169 #[.agg #[.int .i64 p.f, .int .i32 p.t, .int .i64 p.c, .string p.s]] w2 fun e w' => ∃ v rows, rps rows = more0 ∧ e = .returned (.tuple #[v, .bool true]) ∧ RO w' w2.heap.size v rows ∧ Dis rows ∧ (∀ r ∈ rows, r.ok) ∧ rows.length ≤ 4000000 ∧ Below w2.heap.size w2 w') := Lib.hid (fun w2 h2 => (HPR.out w2 h2).mono fun e w' h => by
          rcases h with ⟨h0, _⟩ | ⟨v, rows, h0, h1, h3, h4, h5, h6, h7⟩
          · rw [hp] at h0; cases h0
          · rw [hp] at h0; injection h0 with h0; exact ⟨v, rows, h0.symm, h1, h3, h4, h5, h6, h7⟩)
        have hA : ∀ (W : World) (A1 : Option Addr) (cc1 : Nat) (more : List Rw), RO W wr.heap.size (.slice A1 more.length cc1) more → ∀ g o, A1 = some ⟨g, o, none⟩ → g ≠ w.heap.size + 1 + 1 ∧ V.ownBlock ≠ some g := fun W A1 cc1 more hr g o hA => by
          subst hA
          rcases hr.form with ⟨h0, _⟩ | ⟨g', cap, h0, h1, _⟩
          · cases h0
          · cases h0
            exact ⟨by omega, fun e => by have := (HS.out.n.o.lt _ e).2; omega⟩
        have HAA := Lib.hid hA
        cases hjn : join all more0 with
        | none =>
          rw [hjn] at hmk2
          simp only at hmk2
          have hbad := join_none hjn
          have HNT : Hid (∀ (W : World) (A1 : Option Addr) (cc1 : Nat) (more : List Rw), rps more = more0 → RowRw W A1 cc1 more → Dis more → (∀ r ∈ more, r.ok) → more.length ≤ 4000000 → Nb (w.heap.size + 1 + 1 + 1) (w.heap.size + 1 + 1) V bs W → (∀ g o, A1 = some ⟨g, o, none⟩ → g ≠ w.heap.size + 1 + 1 ∧ V.ownBlock ≠ some g) → Calls Tryz.prog 170 #[.pointer (some ⟨w.heap.size + 1 + 1, 0, none⟩), .slice A1 more.length cc1] W fun e w' => e = .returned (.bool false) ∧ Kept (w.heap.size + 1 + 1) V.ownBlock W w') := Lib.hid (fun W A1 cc1 more he h1 h2 h3 h4 h5 h6 => (note_any _ _ V bs A1 more.length cc1 more W h1 rfl h3 h2 (by omega) h5 hbl h6).mono fun e w' hh => by
            rcases hh with ⟨hk, ⟨g1, _⟩ | ⟨_, g2, _⟩⟩
            · exact ⟨g1, hk⟩
            · exfalso
              obtain ⟨q, hq, hq2⟩ := hbad
              have hq0 : 0 ≤ q.1 := by
                rw [← he] at hq
                obtain ⟨r, hr, k1, _⟩ := (rps_iff _ _).1 hq
                have := (h3 r hr).f0
                omega
              have k2 : amid (rps more) q.1.toNat = true := (amid_iff _ _).2 ⟨q, by rw [he]; exact hq, by omega⟩
              have k3 := g2 _ k2
              rw [HBI.out] at k3
              apply hq2
              rw [lk_none]
              intro r hr hre
              have : amid all q.1.toNat = true := (amid_iff _ _).2 ⟨r, hr, by omega⟩
              rw [this] at k3; cases k3)
          have HFIN : Hid (∀ w', Below w.heap.size w w' → PP (.returned (.tuple #[.agg #[.slice none 0 0], .agg #[.int .i64 5, .int .i64 (j : Int)]])) w') := Lib.hid (fun w' hb => by rw [HPP.out]; exact ⟨hb, .inl ⟨by rw [hmk2], by rw [hmk2]⟩⟩)
          clear hmk2 hp HPR hok hjn hbad hA
          generalize p.c = C at *
          generalize p.s = S at *
          generalize p.f = F at *
          generalize p.t = T at *
          go_wp2_with (first | (go_at_call 169; refine (HPR2.out _ (HT.out.below (HS.out.bel.alloc HS.out.bel.size (.cells #[.int .i64 F, .int .i32 T, .int .i64 C, .string S] 139)))).mono ?_; rintro e1 w1 ⟨v1, more, hmo, rfl, hr1, hd1, ho1, hl1, hb1⟩; have S1 := Lib.hid ((HS.out.below ((Below.refl _ wr).alloc (Nat.le_refl _) (.cells #[.int .i64 F, .int .i32 T, .int .i64 C, .string S] 139))).below hb1); have M1 := Lib.hid (And.intro hmo (And.intro hd1 (And.intro ho1 hl1))); obtain ⟨A1, cc1, rfl, hrw1⟩ := hr1.rows; have R1 := Lib.hid hrw1; have RO1 := Lib.hid (hr1.le (show wr.heap.size ≤ _ by simp)); clear hb1 hmo hd1 ho1 hl1 hr1 hrw1) | (go_at_call 170; refine (HNT.out _ A1 cc1 more M1.out.1 R1.out M1.out.2.1 M1.out.2.2.1 M1.out.2.2.2 S1.out.n (HAA.out _ A1 cc1 more RO1.out)).mono ?_; rintro e2 w2 ⟨rfl, hk2⟩; have HB2 : Hid (Below w.heap.size w w2) := Lib.hid (S1.out.bel.trans ⟨hk2.os, hk2.tape, hk2.output, hk2.size, fun k hk => hk2.block k (by have := S1.out.n.sz; omega) (by omega) (fun e => by have := (S1.out.n.o.lt _ e).1; omega)⟩); have hlt0 : ∀ k, k < w.heap.size + 1 + 1 → V.ownBlock ≠ some k := fun k hk e => (by have := (S1.out.n.o.lt _ e).1; omega); have e0 := hk2.block w.heap.size S1.out.t.lt (by omega) (hlt0 _ (by omega)); have T2 : Hid (F1 w2 w.heap.size (.slice none 0 0)) := Lib.hid ⟨Nat.lt_of_lt_of_le S1.out.t.lt hk2.size, (World.cell?_of_block (w := w1) (a := ⟨w.heap.size, 0, none⟩) e0).trans S1.out.t.c0, (World.frozen?_of_block (w := w1) (a := ⟨w.heap.size, 0, none⟩) e0).trans S1.out.t.f0⟩; have U2 := Lib.hid (F2.kept S1.out.f hk2 (by omega) (hlt0 _ (by omega))); clear hk2 hlt0 e0; obtain ⟨y3, y0, y1⟩ := T2.out; obtain ⟨x3, x0, x1, x2, x4⟩ := U2.out))
          refine bodyPost_ret (v := .tuple #[.agg #[.slice none 0 0], .agg #[.int .i64 5, .int .i64 (j : Int)]]) (by simp [results, Tryz.results127, go_sem, y0, x0, x1]) rfl (HFIN.out _ ?_)
          exact (((HB2.out.setCell (p := ⟨w.heap.size, 0, none⟩) (Nat.le_refl _) _).setCell (p := ⟨w.heap.size + 1, 0, none⟩) (Nat.le_succ _) _).setCell (p := ⟨w.heap.size + 1, 1, none⟩) (Nat.le_succ _) _)
        | some r =>
          rw [hjn] at hmk2
          simp only at hmk2
          have HM2 := Lib.hid hmk2
          have hgood := join_some hjn
          have HJN := Lib.hid hjn
          have HGD := Lib.hid hgood
          have HNT : Hid (∀ (W : World) (A1 : Option Addr) (cc1 : Nat) (more : List Rw), rps more = more0 → RowRw W A1 cc1 more → Dis more → (∀ r ∈ more, r.ok) → more.length ≤ 4000000 → Nb (w.heap.size + 1 + 1 + 1) (w.heap.size + 1 + 1) V bs W → (∀ g o, A1 = some ⟨g, o, none⟩ → g ≠ w.heap.size + 1 + 1 ∧ V.ownBlock ≠ some g) → Calls Tryz.prog 170 #[.pointer (some ⟨w.heap.size + 1 + 1, 0, none⟩), .slice A1 more.length cc1] W fun e w' => ∃ V' bs', e = .returned (.bool true) ∧ Nb (w.heap.size + 1 + 1 + 1) (w.heap.size + 1 + 1) V' bs' w' ∧ bs'.length ≤ 1048576 ∧ (∀ c, bit bs' c = (bit bs c || amid (rps more) c)) ∧ Kept (w.heap.size + 1 + 1) V.ownBlock W w') := Lib.hid (fun W A1 cc1 more he h1 h2 h3 h4 h5 h6 => (note_any _ _ V bs A1 more.length cc1 more W h1 rfl h3 h2 (by omega) h5 hbl h6).mono fun e w' hh => by
            rcases hh with ⟨hk, ⟨_, k, g1, g2⟩ | ⟨g1, g2, V', bs', g3, g4, g5⟩⟩
            · exfalso
              rw [HBI.out] at g2
              obtain ⟨q, hq, hqk⟩ := (amid_iff _ _).1 g1
              obtain ⟨r, hr, hrk⟩ := (amid_iff _ _).1 g2
              have := HGD.out q (by rw [← he]; exact hq)
              rw [lk_none] at this
              exact this r hr (by omega)
            · exact ⟨V', bs', g1, g3, g4, g5, hk⟩)
          clear hmk2 hp HPR hok hjn hgood hA
          generalize p.c = C at *
          generalize p.s = S at *
          generalize p.f = F at *
          generalize p.t = T at *
          go_wp2_with (first | (go_at_call 169; refine (HPR2.out _ (HT.out.below (HS.out.bel.alloc HS.out.bel.size (.cells #[.int .i64 F, .int .i32 T, .int .i64 C, .string S] 139)))).mono ?_; rintro e1 w1 ⟨v1, more, hmo, rfl, hr1, hd1, ho1, hl1, hb1⟩; have S1 := Lib.hid ((HS.out.below ((Below.refl _ wr).alloc (Nat.le_refl _) (.cells #[.int .i64 F, .int .i32 T, .int .i64 C, .string S] 139))).below hb1); have M1 := Lib.hid (And.intro hmo (And.intro hd1 (And.intro ho1 hl1))); obtain ⟨A1, cc1, rfl, hrw1⟩ := hr1.rows; have R1 := Lib.hid hrw1; have RO1 := Lib.hid (hr1.le (show wr.heap.size ≤ _ by simp)); clear hb1 hmo hd1 ho1 hl1 hr1 hrw1) | (go_at_call 170; refine (HNT.out _ A1 cc1 more M1.out.1 R1.out M1.out.2.1 M1.out.2.2.1 M1.out.2.2.2 S1.out.n (HAA.out _ A1 cc1 more RO1.out)).mono ?_; rintro e2 w2 ⟨V2, bs2, rfl, hn2, hl2, hbt2, hk2⟩; have S2 := Lib.hid (S1.out.kept hk2 hn2); have RO2 := Lib.hid (RO.kept RO1.out S1.out.n.o hk2 (by omega)); have NB2 := Lib.hid (And.intro hl2 hbt2); clear hn2 hl2 hbt2 hk2; obtain ⟨A9, c9, he9, hrw9⟩ := RO2.out.rows; cases he9; have R2 := Lib.hid hrw9; clear hrw9) | (at_builtin; refine append_rows rfl _ _ rfl (w.heap.size + 1 + 1 + 1) _ rows rfl S2.out.r A1 cc1 _ more rfl rfl R2.out (by have := M1.out.2.2.2; omega) S2.out.n.sz ?_; intro v5 w5 ho5 hg5; have S5 := Lib.hid (S2.out.app ho5 hg5); clear ho5 hg5))
          go_roundw
          case rel =>
            obtain ⟨m1, m2, m3, m4⟩ := M1.out
            have hgd : ∀ q ∈ rps more, lk all q.1 = none := by rw [m1]; exact HGD.out
            obtain ⟨r', j1, j2, j3, j4⟩ := join_rows HSR.out HME.out m2 m3 HAP.out HRO.out hgd
            rw [m1, HJN.out] at j1
            injection j1 with j1
            subst j1
            refine ⟨j + 1, rows ++ more, V2, bs2, r, by omega, by go_num, S5.out, HM2.out.symm, j2, j3, j4, fun q hq => ?_, fun k => ?_, NB2.out.1, by rw [List.length_append]; omega⟩
            · rcases List.mem_append.1 hq with hq | hq
              · exact HRO.out q hq
              · exact m3 q hq
            · rw [NB2.out.2 k, HBI.out k]
              rw [Bool.eq_iff_iff, Bool.or_eq_true, amid_iff, amid_iff, amid_iff]
              constructor
              · rintro (⟨q, h1, h2⟩ | ⟨q, h1, h2⟩)
                · exact ⟨q, (j3 q).1 (by rw [rps_app]; exact List.mem_append.2 (.inl ((HME.out q).2 h1))), h2⟩
                · exact ⟨q, (j3 q).1 (by rw [rps_app]; exact List.mem_append.2 (.inr h1)), h2⟩
              · rintro ⟨q, h1, h2⟩
                have h3 := (j3 q).2 h1
                rw [rps_app] at h3
                rcases List.mem_append.1 h3 with h3 | h3
                · exact .inl ⟨q, (HME.out q).1 h3, h2⟩
                · exact .inr ⟨q, h3, h2⟩
          case measure => simp [RowKit.intOf]; omega
    · obtain rfl : j = n := by omega
      have hnil : l.drop j = [] := List.drop_eq_nil_of_le (by rw [HN.out]; exact Nat.le_refl _)
      rw [hnil] at HMK
      have hfin : made l = (some all, -1) := by rw [← HMK.out]; rfl
      have HFIN : Hid (∀ X S w', RO w' (w.heap.size + 1 + 1 + 1) X S → Dis S → (∀ q ∈ S, q.ok) → (∀ q, q ∈ rps S ↔ q ∈ rps rows) → Below w.heap.size w w' → PP (.returned (.tuple #[.agg #[X], .agg #[.int .i64 0, .int .i64 0]])) w') := Lib.hid (fun X S w' h1 h2 h3 h4 hb => by
        rw [HPP.out]
        refine ⟨hb, .inr ⟨X, S, all, by rw [hfin], rfl, h1.le (by omega), h2, h3, srt_ext _ _ (rps_srt S h2) HSR.out fun q => (h4 q).trans (HME.out q)⟩⟩)
      have HOR := Lib.hid (ordered_any u4 rows (w.heap.size + 1 + 1 + 1) wr HS.out.r z3 (by omega) HAP.out HRO.out)
      obtain ⟨A5, c5, rfl⟩ := HS.out.r.slice
      clear hnil hfin
      go_wp2_with (go_at_call 155; refine HOR.out.mono ?_; rintro e1 w6 ⟨rfl, S, h1, h2, h3, h4, h5, h6⟩; have HS6 := Lib.hid (And.intro h2 (And.intro h3 h4)); have HR6 := Lib.hid h5; have HB6 := Lib.hid (HS.out.bel.trans (h6.mono (by omega))); obtain ⟨y3, y0, y1⟩ := HS.out.t.below h6 (by omega); obtain ⟨x3, x0, x1, x2, x4⟩ := HS.out.f.below h6 (by omega); clear h1 h2 h3 h4 h5 h6)
      refine bodyPost_ret (v := .tuple #[.agg #[.slice A5 rows.length c5], .agg #[.int .i64 0, .int .i64 0]]) (by simp [results, Tryz.results127, go_sem, y0, x0, x1]) rfl (HFIN.out _ S _ ?_ HS6.out.1 HS6.out.2.1 HS6.out.2.2 ?_)
      · exact ownsRow_setCell_below (ownsRow_setCell_below (ownsRow_setCell_below HR6.out (by show w.heap.size < _; omega) _) (by show w.heap.size + 1 < _; omega) _) (by show w.heap.size + 1 < _; omega) _
      · exact (((HB6.out.setCell (p := ⟨w.heap.size, 0, none⟩) (Nat.le_refl _) _).setCell (p := ⟨w.heap.size + 1, 0, none⟩) (Nat.le_succ _) _).setCell (p := ⟨w.heap.size + 1, 1, none⟩) (Nat.le_succ _) _)
end Go.Proofs.YtiigknimfibdpaaGreatDoor.tb
namespace Go.Proofs.YtiigknimfibdpaaGreatDoor.tb
open Go.RowKit Go.Lib
set_option linter.unusedVariables false
/-- The landed table. -/
def TBr (w : World) (B : Nat) (X : Value) (l : List (Int × Int)) : Prop := ∃ S, RO w B X S ∧ Dis S ∧ (∀ q ∈ S, q.ok) ∧ l = rps S
theorem tbr_keep (w w' : World) (B : Nat) (X : Value) (l : List (Int × Int)) (h : TBr w B X l) (hs : Same B w w') : TBr w' B X l := by
  obtain ⟨S, h1, h2⟩ := h
  exact ⟨S, h1.same hs.1 hs.2, h2⟩
theorem tbr_size (w : World) (X : Value) (l : List (Int × Int)) (h : TE TBr w X l) (hl : l.length ≤ 20000) : Calls Tryz.prog 129 #[.agg #[X]] w fun e w' => e = .returned (.int .i64 l.length) ∧ Below w.heap.size w w' := by
  obtain ⟨B, S, h1, h2, h3, rfl⟩ := h
  obtain ⟨A, c, rfl, hr⟩ := h1.rows
  have hz := siz_len S h3
  have hn := len_siz S h3
  rw [hz]
  exact size_any A S.length c S w hr rfl h3 (by omega) (by omega)
theorem tbr_forward (w : World) (X : Value) (l : List (Int × Int)) (c : Int) (h : TE TBr w X l) (hl : l.length ≤ 20000) : Calls Tryz.prog 72 #[.agg #[X], .int .i64 c] w fun e w' => e = .returned (.tuple #[.int .i32 ((lk l c).getD 0), .bool (lk l c).isSome]) ∧ Below w.heap.size w w' := by
  obtain ⟨B, S, h1, h2, h3, rfl⟩ := h
  obtain ⟨A, cc, rfl, hr⟩ := h1.rows
  have hn := len_siz S h3
  exact forward_any A S.length cc S c w hr rfl h3 h2 (by omega)
theorem tbr_reverse (w : World) (X : Value) (l : List (Int × Int)) (p : Int) (h : TE TBr w X l) (hl : l.length ≤ 20000) : Calls Tryz.prog 126 #[.agg #[X], .int .i32 p] w fun e w' => e = .returned (.tuple #[.int .i64 (if rev l p < 0 then 0 else rev l p), .bool (!decide (rev l p < 0))]) ∧ Below w.heap.size w w' := by
  obtain ⟨B, S, h1, h2, h3, rfl⟩ := h
  obtain ⟨A, cc, rfl, hr⟩ := h1.rows
  have hn := len_siz S h3
  exact reverse_any A S.length cc S p w hr rfl h3 (by omega)
theorem tbr_over (w : World) (X Y : Value) (l m : List (Int × Int)) (h : TE TBr w X l) (h' : TE TBr w Y m) (hl : l.length ≤ 8000) (hm : m.length ≤ 8000) : Calls Tryz.prog 115 #[.agg #[X], .agg #[Y]] w fun e w' => ∃ Z, e = .returned (.agg #[Z]) ∧ TE TBr w' Z (over l m) ∧ Below w.heap.size w w' := by
  obtain ⟨B, S, h1, h2, h3, rfl⟩ := h
  obtain ⟨A, cc, rfl, hr⟩ := h1.rows
  obtain ⟨B2, S2, k1, k2, k3, rfl⟩ := h'
  obtain ⟨A2, cc2, rfl, kr⟩ := k1.rows
  have hn := len_siz S h3
  have kn := len_siz S2 k3
  refine (over_any A S.length cc S A2 S2.length cc2 S2 w hr rfl h3 h2 (by omega) kr rfl k3 k2 (by omega)).mono ?_
  rintro e w' ⟨Z, R, rfl, r1, r2, r3, r4, r5⟩
  exact ⟨Z, rfl, ⟨w.heap.size, R, r1, r3, r4, (over_rows h2 h3 k2 k3 r3 r2).symm⟩, r5⟩
theorem tbr_new (w : World) (A : Option Addr) (n c : Nat) (l : List Pce) (hT : pt.Tabs w) (h : RowC w A n c l) (hn : n ≤ 12) (hs : ∀ p ∈ l, p.s.size ≤ 4000000) : Calls Tryz.prog 127 #[.slice A n c] w fun e w' => Below w.heap.size w w' ∧
    ((∃ Z, (made l).1 = none ∧ e = .returned (.tuple #[.agg #[Z], .agg #[.int .i64 5, .int .i64 (made l).2]]) ∧ TBr w' w.heap.size Z []) ∨ ∃ X r, (made l).1 = some r ∧ e = .returned (.tuple #[.agg #[X], .agg #[.int .i64 0, .int .i64 0]]) ∧ TBr w' w.heap.size X r) := by
  refine (new_any A n c l w h (by omega) hs hT).mono ?_
  rintro e w' ⟨hb, ⟨h1, h2⟩ | ⟨X, S, r, h1, h2, h3, h4, h5, h6⟩⟩
  · exact ⟨hb, .inl ⟨_, h1, h2, [], RO.nil _ _, List.Pairwise.nil, fun _ h => (by cases h), rfl⟩⟩
  · exact ⟨hb, .inr ⟨X, r, h1, h2, S, h3, h4, h5, h6.symm⟩⟩
theorem tabS : TabS pt.Tabs TBr where
  stay := fun w w' h hb => h.below hb
  keep := tbr_keep
  one := fun w X l ⟨B, S, h, _⟩ => h.one
  srt := fun w X l ⟨B, S, _, h2, _, h4⟩ => by rw [h4]; exact rps_srt S h2
end Go.Proofs.YtiigknimfibdpaaGreatDoor.tb
namespace Go.Proofs.YtiigknimfibdpaaGreatDoor.tb
open Go.RowKit Go.Lib
set_option linter.unusedVariables false
/-- A block of a piece. -/
structure F4 (w : World) (b : Nat) (p : Pce) : Prop where
  lt : b < w.heap.size
  c0 : w.cell? ⟨b, 0, none⟩ = some (.int .i64 p.f)
  c1 : w.cell? ⟨b, 1, none⟩ = some (.int .i32 p.t)
def ex1 : List Pce := [⟨0, 65, 3, ⟨#[]⟩⟩, ⟨10, 0, 0, ⟨#[120, 121]⟩⟩]
def ex2 : List Pce := [⟨1, 65, 1, ⟨#[]⟩⟩]
def exT : List (Int × Int) := [(0, 65), (1, 66), (2, 67), (10, 120), (11, 121)]
def exU : List (Int × Int) := [(1, 65)]
theorem made_ex1 : (made ex1).1 = some exT := by kernel_rfl
theorem made_ex2 : (made ex2).1 = some exU := by kernel_rfl
theorem over_ex : over exU exT = [(0, 65), (1, 65), (2, 67), (10, 120), (11, 121)] := by kernel_rfl
end Go.Proofs.YtiigknimfibdpaaGreatDoor.tb
namespace Go.Proofs.YtiigknimfibdpaaGreatDoor.tb
open Go.RowKit Go.Lib
set_option linter.unusedVariables false
theorem ok1 : ∀ p ∈ ex1, p.ok := by
  intro p hp
  simp [ex1] at hp
  rcases hp with rfl | rfl <;> exact ⟨by decide, by decide, by decide, by decide, by decide, by decide, by decide⟩
theorem ok2 : ∀ p ∈ ex2, p.ok := by
  intro p hp
  simp [ex2] at hp
  subst hp
  exact ⟨by decide, by decide, by decide, by decide, by decide, by decide, by decide⟩
/-- New of pieces that were just laid. -/
theorem new_lit (l : List Pce) (r : List (Int × Int)) (n : Nat) (w : World) (hT : pt.Tabs w) (hok : ∀ p ∈ l, p.ok) (hn : l.length = n) (h12 : n ≤ 12) (hs : ∀ p ∈ l, p.s.size ≤ 4000000) (hm : (made l).1 = some r) (t : TypeId) :
    Calls Tryz.prog 127 #[.slice (some ⟨w.heap.size, 0, none⟩) n n] (w.alloc (.cells (l.flatMap pcell).toArray t)) fun e w' => Below w.heap.size w w' ∧ ∃ X, e = .returned (.tuple #[.agg #[X], .agg #[.int .i64 0, .int .i64 0]]) ∧ TBr w' (w.heap.size + 1) X r := by
  subst hn
  have hb := (Below.refl w.heap.size w).alloc (Nat.le_refl _) (.cells (l.flatMap pcell).toArray t)
  refine (tbr_new _ _ _ _ l (hT.below hb) (rowC_new w l hok (by omega) t) h12 hs).mono ?_
  rintro e w' ⟨h1, ⟨_, h2, _⟩ | ⟨X, r', h2, h3, h4⟩⟩
  · rw [hm] at h2; cases h2
  · rw [hm] at h2
    injection h2 with h2
    subst h2
    rw [World.size_alloc] at h4
    exact ⟨hb.trans (h1.mono (by simp)), X, h3, h4⟩
/-- What stands once a table is made and laid. -/
structure Ts (w : World) (b : Nat) (X : Value) (l : List (Int × Int)) (W : World) : Prop where
  t : F1 W b X
  f : pt.F2 W (b + 1) 0 0
  tb : TE TBr W X l
  bel : Below w.heap.size w W
theorem Ts.below {w : World} {b : Nat} {X : Value} {l : List (Int × Int)} {W W' : World} (h : Ts w b X l W) (hb : Below W.heap.size W W') : Ts w b X l W' := by
  obtain ⟨B, h3⟩ := h.tb
  exact ⟨h.t.below hb h.t.lt, h.f.below hb h.f.lt, ⟨B, tbr_keep _ _ _ _ _ h3 (Same.of hb)⟩, h.bel.trans (hb.mono h.bel.size)⟩
theorem te_below {w w' : World} {X : Value} {l : List (Int × Int)} (h : TE TBr w X l) (hb : Below w.heap.size w w') : TE TBr w' X l := by
  obtain ⟨B, h⟩ := h
  exact ⟨B, tbr_keep _ _ _ _ _ h (Same.of hb)⟩
theorem TE.one {w : World} {X : Value} {l : List (Int × Int)} (h : TE TBr w X l) : X.oneCell' = true := by
  obtain ⟨B, S, h, _⟩ := h
  exact h.one
theorem ts_zero (W : World) : F1 ((W.alloc (.cells #[.slice none 0 0] 74)).alloc (.cells #[.int .i64 0, .int .i64 0] 54)) W.heap.size (.slice none 0 0) :=
  (f1_new W (.slice none 0 0) 74).below ((Below.refl (W.alloc (.cells #[.slice none 0 0] 74)).heap.size _).alloc (Nat.le_refl _) (.cells #[.int .i64 0, .int .i64 0] 54)) (by simp)
theorem lay_below (W : World) (X : Value) : Below W.heap.size W ((W.alloc (.cells #[X] 74)).alloc (.cells #[.int .i64 0, .int .i64 0] 54)) :=
  ((Below.refl W.heap.size W).alloc (Nat.le_refl _) _).alloc (by simp) _
theorem ts_new {w W : World} {X : Value} {l : List (Int × Int)} {B : Nat} (hb : Below w.heap.size w W) (hx : TBr W B X l) : Ts w W.heap.size X l ((W.alloc (.cells #[X] 74)).alloc (.cells #[.int .i64 0, .int .i64 0] 54)) := by
  have h2 : Below (W.alloc (.cells #[X] 74)).heap.size (W.alloc (.cells #[X] 74)) ((W.alloc (.cells #[X] 74)).alloc (.cells #[.int .i64 0, .int .i64 0] 54)) := (Below.refl _ _).alloc (Nat.le_refl _) _
  refine ⟨(f1_new W X _).below h2 (by simp), ?_, ⟨B, tbr_keep _ _ _ _ _ hx (Same.of (lay_below W X))⟩, hb.trans ((lay_below W X).mono hb.size)⟩
  have := pt.f2_new (W.alloc (.cells #[X] 74)) 0 0 54
  rwa [World.size_alloc] at this
set_option maxRecDepth 100000 in
set_option maxHeartbeats 8000000 in
theorem awake_walk (w : World) (hT : pt.Tabs w) : Calls Tryz.prog 95 #[] w fun e w' => e = .returned (.bool true) ∧ Below w.heap.size w w' := by
  have HT := Lib.hid hT
  have HB := Lib.hid (Below.refl w.heap.size w)
  have HN1 : Hid (∀ w2, pt.Tabs w2 → Calls Tryz.prog 127 #[.slice (some ⟨w2.heap.size, 0, none⟩) 2 2] (w2.alloc (.cells #[.int .i64 0, .int .i32 65, .int .i64 3, .string ⟨#[]⟩, .int .i64 10, .int .i32 0, .int .i64 0, .string ⟨#[120, 121]⟩] 139)) fun e w' => Below w2.heap.size w2 w' ∧ ∃ X, e = .returned (.tuple #[.agg #[X], .agg #[.int .i64 0, .int .i64 0]]) ∧ TBr w' (w2.heap.size + 1) X exT) := Lib.hid (fun w2 h2 => new_lit ex1 exT 2 w2 h2 ok1 rfl (by decide) (by simp [ex1]; decide) made_ex1 139)
  have HN2 : Hid (∀ w2, pt.Tabs w2 → Calls Tryz.prog 127 #[.slice (some ⟨w2.heap.size, 0, none⟩) 1 1] (w2.alloc (.cells #[.int .i64 1, .int .i32 65, .int .i64 1, .string ⟨#[]⟩] 139)) fun e w' => Below w2.heap.size w2 w' ∧ ∃ X, e = .returned (.tuple #[.agg #[X], .agg #[.int .i64 0, .int .i64 0]]) ∧ TBr w' (w2.heap.size + 1) X exU) := Lib.hid (fun w2 h2 => new_lit ex2 exU 1 w2 h2 ok2 rfl (by decide) (by simp [ex2]; decide) made_ex2 139)
  have HR1 : Hid (∀ W Z, TE TBr W Z (over exU exT) → Calls Tryz.prog 126 #[.agg #[Z], .int .i32 65] W fun e w' => e = .returned (.tuple #[.int .i64 0, .bool true]) ∧ Below W.heap.size W w') := Lib.hid (fun W Z h => (tbr_reverse W Z _ 65 h (by rw [over_ex]; decide)).mono fun e w' hh => ⟨by rw [hh.1, over_ex]; rfl, hh.2⟩)
  have HR2 : Hid (∀ W Z, TE TBr W Z (over exU exT) → Calls Tryz.prog 126 #[.agg #[Z], .int .i32 66] W fun e w' => e = .returned (.tuple #[.int .i64 0, .bool false]) ∧ Below W.heap.size W w') := Lib.hid (fun W Z h => (tbr_reverse W Z _ 66 h (by rw [over_ex]; decide)).mono fun e w' hh => ⟨by rw [hh.1, over_ex]; rfl, hh.2⟩)
  have HF1 : Hid (∀ W Z, TE TBr W Z (over exU exT) → Calls Tryz.prog 72 #[.agg #[Z], .int .i64 11] W fun e w' => e = .returned (.tuple #[.int .i32 121, .bool true]) ∧ Below W.heap.size W w') := Lib.hid (fun W Z h => (tbr_forward W Z _ 11 h (by rw [over_ex]; decide)).mono fun e w' hh => ⟨by rw [hh.1, over_ex]; rfl, hh.2⟩)
  have HSZ : Hid (∀ W Z, TE TBr W Z exT → Calls Tryz.prog 129 #[.agg #[Z]] W fun e w' => e = .returned (.int .i64 5) ∧ Below W.heap.size W w') := Lib.hid (fun W Z h => (tbr_size W Z _ h (by decide)).mono fun e w' hh => ⟨by rw [hh.1]; rfl, hh.2⟩)
  have HBD : Hid (∀ W, Calls Tryz.prog 24 #[.agg #[.int .i64 0, .int .i64 0]] W fun e w' => e = .returned (.bool false) ∧ Below W.heap.size W w') := Lib.hid (fun W => pt.bad_any W 0 0)
  clear hT
  go_enter Tryz.func95, Tryz.ntmps95
  go_wp2_with (first
    | (go_at_call 112; refine (seq_any _ _ _ _).mono ?_; rintro e1 w1 ⟨rfl, hb1⟩; have HB := Lib.hid (HB.out.trans (hb1.mono HB.out.size)); clear hb1)
    | (go_at_call 128; refine (list_any _ _ _).mono ?_; rintro e2 w2 ⟨rfl, hb2⟩; have HB := Lib.hid (HB.out.trans (hb2.mono HB.out.size)); clear hb2)
    | (go_at_call 127; (with_reducible refine (HN1.out _ (HT.out.below HB.out)).mono ?_); rintro e3 w3 ⟨hb3, X, rfl, hx⟩; have HB := Lib.hid (HB.out.trans (hb3.mono HB.out.size)); have S1 := Lib.hid (ts_new HB.out hx); have hst := (fun wx (a : Addr) m => run_store (P := Tryz.prog) (w := wx) (a := a) X m (TE.one ⟨_, hx⟩)); obtain ⟨_, z0, z1⟩ := ts_zero w3; clear hb3 hx)
    | (go_at_call 112; refine (seq_any _ _ _ _).mono ?_; rintro e4 w4 ⟨rfl, hb4⟩; have S1 := Lib.hid (S1.out.below hb4); have HB := Lib.hid S1.out.bel; clear hb4)
    | (go_at_call 127; (with_reducible refine (HN2.out _ (HT.out.below HB.out)).mono ?_); rintro e5 w5 ⟨hb5, Y, rfl, hy⟩; have S1 := Lib.hid ((S1.out.below hb5).below (lay_below w5 Y)); have HB := Lib.hid (HB.out.trans (hb5.mono HB.out.size)); have S2 := Lib.hid (ts_new HB.out hy); have hst2 := (fun wx (a : Addr) m => run_store (P := Tryz.prog) (w := wx) (a := a) Y m (TE.one ⟨_, hy⟩)); obtain ⟨_, z2, z3⟩ := ts_zero w5; obtain ⟨_, t0, _⟩ := S1.out.t; obtain ⟨_, u0, _⟩ := S2.out.t; clear hb5 hy)
    | (go_at_call 115; refine (tbr_over _ Y X _ _ S2.out.tb S1.out.tb (by decide) (by decide)).mono ?_; rintro e6 w6 ⟨Z, rfl, hz, hb6⟩; have hA := (Below.refl w6.heap.size w6).alloc (Nat.le_refl _) (.cells #[Z] 74); have S1 := Lib.hid ((S1.out.below hb6).below hA); have S2 := Lib.hid ((S2.out.below hb6).below hA); have S3 : Hid (F1 (w6.alloc (.cells #[Z] 74)) w6.heap.size Z ∧ TE TBr (w6.alloc (.cells #[Z] 74)) Z (over exU exT)) := Lib.hid ⟨f1_new w6 Z _, (by obtain ⟨B, hz⟩ := hz; exact ⟨B, tbr_keep _ _ _ _ _ hz (Same.of hA)⟩)⟩; have hst3 := (fun wx (a : Addr) m => run_store (P := Tryz.prog) (w := wx) (a := a) Z m (TE.one hz)); obtain ⟨_, z6, z7⟩ := f1_new w6 (.slice none 0 0) 74; obtain ⟨_, v0, _⟩ := S3.out.1; clear hz hb6 hA)
    | (go_at_call 126; (with_reducible refine (HR1.out _ Z S3.out.2).mono ?_); rintro e9 w9 ⟨rfl, hb9⟩; have S1 := Lib.hid (S1.out.below hb9); have S2 := Lib.hid (S2.out.below hb9); have S3 := Lib.hid (And.intro (S3.out.1.below hb9 S3.out.1.lt) (te_below S3.out.2 hb9)); obtain ⟨_, t0, _⟩ := S1.out.t; obtain ⟨_, f0, f1, _, _⟩ := S1.out.f; obtain ⟨_, g0, g1, _, _⟩ := S2.out.f; obtain ⟨_, v0, _⟩ := S3.out.1; clear hb9)
    | (go_at_call 126; (with_reducible refine (HR2.out _ Z S3.out.2).mono ?_); rintro e9 w9 ⟨rfl, hb9⟩; have S1 := Lib.hid (S1.out.below hb9); have S2 := Lib.hid (S2.out.below hb9); have S3 := Lib.hid (And.intro (S3.out.1.below hb9 S3.out.1.lt) (te_below S3.out.2 hb9)); obtain ⟨_, t0, _⟩ := S1.out.t; obtain ⟨_, f0, f1, _, _⟩ := S1.out.f; obtain ⟨_, g0, g1, _, _⟩ := S2.out.f; obtain ⟨_, v0, _⟩ := S3.out.1; clear hb9)
    | (go_at_call 72; (with_reducible refine (HF1.out _ Z S3.out.2).mono ?_); rintro e9 w9 ⟨rfl, hb9⟩; have S1 := Lib.hid (S1.out.below hb9); have S2 := Lib.hid (S2.out.below hb9); have S3 := Lib.hid (And.intro (S3.out.1.below hb9 S3.out.1.lt) (te_below S3.out.2 hb9)); obtain ⟨_, t0, _⟩ := S1.out.t; obtain ⟨_, f0, f1, _, _⟩ := S1.out.f; obtain ⟨_, g0, g1, _, _⟩ := S2.out.f; obtain ⟨_, v0, _⟩ := S3.out.1; clear hb9)
    | (go_at_call 24; (with_reducible refine (HBD.out _).mono ?_); rintro e9 w9 ⟨rfl, hb9⟩; have S1 := Lib.hid (S1.out.below hb9); have S2 := Lib.hid (S2.out.below hb9); have S3 := Lib.hid (And.intro (S3.out.1.below hb9 S3.out.1.lt) (te_below S3.out.2 hb9)); obtain ⟨_, t0, _⟩ := S1.out.t; obtain ⟨_, f0, f1, _, _⟩ := S1.out.f; obtain ⟨_, g0, g1, _, _⟩ := S2.out.f; obtain ⟨_, v0, _⟩ := S3.out.1; clear hb9)
    | (go_at_call 129; (with_reducible refine (HSZ.out _ X S1.out.tb).mono ?_); rintro e9 w9 ⟨rfl, hb9⟩; have S1 := Lib.hid (S1.out.below hb9); have S2 := Lib.hid (S2.out.below hb9); have S3 := Lib.hid (And.intro (S3.out.1.below hb9 S3.out.1.lt) (te_below S3.out.2 hb9)); obtain ⟨_, t0, _⟩ := S1.out.t; obtain ⟨_, f0, f1, _, _⟩ := S1.out.f; obtain ⟨_, g0, g1, _, _⟩ := S2.out.f; obtain ⟨_, v0, _⟩ := S3.out.1; clear hb9))
  go_ret
  exact ⟨rfl, S1.out.bel⟩
end Go.Proofs.YtiigknimfibdpaaGreatDoor.tb
