/- Several texts in one. -/
import Derived.Test.YtbgbgigpcegenaaGreatDoorZ12
import Derived.Test.YtbgbgigpcegenaaGreatDoorZ5
import Derived.Test.YtbgbgigpcegenaaGreatDoorZ10
import Derived.Deep.Cut
import Derived.Test.YtbgbgigpcegenaaGreatDoorZ3
import Derived.Test.YtbgbgigpcegenaaGreatDoorZ8
namespace Go.Proofs.YtbgbgigpcegenaaGreatDoor.tb
open Go.RowKit Go.Lib
set_option linter.unusedVariables false
theorem amid_iff (ps : List (Int × Int)) (c : Nat) : amid ps c = true ↔ ∃ q ∈ ps, q.1 = (c : Int) := by
  unfold amid; rw [List.any_eq_true]; simp
theorem join_some {all more : List (Int × Int)} {r : List (Int × Int)} (h : join all more = some r) : ∀ q ∈ more, lk all q.1 = none := by
  unfold join at h
  split at h
  · rename_i h1
    intro q hq
    exact (find_neg all q.1).1 (by simpa using List.all_eq_true.1 h1 q hq)
  · cases h
theorem join_none {all more : List (Int × Int)} (h : join all more = none) : ∃ q ∈ more, lk all q.1 ≠ none := by
  unfold join at h
  split at h
  · cases h
  · rename_i h1
    apply Classical.byContradiction
    intro h2
    apply h1
    rw [List.all_eq_true]
    intro q hq
    have : lk all q.1 = none := Classical.byContradiction fun h3 => h2 ⟨q, hq, h3⟩
    simp [(find_neg all q.1).2 this]
/-- What stands in New. -/
structure Nw (w : World) (v : Value) (rows : List Rw) (V : Value) (bs : List Bool) (W : World) : Prop where
  t : F1 W w.heap.size (.slice none 0 0)
  f : pt.F2 W (w.heap.size + 1) 0 0
  n : Nb (w.heap.size + 1 + 1 + 1) (w.heap.size + 1 + 1) V bs W
  r : RO W (w.heap.size + 1 + 1 + 1) v rows
  bel : Below w.heap.size w W
theorem Nw.below {w : World} {v : Value} {rows : List Rw} {V : Value} {bs : List Bool} {W W' : World} (h : Nw w v rows V bs W) (hb : Below W.heap.size W W') : Nw w v rows V bs W' :=
  ⟨h.t.below hb h.t.lt, h.f.below hb h.f.lt, h.n.below hb, h.r.below hb, h.bel.trans (hb.mono h.bel.size)⟩
theorem RO.kept {W W' : World} {B nb : Nat} {v : Value} {l : List Rw} {V : Value} {n : Nat} {xs : List Value} {B2 : Nat} (h : RO W B v l) (hV : W.ownsRow B2 4 1 V n xs) (hk : Kept nb V.ownBlock W W') (hB : nb < B) : RO W' B v l := by
  obtain ⟨h1, h2 | ⟨g, cap, cur, hv, hg, hh, r⟩⟩ := h
  · exact ⟨h1, .inl h2⟩
  · have hlt : g < W.heap.size := by
      rcases Nat.lt_or_ge g W.heap.size with h' | h'
      · exact h'
      · rw [Array.getElem?_eq_none h'] at hh; cases hh
    exact ⟨h1, .inr ⟨g, cap, cur, hv, hg, by rw [hk.block g hlt (by omega) (kind_ne hV hh (by decide))]; exact hh, r⟩⟩
theorem F2.kept {W W' : World} {b nb : Nat} {x y : Int} {g : Option Nat} (h : pt.F2 W b x y) (hk : Kept nb g W W') (h1 : b ≠ nb) (h2 : g ≠ some b) : pt.F2 W' b x y := by
  have e := hk.block b h.lt h1 h2
  have hc : ∀ i, W'.cell? ⟨b, i, none⟩ = W.cell? ⟨b, i, none⟩ := fun i => World.cell?_of_block (w := W) (a := ⟨b, i, none⟩) e
  have hf : ∀ i, W'.frozen? ⟨b, i, none⟩ = W.frozen? ⟨b, i, none⟩ := fun i => World.frozen?_of_block (w := W) (a := ⟨b, i, none⟩) e
  obtain ⟨a1, a2, a3, a4, a5⟩ := h
  exact ⟨Nat.lt_of_lt_of_le a1 hk.size, (hc _).trans a2, (hc _).trans a3, (hf _).trans a4, (hf _).trans a5⟩
theorem Nw.kept {w : World} {v : Value} {rows : List Rw} {V V' : Value} {bs bs' : List Bool} {W W' : World} (h : Nw w v rows V bs W) (hk : Kept (w.heap.size + 1 + 1) V.ownBlock W W') (hn : Nb (w.heap.size + 1 + 1 + 1) (w.heap.size + 1 + 1) V' bs' W') : Nw w v rows V' bs' W' := by
  have ho := h.n.o.lt
  have hlt : ∀ k, k < w.heap.size + 1 + 1 → V.ownBlock ≠ some k := fun k hk e => by have := (ho _ e).1; omega
  have e := hk.block w.heap.size h.t.lt (by omega) (hlt _ (by omega))
  refine ⟨⟨Nat.lt_of_lt_of_le h.t.lt hk.size, (World.cell?_of_block (w := W) (a := ⟨w.heap.size, 0, none⟩) e).trans h.t.c0, (World.frozen?_of_block (w := W) (a := ⟨w.heap.size, 0, none⟩) e).trans h.t.f0⟩, F2.kept h.f hk (by omega) (hlt _ (by omega)), hn, h.r.kept h.n.o hk (by omega), ?_⟩
  exact h.bel.trans ⟨hk.os, hk.tape, hk.output, hk.size, fun k hk' => hk.block k (by have := h.n.sz; omega) (by omega) (hlt k (by omega))⟩
theorem Nw.app {w : World} {v v' : Value} {rows rows' : List Rw} {V : Value} {bs : List Bool} {W W' : World} (h : Nw w v rows V bs W) (ho : RO W' (w.heap.size + 1 + 1 + 1) v' rows') (hg : W.grownBy W' v.ownBlock) : Nw w v' rows' V bs W' := by
  have hr := h.r.lt
  have hne : ∀ k, k < w.heap.size + 1 + 1 + 1 → v.ownBlock ≠ some k := fun k hk e => by have := (hr _ e).1; omega
  have hc : ∀ k, k < w.heap.size + 1 + 1 + 1 → k < W.heap.size → W'.heap[k]? = W.heap[k]? := fun k hk h1 => hg.block k h1 (fun e => hne k hk e.symm)
  refine ⟨h.t.grown hg (hne _ (by omega)), ?_, ⟨h.n.p.grown hg (hne _ (by omega)), ?_, h.n.lt, Nat.le_trans h.n.sz hg.size⟩, ho, below_own h.bel h.bel.size (own_base h.r (by omega)) hg⟩
  · obtain ⟨a1, a2, a3, a4, a5⟩ := h.f
    have e := hc (w.heap.size + 1) (by omega) a1
    have hc : ∀ i, W'.cell? ⟨w.heap.size + 1, i, none⟩ = W.cell? ⟨w.heap.size + 1, i, none⟩ := fun i => World.cell?_of_block (w := W) (a := ⟨w.heap.size + 1, i, none⟩) e
    have hf : ∀ i, W'.frozen? ⟨w.heap.size + 1, i, none⟩ = W.frozen? ⟨w.heap.size + 1, i, none⟩ := fun i => World.frozen?_of_block (w := W) (a := ⟨w.heap.size + 1, i, none⟩) e
    exact ⟨Nat.lt_of_lt_of_le a1 hg.size, (hc _).trans a2, (hc _).trans a3, (hf _).trans a4, (hf _).trans a5⟩
  · obtain ⟨h1, h2 | ⟨g, cap, cur, hv, hB, hh, r⟩⟩ := h.n.o
    · exact ⟨h1, .inl h2⟩
    · exact ⟨h1, .inr ⟨g, cap, cur, hv, hB, by rw [hg.block g (by rcases Nat.lt_or_ge g W.heap.size with h' | h'; exact h'; rw [Array.getElem?_eq_none h'] at hh; cases hh) (fun e => kind_ne h.r hh (by decide) e.symm)]; exact hh, r⟩⟩
end Go.Proofs.YtbgbgigpcegenaaGreatDoor.tb
namespace Go.Proofs.YtbgbgigpcegenaaGreatDoor.tb
open Go.RowKit Go.Lib
set_option linter.unusedVariables false
/-- What New answers. -/
def NewP (l : List Pce) (w : World) (e : Ending) (w' : World) : Prop :=
  Below w.heap.size w w' ∧ (((made l).1 = none ∧ e = .returned (.tuple #[.agg #[.slice none 0 0], .agg #[.int .i64 5, .int .i64 (made l).2]])) ∨
  ∃ X S r, (made l).1 = some r ∧ e = .returned (.tuple #[.agg #[X], .agg #[.int .i64 0, .int .i64 0]]) ∧ RO w' w.heap.size X S ∧ Dis S ∧ (∀ q ∈ S, q.ok) ∧ rps S = r)
set_option maxRecDepth 100000 in
set_option maxHeartbeats 16000000 in
theorem new_any (A : Option Addr) (n c : Nat) (l : List Pce) (w : World) (h : RowC w A n c l) (hn12 : n ≤ 100) (hsz : ∀ p ∈ l, p.s.size ≤ 4000000) (hT : pt.Tabs w) :
    Calls Tryz.prog 99 #[.slice A n c] w (NewP l w) := by
  obtain ⟨PP, hPP⟩ : ∃ PP, PP = NewP l w := ⟨_, rfl⟩
  rw [← hPP]
  have HPP := Lib.hid hPP
  have H := Lib.hid h; have HN := Lib.hid h.1; have HSZ := Lib.hid hsz; have HT := Lib.hid hT
  have hb1 := (Below.refl w.heap.size w).alloc (Nat.le_refl _) (.cells #[.slice none 0 0] 48)
  have hb2 := (Below.refl (w.alloc (.cells #[.slice none 0 0] 48)).heap.size (w.alloc (.cells #[.slice none 0 0] 48))).alloc (Nat.le_refl _) (.cells #[.int .i64 0, .int .i64 0] 32)
  have hb3 := (Below.refl ((w.alloc (.cells #[.slice none 0 0] 48)).alloc (.cells #[.int .i64 0, .int .i64 0] 32)).heap.size ((w.alloc (.cells #[.slice none 0 0] 48)).alloc (.cells #[.int .i64 0, .int .i64 0] 32))).alloc (Nat.le_refl _) (.cells #[.slice none 0 0] 158)
  have S0 : Hid (Nw w (.slice none 0 0) [] (.slice none 0 0) [] (((w.alloc (.cells #[.slice none 0 0] 48)).alloc (.cells #[.int .i64 0, .int .i64 0] 32)).alloc (.cells #[.slice none 0 0] 158))) := Lib.hid (by
    have e1 : (w.alloc (.cells #[.slice none 0 0] 48)).heap.size = w.heap.size + 1 := World.size_alloc _ _
    have e2 : ((w.alloc (.cells #[.slice none 0 0] 48)).alloc (.cells #[.int .i64 0, .int .i64 0] 32)).heap.size = w.heap.size + 1 + 1 := by rw [World.size_alloc, e1]
    have f2 := pt.f2_new (w.alloc (.cells #[.slice none 0 0] 48)) 0 0 32
    have f3 := f1_new ((w.alloc (.cells #[.slice none 0 0] 48)).alloc (.cells #[.int .i64 0, .int .i64 0] 32)) (.slice none 0 0) 158
    rw [e1] at f2
    rw [e2] at f3
    refine ⟨((f1_new w _ _).below hb2 (by rw [e1]; omega)).below hb3 (by rw [e2]; omega), f2.below hb3 (by rw [e2]; omega), ⟨f3, ⟨rfl, .inl ⟨rfl, rfl⟩⟩, by omega, by rw [World.size_alloc, e2]; exact Nat.le_refl _⟩, RO.nil _ _, ?_⟩
    exact (hb1.trans (hb2.mono (by rw [e1]; omega))).trans (hb3.mono (by rw [e2]; omega)))
  clear h hsz hT hPP hb1 hb2 hb3
  go_enter Tryz.func99, Tryz.ntmps99
  go_wp2_with fail
  go_loopw [4, 12] (fun v i wr => ∃ (j : Nat) (rows : List Rw) (V : Value) (bs : List Bool) (all : List (Int × Int)), j ≤ n ∧ i = .int .i64 j ∧ Nw w v rows V bs wr ∧ mk j all (l.drop j) = made l ∧ Srt all ∧ (∀ q, q ∈ rps rows ↔ q ∈ all) ∧ rows.Pairwise Apart ∧ (∀ r ∈ rows, r.ok) ∧ (∀ c, bit bs c = amid all c) ∧ bs.length ≤ 1048576 ∧ rows.length ≤ 4000000 * j) (fun _ i _ => n - (RowKit.intOf i).toNat)
  case atStart => exact ⟨0, [], .slice none 0 0, [], [], Nat.zero_le _, rfl, S0.out, rfl, Srt.nil, fun q => by simp [rps], List.Pairwise.nil, fun _ h => (by cases h), fun c => rfl, by simp, by simp⟩
  case round =>
    obtain ⟨j, rows, V, bs, all, hj, rfl, hnw, hmk, hsrt, hmem, hap, hro, hbit, hbl, hrl⟩ := hrel
    have HS := Lib.hid hnw; have HMK := Lib.hid hmk; have HSR := Lib.hid hsrt; have HME := Lib.hid hmem; have HAP := Lib.hid hap; have HRO := Lib.hid hro; have HBI := Lib.hid hbit
    have z3 := hnw.n.sz
    clear hnw hmk hsrt hmem hap hro hbit
    by_cases hlt : j < n
    · obtain ⟨a, rfl, a1, a2, hc, hok, htk, hdr⟩ := (H.out.below HS.out.bel).at j hlt
      unfold maxLen at a2
      have HDR := Lib.hid hdr
      have hps : (l.getD j p0).s.size ≤ 4000000 := HSZ.out _ (by simp [List.getD, List.getElem?_eq_getElem (show j < l.length by have := HN.out; omega)])
      clear htk hdr
      generalize l.getD j p0 = p at *
      obtain ⟨k0, k1, k2, k3⟩ := hc
      have HPR := Lib.hid (fun w2 h2 => rows_any p w2 hok hps h2)
      have hmk2 : made l = (match piece p.f p.t p.c p.s with | none => (none, (j : Int)) | some more => match join all more with | none => (none, (j : Int)) | some r => mk (j + 1) r (l.drop (j + 1))) := by rw [← HMK.out, HDR.out]; rfl
      cases hp : piece p.f p.t p.c p.s with
      | none =>
        rw [hp] at hmk2
        simp only at hmk2
        have HFIN : Hid (∀ w', Below w.heap.size w w' → PP (.returned (.tuple #[.agg #[.slice none 0 0], .agg #[.int .i64 5, .int .i64 (j : Int)]])) w') := Lib.hid (fun w' hb => by rw [HPP.out]; exact ⟨hb, .inl ⟨by rw [hmk2], by rw [hmk2]⟩⟩)
        have HPR2 : Hid (∀ w2, pt.Tabs w2 → Calls Tryz.prog 139 #[.agg #[.int .i64 p.f, .int .i32 p.t, .int .i64 p.c, .string p.s]] w2 fun e w' => e = .returned (.tuple #[.slice none 0 0, .bool false]) ∧ Below w2.heap.size w2 w') := Lib.hid (fun w2 h2 => (HPR.out w2 h2).mono fun e w' h => by
          rcases h with ⟨_, h1, h2⟩ | ⟨_, _, h0, _⟩
          · exact ⟨h1, h2⟩
          · rw [hp] at h0; cases h0)
        clear hmk2 hp HPR hok
        generalize p.c = C at *
        generalize p.s = S at *
        generalize p.f = F at *
        generalize p.t = T at *
        go_wp2_with (go_at_call 139; refine (HPR2.out _ (HT.out.below (HS.out.bel.alloc HS.out.bel.size (.cells #[.int .i64 F, .int .i32 T, .int .i64 C, .string S] 111)))).mono ?_; rintro e1 w1 ⟨rfl, hb1⟩; have S1 := Lib.hid ((HS.out.below ((Below.refl _ wr).alloc (Nat.le_refl _) (.cells #[.int .i64 F, .int .i32 T, .int .i64 C, .string S] 111))).below hb1); clear hb1; obtain ⟨y3, y0, y1⟩ := S1.out.t; obtain ⟨x3, x0, x1, x2, x4⟩ := S1.out.f)
        refine bodyPost_ret (v := .tuple #[.agg #[.slice none 0 0], .agg #[.int .i64 5, .int .i64 (j : Int)]]) (by simp [results, Tryz.results99, go_sem, y0, x0, x1]) rfl (HFIN.out _ ?_)
        exact (((S1.out.bel.setCell (p := ⟨w.heap.size, 0, none⟩) (Nat.le_refl _) _).setCell (p := ⟨w.heap.size + 1, 0, none⟩) (Nat.le_succ _) _).setCell (p := ⟨w.heap.size + 1, 1, none⟩) (Nat.le_succ _) _)
      | some more0 =>
        rw [hp] at hmk2
        simp only at hmk2
        have HPR2 : Hid (∀ w2, pt.Tabs w2 → Calls Tryz.prog 139 #[.agg #[.int .i64 p.f, .int .i32 p.t, .int .i64 p.c, .string p.s]] w2 fun e w' => ∃ v rows, rps rows = more0 ∧ e = .returned (.tuple #[v, .bool true]) ∧ RO w' w2.heap.size v rows ∧ Dis rows ∧ (∀ r ∈ rows, r.ok) ∧ rows.length ≤ 4000000 ∧ Below w2.heap.size w2 w') := Lib.hid (fun w2 h2 => (HPR.out w2 h2).mono fun e w' h => by
          rcases h with ⟨h0, _⟩ | ⟨v, rows, h0, h1, h3, h4, h5, h6, h7⟩
          · rw [hp] at h0; cases h0
          · rw [hp] at h0; injection h0 with h0; exact ⟨v, rows, h0.symm, h1, h3, h4, h5, h6, h7⟩)
        have hA : ∀ (W : World) (A1 : Option Addr) (cc1 : Nat) (more : List Rw), RO W wr.heap.size (.slice A1 more.length cc1) more → ∀ g o, A1 = some ⟨g, o, none⟩ → g ≠ w.heap.size + 1 + 1 ∧ V.ownBlock ≠ some g := fun W A1 cc1 more hr g o hA => by
          subst hA
          rcases hr.form with ⟨h0, _⟩ | ⟨g', cap, h0, h1, _⟩
          · cases h0
          · cases h0
            exact ⟨by omega, fun e => by have := (HS.out.n.o.lt _ e).2; omega⟩
        have HAA := Lib.hid hA
        cases hjn : join all more0 with
        | none =>
          rw [hjn] at hmk2
          simp only at hmk2
          have hbad := join_none hjn
          have HNT : Hid (∀ (W : World) (A1 : Option Addr) (cc1 : Nat) (more : List Rw), rps more = more0 → RowRw W A1 cc1 more → Dis more → (∀ r ∈ more, r.ok) → more.length ≤ 4000000 → Nb (w.heap.size + 1 + 1 + 1) (w.heap.size + 1 + 1) V bs W → (∀ g o, A1 = some ⟨g, o, none⟩ → g ≠ w.heap.size + 1 + 1 ∧ V.ownBlock ≠ some g) → Calls Tryz.prog 140 #[.pointer (some ⟨w.heap.size + 1 + 1, 0, none⟩), .slice A1 more.length cc1] W fun e w' => e = .returned (.bool false) ∧ Kept (w.heap.size + 1 + 1) V.ownBlock W w') := Lib.hid (fun W A1 cc1 more he h1 h2 h3 h4 h5 h6 => (note_any _ _ V bs A1 more.length cc1 more W h1 rfl h3 h2 (by omega) h5 hbl h6).mono fun e w' hh => by
            rcases hh with ⟨hk, ⟨g1, _⟩ | ⟨_, g2, _⟩⟩
            · exact ⟨g1, hk⟩
            · exfalso
              obtain ⟨q, hq, hq2⟩ := hbad
              have hq0 : 0 ≤ q.1 := by
                rw [← he] at hq
                obtain ⟨r, hr, k1, _⟩ := (rps_iff _ _).1 hq
                have := (h3 r hr).f0
                omega
              have k2 : amid (rps more) q.1.toNat = true := (amid_iff _ _).2 ⟨q, by rw [he]; exact hq, by omega⟩
              have k3 := g2 _ k2
              rw [HBI.out] at k3
              apply hq2
              rw [lk_none]
              intro r hr hre
              have : amid all q.1.toNat = true := (amid_iff _ _).2 ⟨r, hr, by omega⟩
              rw [this] at k3; cases k3)
          have HFIN : Hid (∀ w', Below w.heap.size w w' → PP (.returned (.tuple #[.agg #[.slice none 0 0], .agg #[.int .i64 5, .int .i64 (j : Int)]])) w') := Lib.hid (fun w' hb => by rw [HPP.out]; exact ⟨hb, .inl ⟨by rw [hmk2], by rw [hmk2]⟩⟩)
          clear hmk2 hp HPR hok hjn hbad hA
          generalize p.c = C at *
          generalize p.s = S at *
          generalize p.f = F at *
          generalize p.t = T at *
          go_wp2_with (first | (go_at_call 139; refine (HPR2.out _ (HT.out.below (HS.out.bel.alloc HS.out.bel.size (.cells #[.int .i64 F, .int .i32 T, .int .i64 C, .string S] 111)))).mono ?_; rintro e1 w1 ⟨v1, more, hmo, rfl, hr1, hd1, ho1, hl1, hb1⟩; have S1 := Lib.hid ((HS.out.below ((Below.refl _ wr).alloc (Nat.le_refl _) (.cells #[.int .i64 F, .int .i32 T, .int .i64 C, .string S] 111))).below hb1); have M1 := Lib.hid (And.intro hmo (And.intro hd1 (And.intro ho1 hl1))); obtain ⟨A1, cc1, rfl, hrw1⟩ := hr1.rows; have R1 := Lib.hid hrw1; have RO1 := Lib.hid (hr1.le (show wr.heap.size ≤ _ by simp)); clear hb1 hmo hd1 ho1 hl1 hr1 hrw1) | (go_at_call 140; refine (HNT.out _ A1 cc1 more M1.out.1 R1.out M1.out.2.1 M1.out.2.2.1 M1.out.2.2.2 S1.out.n (HAA.out _ A1 cc1 more RO1.out)).mono ?_; rintro e2 w2 ⟨rfl, hk2⟩; have HB2 : Hid (Below w.heap.size w w2) := Lib.hid (S1.out.bel.trans ⟨hk2.os, hk2.tape, hk2.output, hk2.size, fun k hk => hk2.block k (by have := S1.out.n.sz; omega) (by omega) (fun e => by have := (S1.out.n.o.lt _ e).1; omega)⟩); have hlt0 : ∀ k, k < w.heap.size + 1 + 1 → V.ownBlock ≠ some k := fun k hk e => (by have := (S1.out.n.o.lt _ e).1; omega); have e0 := hk2.block w.heap.size S1.out.t.lt (by omega) (hlt0 _ (by omega)); have T2 : Hid (F1 w2 w.heap.size (.slice none 0 0)) := Lib.hid ⟨Nat.lt_of_lt_of_le S1.out.t.lt hk2.size, (World.cell?_of_block (w := w1) (a := ⟨w.heap.size, 0, none⟩) e0).trans S1.out.t.c0, (World.frozen?_of_block (w := w1) (a := ⟨w.heap.size, 0, none⟩) e0).trans S1.out.t.f0⟩; have U2 := Lib.hid (F2.kept S1.out.f hk2 (by omega) (hlt0 _ (by omega))); clear hk2 hlt0 e0; obtain ⟨y3, y0, y1⟩ := T2.out; obtain ⟨x3, x0, x1, x2, x4⟩ := U2.out))
          refine bodyPost_ret (v := .tuple #[.agg #[.slice none 0 0], .agg #[.int .i64 5, .int .i64 (j : Int)]]) (by simp [results, Tryz.results99, go_sem, y0, x0, x1]) rfl (HFIN.out _ ?_)
          exact (((HB2.out.setCell (p := ⟨w.heap.size, 0, none⟩) (Nat.le_refl _) _).setCell (p := ⟨w.heap.size + 1, 0, none⟩) (Nat.le_succ _) _).setCell (p := ⟨w.heap.size + 1, 1, none⟩) (Nat.le_succ _) _)
        | some r =>
          rw [hjn] at hmk2
          simp only at hmk2
          have HM2 := Lib.hid hmk2
          have hgood := join_some hjn
          have HJN := Lib.hid hjn
          have HGD := Lib.hid hgood
          have HNT : Hid (∀ (W : World) (A1 : Option Addr) (cc1 : Nat) (more : List Rw), rps more = more0 → RowRw W A1 cc1 more → Dis more → (∀ r ∈ more, r.ok) → more.length ≤ 4000000 → Nb (w.heap.size + 1 + 1 + 1) (w.heap.size + 1 + 1) V bs W → (∀ g o, A1 = some ⟨g, o, none⟩ → g ≠ w.heap.size + 1 + 1 ∧ V.ownBlock ≠ some g) → Calls Tryz.prog 140 #[.pointer (some ⟨w.heap.size + 1 + 1, 0, none⟩), .slice A1 more.length cc1] W fun e w' => ∃ V' bs', e = .returned (.bool true) ∧ Nb (w.heap.size + 1 + 1 + 1) (w.heap.size + 1 + 1) V' bs' w' ∧ bs'.length ≤ 1048576 ∧ (∀ c, bit bs' c = (bit bs c || amid (rps more) c)) ∧ Kept (w.heap.size + 1 + 1) V.ownBlock W w') := Lib.hid (fun W A1 cc1 more he h1 h2 h3 h4 h5 h6 => (note_any _ _ V bs A1 more.length cc1 more W h1 rfl h3 h2 (by omega) h5 hbl h6).mono fun e w' hh => by
            rcases hh with ⟨hk, ⟨_, k, g1, g2⟩ | ⟨g1, g2, V', bs', g3, g4, g5⟩⟩
            · exfalso
              rw [HBI.out] at g2
              obtain ⟨q, hq, hqk⟩ := (amid_iff _ _).1 g1
              obtain ⟨r, hr, hrk⟩ := (amid_iff _ _).1 g2
              have := HGD.out q (by rw [← he]; exact hq)
              rw [lk_none] at this
              exact this r hr (by omega)
            · exact ⟨V', bs', g1, g3, g4, g5, hk⟩)
          clear hmk2 hp HPR hok hjn hgood hA
          generalize p.c = C at *
          generalize p.s = S at *
          generalize p.f = F at *
          generalize p.t = T at *
          go_wp2_with (first | (go_at_call 139; refine (HPR2.out _ (HT.out.below (HS.out.bel.alloc HS.out.bel.size (.cells #[.int .i64 F, .int .i32 T, .int .i64 C, .string S] 111)))).mono ?_; rintro e1 w1 ⟨v1, more, hmo, rfl, hr1, hd1, ho1, hl1, hb1⟩; have S1 := Lib.hid ((HS.out.below ((Below.refl _ wr).alloc (Nat.le_refl _) (.cells #[.int .i64 F, .int .i32 T, .int .i64 C, .string S] 111))).below hb1); have M1 := Lib.hid (And.intro hmo (And.intro hd1 (And.intro ho1 hl1))); obtain ⟨A1, cc1, rfl, hrw1⟩ := hr1.rows; have R1 := Lib.hid hrw1; have RO1 := Lib.hid (hr1.le (show wr.heap.size ≤ _ by simp)); clear hb1 hmo hd1 ho1 hl1 hr1 hrw1) | (go_at_call 140; refine (HNT.out _ A1 cc1 more M1.out.1 R1.out M1.out.2.1 M1.out.2.2.1 M1.out.2.2.2 S1.out.n (HAA.out _ A1 cc1 more RO1.out)).mono ?_; rintro e2 w2 ⟨V2, bs2, rfl, hn2, hl2, hbt2, hk2⟩; have S2 := Lib.hid (S1.out.kept hk2 hn2); have RO2 := Lib.hid (RO.kept RO1.out S1.out.n.o hk2 (by omega)); have NB2 := Lib.hid (And.intro hl2 hbt2); clear hn2 hl2 hbt2 hk2; obtain ⟨A9, c9, he9, hrw9⟩ := RO2.out.rows; cases he9; have R2 := Lib.hid hrw9; clear hrw9) | (at_builtin; refine append_rows rfl _ _ rfl (w.heap.size + 1 + 1 + 1) _ rows rfl S2.out.r A1 cc1 _ more rfl rfl R2.out (by have := M1.out.2.2.2; omega) S2.out.n.sz ?_; intro v5 w5 ho5 hg5; have S5 := Lib.hid (S2.out.app ho5 hg5); clear ho5 hg5))
          go_roundw
          case rel =>
            obtain ⟨m1, m2, m3, m4⟩ := M1.out
            have hgd : ∀ q ∈ rps more, lk all q.1 = none := by rw [m1]; exact HGD.out
            obtain ⟨r', j1, j2, j3, j4⟩ := join_rows HSR.out HME.out m2 m3 HAP.out HRO.out hgd
            rw [m1, HJN.out] at j1
            injection j1 with j1
            subst j1
            refine ⟨j + 1, rows ++ more, V2, bs2, r, by omega, by go_num, S5.out, HM2.out.symm, j2, j3, j4, fun q hq => ?_, fun k => ?_, NB2.out.1, by rw [List.length_append]; omega⟩
            · rcases List.mem_append.1 hq with hq | hq
              · exact HRO.out q hq
              · exact m3 q hq
            · rw [NB2.out.2 k, HBI.out k]
              rw [Bool.eq_iff_iff, Bool.or_eq_true, amid_iff, amid_iff, amid_iff]
              constructor
              · rintro (⟨q, h1, h2⟩ | ⟨q, h1, h2⟩)
                · exact ⟨q, (j3 q).1 (by rw [rps_app]; exact List.mem_append.2 (.inl ((HME.out q).2 h1))), h2⟩
                · exact ⟨q, (j3 q).1 (by rw [rps_app]; exact List.mem_append.2 (.inr h1)), h2⟩
              · rintro ⟨q, h1, h2⟩
                have h3 := (j3 q).2 h1
                rw [rps_app] at h3
                rcases List.mem_append.1 h3 with h3 | h3
                · exact .inl ⟨q, (HME.out q).1 h3, h2⟩
                · exact .inr ⟨q, h3, h2⟩
          case measure => simp [RowKit.intOf]; omega
    · obtain rfl : j = n := by omega
      have hnil : l.drop j = [] := List.drop_eq_nil_of_le (by rw [HN.out]; exact Nat.le_refl _)
      rw [hnil] at HMK
      have hfin : made l = (some all, -1) := by rw [← HMK.out]; rfl
      have HFIN : Hid (∀ X S w', RO w' (w.heap.size + 1 + 1 + 1) X S → Dis S → (∀ q ∈ S, q.ok) → (∀ q, q ∈ rps S ↔ q ∈ rps rows) → Below w.heap.size w w' → PP (.returned (.tuple #[.agg #[X], .agg #[.int .i64 0, .int .i64 0]])) w') := Lib.hid (fun X S w' h1 h2 h3 h4 hb => by
        rw [HPP.out]
        refine ⟨hb, .inr ⟨X, S, all, by rw [hfin], rfl, h1.le (by omega), h2, h3, srt_ext _ _ (rps_srt S h2) HSR.out fun q => (h4 q).trans (HME.out q)⟩⟩)
      have HOR := Lib.hid (ordered_any u4 rows (w.heap.size + 1 + 1 + 1) wr HS.out.r z3 (by omega) HAP.out HRO.out)
      obtain ⟨A5, c5, rfl⟩ := HS.out.r.slice
      clear hnil hfin
      go_wp2_with (go_at_call 131; refine HOR.out.mono ?_; rintro e1 w6 ⟨rfl, S, h1, h2, h3, h4, h5, h6⟩; have HS6 := Lib.hid (And.intro h2 (And.intro h3 h4)); have HR6 := Lib.hid h5; have HB6 := Lib.hid (HS.out.bel.trans (h6.mono (by omega))); obtain ⟨y3, y0, y1⟩ := HS.out.t.below h6 (by omega); obtain ⟨x3, x0, x1, x2, x4⟩ := HS.out.f.below h6 (by omega); clear h1 h2 h3 h4 h5 h6)
      refine bodyPost_ret (v := .tuple #[.agg #[.slice A5 rows.length c5], .agg #[.int .i64 0, .int .i64 0]]) (by simp [results, Tryz.results99, go_sem, y0, x0, x1]) rfl (HFIN.out _ S _ ?_ HS6.out.1 HS6.out.2.1 HS6.out.2.2 ?_)
      · exact ownsRow_setCell_below (ownsRow_setCell_below (ownsRow_setCell_below HR6.out (by show w.heap.size < _; omega) _) (by show w.heap.size + 1 < _; omega) _) (by show w.heap.size + 1 < _; omega) _
      · exact (((HB6.out.setCell (p := ⟨w.heap.size, 0, none⟩) (Nat.le_refl _) _).setCell (p := ⟨w.heap.size + 1, 0, none⟩) (Nat.le_succ _) _).setCell (p := ⟨w.heap.size + 1, 1, none⟩) (Nat.le_succ _) _)
end Go.Proofs.YtbgbgigpcegenaaGreatDoor.tb
namespace Go.Proofs.YtbgbgigpcegenaaGreatDoor.tb
open Go.RowKit Go.Lib
set_option linter.unusedVariables false
/-- The landed table. -/
def TBr (w : World) (B : Nat) (X : Value) (l : List (Int × Int)) : Prop := ∃ S, RO w B X S ∧ Dis S ∧ (∀ q ∈ S, q.ok) ∧ l = rps S
theorem tbr_keep (w w' : World) (B : Nat) (X : Value) (l : List (Int × Int)) (h : TBr w B X l) (hs : Same B w w') : TBr w' B X l := by
  obtain ⟨S, h1, h2⟩ := h
  exact ⟨S, h1.same hs.1 hs.2, h2⟩
theorem tbr_size (w : World) (X : Value) (l : List (Int × Int)) (h : TE TBr w X l) (hl : l.length ≤ 20000) : Calls Tryz.prog 101 #[.agg #[X]] w fun e w' => e = .returned (.int .i64 l.length) ∧ Below w.heap.size w w' := by
  obtain ⟨B, S, h1, h2, h3, rfl⟩ := h
  obtain ⟨A, c, rfl, hr⟩ := h1.rows
  have hz := siz_len S h3
  have hn := len_siz S h3
  rw [hz]
  exact size_any A S.length c S w hr rfl h3 (by omega) (by omega)
theorem tbr_forward (w : World) (X : Value) (l : List (Int × Int)) (c : Int) (h : TE TBr w X l) (hl : l.length ≤ 20000) : Calls Tryz.prog 46 #[.agg #[X], .int .i64 c] w fun e w' => e = .returned (.tuple #[.int .i32 ((lk l c).getD 0), .bool (lk l c).isSome]) ∧ Below w.heap.size w w' := by
  obtain ⟨B, S, h1, h2, h3, rfl⟩ := h
  obtain ⟨A, cc, rfl, hr⟩ := h1.rows
  have hn := len_siz S h3
  exact forward_any A S.length cc S c w hr rfl h3 h2 (by omega)
theorem tbr_reverse (w : World) (X : Value) (l : List (Int × Int)) (p : Int) (h : TE TBr w X l) (hl : l.length ≤ 20000) : Calls Tryz.prog 52 #[.agg #[X], .int .i32 p] w fun e w' => e = .returned (.tuple #[.int .i64 (if rev l p < 0 then 0 else rev l p), .bool (!decide (rev l p < 0))]) ∧ Below w.heap.size w w' := by
  obtain ⟨B, S, h1, h2, h3, rfl⟩ := h
  obtain ⟨A, cc, rfl, hr⟩ := h1.rows
  have hn := len_siz S h3
  exact reverse_any A S.length cc S p w hr rfl h3 (by omega)
theorem tbr_over (w : World) (X Y : Value) (l m : List (Int × Int)) (h : TE TBr w X l) (h' : TE TBr w Y m) (hl : l.length ≤ 8000) (hm : m.length ≤ 8000) : Calls Tryz.prog 86 #[.agg #[X], .agg #[Y]] w fun e w' => ∃ Z, e = .returned (.agg #[Z]) ∧ TE TBr w' Z (over l m) ∧ Below w.heap.size w w' := by
  obtain ⟨B, S, h1, h2, h3, rfl⟩ := h
  obtain ⟨A, cc, rfl, hr⟩ := h1.rows
  obtain ⟨B2, S2, k1, k2, k3, rfl⟩ := h'
  obtain ⟨A2, cc2, rfl, kr⟩ := k1.rows
  have hn := len_siz S h3
  have kn := len_siz S2 k3
  refine (over_any A S.length cc S A2 S2.length cc2 S2 w hr rfl h3 h2 (by omega) kr rfl k3 k2 (by omega)).mono ?_
  rintro e w' ⟨Z, R, rfl, r1, r2, r3, r4, r5⟩
  exact ⟨Z, rfl, ⟨w.heap.size, R, r1, r3, r4, (over_rows h2 h3 k2 k3 r3 r2).symm⟩, r5⟩
theorem tbr_new (w : World) (A : Option Addr) (n c : Nat) (l : List Pce) (hT : pt.Tabs w) (h : RowC w A n c l) (hn : n ≤ 12) (hs : ∀ p ∈ l, p.s.size ≤ 4000000) : Calls Tryz.prog 99 #[.slice A n c] w fun e w' => Below w.heap.size w w' ∧
    ((∃ Z, (made l).1 = none ∧ e = .returned (.tuple #[.agg #[Z], .agg #[.int .i64 5, .int .i64 (made l).2]]) ∧ TBr w' w.heap.size Z []) ∨ ∃ X r, (made l).1 = some r ∧ e = .returned (.tuple #[.agg #[X], .agg #[.int .i64 0, .int .i64 0]]) ∧ TBr w' w.heap.size X r) := by
  refine (new_any A n c l w h (by omega) hs hT).mono ?_
  rintro e w' ⟨hb, ⟨h1, h2⟩ | ⟨X, S, r, h1, h2, h3, h4, h5, h6⟩⟩
  · exact ⟨hb, .inl ⟨_, h1, h2, [], RO.nil _ _, List.Pairwise.nil, fun _ h => (by cases h), rfl⟩⟩
  · exact ⟨hb, .inr ⟨X, r, h1, h2, S, h3, h4, h5, h6.symm⟩⟩
theorem tabS : TabS pt.Tabs TBr where
  stay := fun w w' h hb => h.below hb
  keep := tbr_keep
  one := fun w X l ⟨B, S, h, _⟩ => h.one
  srt := fun w X l ⟨B, S, _, h2, _, h4⟩ => by rw [h4]; exact rps_srt S h2
end Go.Proofs.YtbgbgigpcegenaaGreatDoor.tb
namespace Go.Proofs.YtbgbgigpcegenaaGreatDoor.tb
open Go.RowKit Go.Lib
set_option linter.unusedVariables false
/-- A block of a piece. -/
structure F4 (w : World) (b : Nat) (p : Pce) : Prop where
  lt : b < w.heap.size
  c0 : w.cell? ⟨b, 0, none⟩ = some (.int .i64 p.f)
  c1 : w.cell? ⟨b, 1, none⟩ = some (.int .i32 p.t)
def ex1 : List Pce := [⟨0, 65, 3, ⟨#[]⟩⟩, ⟨10, 0, 0, ⟨#[120, 121]⟩⟩]
def ex2 : List Pce := [⟨1, 65, 1, ⟨#[]⟩⟩]
def exT : List (Int × Int) := [(0, 65), (1, 66), (2, 67), (10, 120), (11, 121)]
def exU : List (Int × Int) := [(1, 65)]
theorem made_ex1 : (made ex1).1 = some exT := by kernel_rfl
theorem made_ex2 : (made ex2).1 = some exU := by kernel_rfl
theorem over_ex : over exU exT = [(0, 65), (1, 65), (2, 67), (10, 120), (11, 121)] := by kernel_rfl
end Go.Proofs.YtbgbgigpcegenaaGreatDoor.tb
namespace Go.Proofs.YtbgbgigpcegenaaGreatDoor.tb
open Go.RowKit Go.Lib
set_option linter.unusedVariables false
theorem ok1 : ∀ p ∈ ex1, p.ok := by
  intro p hp
  simp [ex1] at hp
  rcases hp with rfl | rfl <;> exact ⟨by decide, by decide, by decide, by decide, by decide, by decide, by decide⟩
theorem ok2 : ∀ p ∈ ex2, p.ok := by
  intro p hp
  simp [ex2] at hp
  subst hp
  exact ⟨by decide, by decide, by decide, by decide, by decide, by decide, by decide⟩
/-- New of pieces that were just laid. -/
theorem new_lit (l : List Pce) (r : List (Int × Int)) (n : Nat) (w : World) (hT : pt.Tabs w) (hok : ∀ p ∈ l, p.ok) (hn : l.length = n) (h12 : n ≤ 12) (hs : ∀ p ∈ l, p.s.size ≤ 4000000) (hm : (made l).1 = some r) (t : TypeId) :
    Calls Tryz.prog 99 #[.slice (some ⟨w.heap.size, 0, none⟩) n n] (w.alloc (.cells (l.flatMap pcell).toArray t)) fun e w' => Below w.heap.size w w' ∧ ∃ X, e = .returned (.tuple #[.agg #[X], .agg #[.int .i64 0, .int .i64 0]]) ∧ TBr w' (w.heap.size + 1) X r := by
  subst hn
  have hb := (Below.refl w.heap.size w).alloc (Nat.le_refl _) (.cells (l.flatMap pcell).toArray t)
  refine (tbr_new _ _ _ _ l (hT.below hb) (rowC_new w l hok (by omega) t) h12 hs).mono ?_
  rintro e w' ⟨h1, ⟨_, h2, _⟩ | ⟨X, r', h2, h3, h4⟩⟩
  · rw [hm] at h2; cases h2
  · rw [hm] at h2
    injection h2 with h2
    subst h2
    rw [World.size_alloc] at h4
    exact ⟨hb.trans (h1.mono (by simp)), X, h3, h4⟩
/-- What stands once a table is made and laid. -/
structure Ts (w : World) (b : Nat) (X : Value) (l : List (Int × Int)) (W : World) : Prop where
  t : F1 W b X
  f : pt.F2 W (b + 1) 0 0
  tb : TE TBr W X l
  bel : Below w.heap.size w W
theorem Ts.below {w : World} {b : Nat} {X : Value} {l : List (Int × Int)} {W W' : World} (h : Ts w b X l W) (hb : Below W.heap.size W W') : Ts w b X l W' := by
  obtain ⟨B, h3⟩ := h.tb
  exact ⟨h.t.below hb h.t.lt, h.f.below hb h.f.lt, ⟨B, tbr_keep _ _ _ _ _ h3 (Same.of hb)⟩, h.bel.trans (hb.mono h.bel.size)⟩
theorem te_below {w w' : World} {X : Value} {l : List (Int × Int)} (h : TE TBr w X l) (hb : Below w.heap.size w w') : TE TBr w' X l := by
  obtain ⟨B, h⟩ := h
  exact ⟨B, tbr_keep _ _ _ _ _ h (Same.of hb)⟩
theorem TE.one {w : World} {X : Value} {l : List (Int × Int)} (h : TE TBr w X l) : X.oneCell' = true := by
  obtain ⟨B, S, h, _⟩ := h
  exact h.one
theorem ts_zero (W : World) : F1 ((W.alloc (.cells #[.slice none 0 0] 48)).alloc (.cells #[.int .i64 0, .int .i64 0] 32)) W.heap.size (.slice none 0 0) :=
  (f1_new W (.slice none 0 0) 48).below ((Below.refl (W.alloc (.cells #[.slice none 0 0] 48)).heap.size _).alloc (Nat.le_refl _) (.cells #[.int .i64 0, .int .i64 0] 32)) (by simp)
theorem lay_below (W : World) (X : Value) : Below W.heap.size W ((W.alloc (.cells #[X] 48)).alloc (.cells #[.int .i64 0, .int .i64 0] 32)) :=
  ((Below.refl W.heap.size W).alloc (Nat.le_refl _) _).alloc (by simp) _
theorem ts_new {w W : World} {X : Value} {l : List (Int × Int)} {B : Nat} (hb : Below w.heap.size w W) (hx : TBr W B X l) : Ts w W.heap.size X l ((W.alloc (.cells #[X] 48)).alloc (.cells #[.int .i64 0, .int .i64 0] 32)) := by
  have h2 : Below (W.alloc (.cells #[X] 48)).heap.size (W.alloc (.cells #[X] 48)) ((W.alloc (.cells #[X] 48)).alloc (.cells #[.int .i64 0, .int .i64 0] 32)) := (Below.refl _ _).alloc (Nat.le_refl _) _
  refine ⟨(f1_new W X _).below h2 (by simp), ?_, ⟨B, tbr_keep _ _ _ _ _ hx (Same.of (lay_below W X))⟩, hb.trans ((lay_below W X).mono hb.size)⟩
  have := pt.f2_new (W.alloc (.cells #[X] 48)) 0 0 32
  rwa [World.size_alloc] at this
set_option maxRecDepth 100000 in
set_option maxHeartbeats 8000000 in
theorem awake_walk (w : World) (hT : pt.Tabs w) : Calls Tryz.prog 54 #[] w fun e w' => e = .returned (.bool true) ∧ Below w.heap.size w w' := by
  have HT := Lib.hid hT
  have HB := Lib.hid (Below.refl w.heap.size w)
  have HN1 : Hid (∀ w2, pt.Tabs w2 → Calls Tryz.prog 99 #[.slice (some ⟨w2.heap.size, 0, none⟩) 2 2] (w2.alloc (.cells #[.int .i64 0, .int .i32 65, .int .i64 3, .string ⟨#[]⟩, .int .i64 10, .int .i32 0, .int .i64 0, .string ⟨#[120, 121]⟩] 111)) fun e w' => Below w2.heap.size w2 w' ∧ ∃ X, e = .returned (.tuple #[.agg #[X], .agg #[.int .i64 0, .int .i64 0]]) ∧ TBr w' (w2.heap.size + 1) X exT) := Lib.hid (fun w2 h2 => new_lit ex1 exT 2 w2 h2 ok1 rfl (by decide) (by simp [ex1]; decide) made_ex1 111)
  have HN2 : Hid (∀ w2, pt.Tabs w2 → Calls Tryz.prog 99 #[.slice (some ⟨w2.heap.size, 0, none⟩) 1 1] (w2.alloc (.cells #[.int .i64 1, .int .i32 65, .int .i64 1, .string ⟨#[]⟩] 111)) fun e w' => Below w2.heap.size w2 w' ∧ ∃ X, e = .returned (.tuple #[.agg #[X], .agg #[.int .i64 0, .int .i64 0]]) ∧ TBr w' (w2.heap.size + 1) X exU) := Lib.hid (fun w2 h2 => new_lit ex2 exU 1 w2 h2 ok2 rfl (by decide) (by simp [ex2]; decide) made_ex2 111)
  have HR1 : Hid (∀ W Z, TE TBr W Z (over exU exT) → Calls Tryz.prog 52 #[.agg #[Z], .int .i32 65] W fun e w' => e = .returned (.tuple #[.int .i64 0, .bool true]) ∧ Below W.heap.size W w') := Lib.hid (fun W Z h => (tbr_reverse W Z _ 65 h (by rw [over_ex]; decide)).mono fun e w' hh => ⟨by rw [hh.1, over_ex]; rfl, hh.2⟩)
  have HR2 : Hid (∀ W Z, TE TBr W Z (over exU exT) → Calls Tryz.prog 52 #[.agg #[Z], .int .i32 66] W fun e w' => e = .returned (.tuple #[.int .i64 0, .bool false]) ∧ Below W.heap.size W w') := Lib.hid (fun W Z h => (tbr_reverse W Z _ 66 h (by rw [over_ex]; decide)).mono fun e w' hh => ⟨by rw [hh.1, over_ex]; rfl, hh.2⟩)
  have HF1 : Hid (∀ W Z, TE TBr W Z (over exU exT) → Calls Tryz.prog 46 #[.agg #[Z], .int .i64 11] W fun e w' => e = .returned (.tuple #[.int .i32 121, .bool true]) ∧ Below W.heap.size W w') := Lib.hid (fun W Z h => (tbr_forward W Z _ 11 h (by rw [over_ex]; decide)).mono fun e w' hh => ⟨by rw [hh.1, over_ex]; rfl, hh.2⟩)
  have HSZ : Hid (∀ W Z, TE TBr W Z exT → Calls Tryz.prog 101 #[.agg #[Z]] W fun e w' => e = .returned (.int .i64 5) ∧ Below W.heap.size W w') := Lib.hid (fun W Z h => (tbr_size W Z _ h (by decide)).mono fun e w' hh => ⟨by rw [hh.1]; rfl, hh.2⟩)
  have HBD : Hid (∀ W, Calls Tryz.prog 11 #[.agg #[.int .i64 0, .int .i64 0]] W fun e w' => e = .returned (.bool false) ∧ Below W.heap.size W w') := Lib.hid (fun W => pt.bad_any W 0 0)
  clear hT
  go_enter Tryz.func54, Tryz.ntmps54
  go_wp2_with (first
    | (go_at_call 83; refine (seq_any _ _ _ _).mono ?_; rintro e1 w1 ⟨rfl, hb1⟩; have HB := Lib.hid (HB.out.trans (hb1.mono HB.out.size)); clear hb1)
    | (go_at_call 100; refine (list_any _ _ _).mono ?_; rintro e2 w2 ⟨rfl, hb2⟩; have HB := Lib.hid (HB.out.trans (hb2.mono HB.out.size)); clear hb2)
    | (go_at_call 99; (with_reducible refine (HN1.out _ (HT.out.below HB.out)).mono ?_); rintro e3 w3 ⟨hb3, X, rfl, hx⟩; have HB := Lib.hid (HB.out.trans (hb3.mono HB.out.size)); have S1 := Lib.hid (ts_new HB.out hx); have hst := (fun wx (a : Addr) m => run_store (P := Tryz.prog) (w := wx) (a := a) X m (TE.one ⟨_, hx⟩)); obtain ⟨_, z0, z1⟩ := ts_zero w3; clear hb3 hx)
    | (go_at_call 83; refine (seq_any _ _ _ _).mono ?_; rintro e4 w4 ⟨rfl, hb4⟩; have S1 := Lib.hid (S1.out.below hb4); have HB := Lib.hid S1.out.bel; clear hb4)
    | (go_at_call 99; (with_reducible refine (HN2.out _ (HT.out.below HB.out)).mono ?_); rintro e5 w5 ⟨hb5, Y, rfl, hy⟩; have S1 := Lib.hid ((S1.out.below hb5).below (lay_below w5 Y)); have HB := Lib.hid (HB.out.trans (hb5.mono HB.out.size)); have S2 := Lib.hid (ts_new HB.out hy); have hst2 := (fun wx (a : Addr) m => run_store (P := Tryz.prog) (w := wx) (a := a) Y m (TE.one ⟨_, hy⟩)); obtain ⟨_, z2, z3⟩ := ts_zero w5; obtain ⟨_, t0, _⟩ := S1.out.t; obtain ⟨_, u0, _⟩ := S2.out.t; clear hb5 hy)
    | (go_at_call 86; refine (tbr_over _ Y X _ _ S2.out.tb S1.out.tb (by decide) (by decide)).mono ?_; rintro e6 w6 ⟨Z, rfl, hz, hb6⟩; have hA := (Below.refl w6.heap.size w6).alloc (Nat.le_refl _) (.cells #[Z] 48); have S1 := Lib.hid ((S1.out.below hb6).below hA); have S2 := Lib.hid ((S2.out.below hb6).below hA); have S3 : Hid (F1 (w6.alloc (.cells #[Z] 48)) w6.heap.size Z ∧ TE TBr (w6.alloc (.cells #[Z] 48)) Z (over exU exT)) := Lib.hid ⟨f1_new w6 Z _, (by obtain ⟨B, hz⟩ := hz; exact ⟨B, tbr_keep _ _ _ _ _ hz (Same.of hA)⟩)⟩; have hst3 := (fun wx (a : Addr) m => run_store (P := Tryz.prog) (w := wx) (a := a) Z m (TE.one hz)); obtain ⟨_, z6, z7⟩ := f1_new w6 (.slice none 0 0) 48; obtain ⟨_, v0, _⟩ := S3.out.1; clear hz hb6 hA)
    | (go_at_call 52; (with_reducible refine (HR1.out _ Z S3.out.2).mono ?_); rintro e9 w9 ⟨rfl, hb9⟩; have S1 := Lib.hid (S1.out.below hb9); have S2 := Lib.hid (S2.out.below hb9); have S3 := Lib.hid (And.intro (S3.out.1.below hb9 S3.out.1.lt) (te_below S3.out.2 hb9)); obtain ⟨_, t0, _⟩ := S1.out.t; obtain ⟨_, f0, f1, _, _⟩ := S1.out.f; obtain ⟨_, g0, g1, _, _⟩ := S2.out.f; obtain ⟨_, v0, _⟩ := S3.out.1; clear hb9)
    | (go_at_call 52; (with_reducible refine (HR2.out _ Z S3.out.2).mono ?_); rintro e9 w9 ⟨rfl, hb9⟩; have S1 := Lib.hid (S1.out.below hb9); have S2 := Lib.hid (S2.out.below hb9); have S3 := Lib.hid (And.intro (S3.out.1.below hb9 S3.out.1.lt) (te_below S3.out.2 hb9)); obtain ⟨_, t0, _⟩ := S1.out.t; obtain ⟨_, f0, f1, _, _⟩ := S1.out.f; obtain ⟨_, g0, g1, _, _⟩ := S2.out.f; obtain ⟨_, v0, _⟩ := S3.out.1; clear hb9)
    | (go_at_call 46; (with_reducible refine (HF1.out _ Z S3.out.2).mono ?_); rintro e9 w9 ⟨rfl, hb9⟩; have S1 := Lib.hid (S1.out.below hb9); have S2 := Lib.hid (S2.out.below hb9); have S3 := Lib.hid (And.intro (S3.out.1.below hb9 S3.out.1.lt) (te_below S3.out.2 hb9)); obtain ⟨_, t0, _⟩ := S1.out.t; obtain ⟨_, f0, f1, _, _⟩ := S1.out.f; obtain ⟨_, g0, g1, _, _⟩ := S2.out.f; obtain ⟨_, v0, _⟩ := S3.out.1; clear hb9)
    | (go_at_call 11; (with_reducible refine (HBD.out _).mono ?_); rintro e9 w9 ⟨rfl, hb9⟩; have S1 := Lib.hid (S1.out.below hb9); have S2 := Lib.hid (S2.out.below hb9); have S3 := Lib.hid (And.intro (S3.out.1.below hb9 S3.out.1.lt) (te_below S3.out.2 hb9)); obtain ⟨_, t0, _⟩ := S1.out.t; obtain ⟨_, f0, f1, _, _⟩ := S1.out.f; obtain ⟨_, g0, g1, _, _⟩ := S2.out.f; obtain ⟨_, v0, _⟩ := S3.out.1; clear hb9)
    | (go_at_call 101; (with_reducible refine (HSZ.out _ X S1.out.tb).mono ?_); rintro e9 w9 ⟨rfl, hb9⟩; have S1 := Lib.hid (S1.out.below hb9); have S2 := Lib.hid (S2.out.below hb9); have S3 := Lib.hid (And.intro (S3.out.1.below hb9 S3.out.1.lt) (te_below S3.out.2 hb9)); obtain ⟨_, t0, _⟩ := S1.out.t; obtain ⟨_, f0, f1, _, _⟩ := S1.out.f; obtain ⟨_, g0, g1, _, _⟩ := S2.out.f; obtain ⟨_, v0, _⟩ := S3.out.1; clear hb9))
  go_ret
  exact ⟨rfl, S1.out.bel⟩
end Go.Proofs.YtbgbgigpcegenaaGreatDoor.tb
namespace Go.Proofs.YtbgbgigpcegenaaGreatDoor.tb
open Go.RowKit Go.Lib
set_option linter.unusedVariables false
/-- A new variable: the word of a table. -/
structure Fr (w : World) (p : Nat) (X : Value) : Prop where
  f : F1 w p X
  k : ∃ cs, w.heap[p]? = some (.cells cs 48)
theorem Fr.below {w w' : World} {p B : Nat} {X : Value} (h : Fr w p X) (hb : Below B w w') (hB : p < B) : Fr w' p X :=
  ⟨h.f.below hb hB, by obtain ⟨cs, h⟩ := h.k; exact ⟨cs, by rw [hb.block p hB]; exact h⟩⟩
theorem fr_new (w : World) (X : Value) : Fr (w.alloc (.cells #[X] 48)) w.heap.size X := ⟨f1_new w X _, ⟨#[X], heap_alloc_new w _⟩⟩
theorem Fr.put {w : World} {p : Nat} {X u : Value} (h : Fr w p X) (hc : (w.setCell ⟨p, 0, none⟩ u).cell? ⟨p, 0, none⟩ = some u) (hz : ∃ cs, (w.setCell ⟨p, 0, none⟩ u).heap[p]? = some (.cells cs 48)) : Fr (w.setCell ⟨p, 0, none⟩ u) p u :=
  ⟨⟨by simpa [World.setCell] using h.f.lt, hc, by simpa using h.f.f0⟩, hz⟩
theorem Fr.put' {w : World} {p : Nat} {X : Value} (h : Fr w p X) (u : Value) : Fr (w.setCell ⟨p, 0, none⟩ u) p u := by
  obtain ⟨cs, hk⟩ := h.k
  have hc := h.f.c0
  have hx : 0 < cs.size := by
    simp only [World.cell?, hk, Option.isSome_none, Bool.false_eq_true, if_false] at hc
    exact (Array.getElem?_eq_some_iff.1 hc).1
  have hp := h.f.lt
  refine h.put ?_ ?_
  · exact World.cell?_setCell_same w ⟨p, 0, none⟩ u (by rw [hc])
  · refine ⟨cs.setIfInBounds 0 u, ?_⟩
    obtain ⟨_, hk2⟩ := Array.getElem?_eq_some_iff.1 hk
    simp only [World.setCell]
    rw [Array.getElem?_eq_getElem (by simpa using hp), Array.getElem_modify, hk2]
    simp
/-- A table's rows don't lie in a variable of a table's word. -/
theorem te_put {w : World} {p : Nat} {X V : Value} {l : List (Int × Int)} (h : TE TBr w V l) (hp : Fr w p X) (u : Value) : TE TBr (w.setCell ⟨p, 0, none⟩ u) V l := by
  obtain ⟨B, S, ⟨h1, h2⟩, h3⟩ := h
  refine ⟨B, S, ⟨h1, ?_⟩, h3⟩
  rcases h2 with h2 | ⟨g, cap, cur, hv, hg, hh, r⟩
  · exact .inl h2
  · refine .inr ⟨g, cap, cur, hv, hg, ?_, r⟩
    have hne : g ≠ p := fun e => by
      subst e
      obtain ⟨cs, hk⟩ := hp.k
      rw [hk] at hh
      injection hh with hh
      injection hh with _ hh
      exact absurd hh (by decide)
    rw [Below.heap_setCell _ _ _ _ hne]; exact hh
variable {wb : World} {x y z : List (Int × Int)} {k : Nat} {A B : Bool} {v1 v2 v3 v4 v5 v6 : Value} {W W' : World}
section
variable {P : Program} {ops : Array Oper} {Q : Exit → Act → World → Prop} {S : World → Prop}
end
end Go.Proofs.YtbgbgigpcegenaaGreatDoor.tb
namespace Go.Proofs.YtbgbgigpcegenaaGreatDoor.sg
open Go.RowKit Go.Lib
open Go.Proofs.YtbgbgigpcegenaaGreatDoor.tb
set_option linter.unusedVariables false
def tbl (c : Int) : List (Int × Int) := (List.range 256).map fun (n : Nat) => ((n : Int), sgn c n)
def joins : List (List (Int × Int)) → List (Int × Int) → Option (List (Int × Int))
  | [], all => some all
  | m :: ms, all => match join all m with
    | none => none
    | some q => joins ms q
theorem mk_joins : ∀ (l : List Pce) (ms : List (List (Int × Int))) (i : Nat) (all r : List (Int × Int)), l.map (fun p => piece p.f p.t p.c p.s) = ms.map some → joins ms all = some r → (mk i all l).1 = some r
  | [], [], i, all, r, _, h2 => h2
  | [], m :: ms, i, all, r, h1, _ => by simp at h1
  | p :: ps, [], i, all, r, h1, _ => by simp at h1
  | p :: ps, m :: ms, i, all, r, h1, h2 => by
    rw [List.map_cons, List.map_cons] at h1
    injection h1 with h1 h3
    unfold mk
    rw [h1]
    unfold joins at h2
    cases hj : join all m with
    | none => rw [hj] at h2; cases h2
    | some q =>
      rw [hj] at h2
      simp only [hj]
      exact mk_joins ps ms (i + 1) q r h3 h2
theorem made_joins {l : List Pce} {ms : List (List (Int × Int))} {r : List (Int × Int)} (h1 : l.map (fun p => piece p.f p.t p.c p.s) = ms.map some) (h2 : joins ms [] = some r) : (made l).1 = some r := mk_joins l ms 0 [] r h1 h2
theorem piece_list {s : ByteArray} {L : List Nat} (f : Int) (hs : pt.scan s = (L, none)) (hz : s.size ≠ 0) (h0 : 0 ≤ f) (h1 : f + L.length ≤ 1048576) : piece f 0 0 s = some (lsp f (L.map Int.ofNat)) := by
  have e : pt.zsOf s = L.map Int.ofNat := by unfold pt.zsOf; rw [hs]
  unfold piece
  rw [if_neg hz, e, hs, if_neg]
  simp
  omega
theorem joins_lat : joins [sqp 0 0 256] [] = some (tbl 0) := by decide +kernel
theorem joins_koi : joins [sqp 0 0 128, lsp 128 (rusL.map Int.ofNat)] [] = some (tbl 1) := by decide +kernel
theorem joins_cp : joins [sqp 0 0 128, sqp 128 1040 48, lsp 176 (fraL.map Int.ofNat), sqp 224 1088 16, lsp 240 (othL.map Int.ofNat)] [] = some (tbl 3) := by decide +kernel
def ukr : List (Int × Int) := [(164, 1108), (166, 1110), (167, 1111), (173, 1169), (180, 1028), (182, 1030), (183, 1031), (189, 1168)]
theorem over_ukr : over ukr (tbl 1) = tbl 2 := by decide +kernel
def pUkr : List Pce := [⟨164, 0, 0, ⟨#[209, 148]⟩⟩, ⟨166, 0, 0, ⟨#[209, 150, 209, 151]⟩⟩, ⟨173, 0, 0, ⟨#[210, 145]⟩⟩, ⟨180, 0, 0, ⟨#[208, 132]⟩⟩, ⟨182, 0, 0, ⟨#[208, 134, 208, 135]⟩⟩, ⟨189, 0, 0, ⟨#[210, 144]⟩⟩]
theorem made_ukr : (made pUkr).1 = some ukr := by kernel_rfl
theorem tbl_len (c : Int) : (tbl c).length = 256 := by simp [tbl]
theorem made_lat : (made [⟨0, 0, 256, ⟨#[]⟩⟩]).1 = some (tbl 0) := made_joins (ms := [sqp 0 0 256]) (by kernel_rfl) joins_lat
theorem made_koi {s : ByteArray} (hs : pt.scan s = (rusL, none)) (hz : s.size ≠ 0) : (made [⟨0, 0, 128, ⟨#[]⟩⟩, ⟨128, 0, 0, s⟩]).1 = some (tbl 1) :=
  made_joins (ms := [sqp 0 0 128, lsp 128 (rusL.map Int.ofNat)]) (by
    have e1 : piece 0 0 128 ⟨#[]⟩ = some (sqp 0 0 128) := by kernel_rfl
    have e2 := piece_list 128 hs hz (by omega) (by rw [show rusL.length = 128 from rfl]; omega)
    simp only [List.map_cons, List.map_nil, e1, e2]) joins_koi
theorem made_cp {s u : ByteArray} (hs : pt.scan s = (fraL, none)) (hz : s.size ≠ 0) (hu : pt.scan u = (othL, none)) (hv : u.size ≠ 0) : (made [⟨0, 0, 128, ⟨#[]⟩⟩, ⟨128, 1040, 48, ⟨#[]⟩⟩, ⟨176, 0, 0, s⟩, ⟨224, 1088, 16, ⟨#[]⟩⟩, ⟨240, 0, 0, u⟩]).1 = some (tbl 3) :=
  made_joins (ms := [sqp 0 0 128, sqp 128 1040 48, lsp 176 (fraL.map Int.ofNat), sqp 224 1088 16, lsp 240 (othL.map Int.ofNat)]) (by
    have e1 : piece 0 0 128 ⟨#[]⟩ = some (sqp 0 0 128) := by kernel_rfl
    have e2 : piece 128 1040 48 ⟨#[]⟩ = some (sqp 128 1040 48) := by kernel_rfl
    have e3 := piece_list 176 hs hz (by omega) (by rw [show fraL.length = 48 from rfl]; omega)
    have e4 : piece 224 1088 16 ⟨#[]⟩ = some (sqp 224 1088 16) := by kernel_rfl
    have e5 := piece_list 240 hu hv (by omega) (by rw [show othL.length = 16 from rfl]; omega)
    simp only [List.map_cons, List.map_nil, e1, e2, e3, e4, e5]) joins_cp
set_option maxRecDepth 100000 in
set_option maxHeartbeats 4000000 in
theorem stable_any (A : Option Addr) (n c : Nat) (l : List Pce) (r : List (Int × Int)) (w : World) (h : RowC w A n c l) (hn : n ≤ 12) (hsz : ∀ p ∈ l, p.s.size ≤ 4000000) (hm : (made l).1 = some r) (hK : pt.Tabs w) :
    Calls Tryz.prog 82 #[.slice A n c] w fun e w' => ∃ X, e = .returned (.agg #[X]) ∧ TE TBr w' X r ∧ Below w.heap.size w w' := by
  have T := tb.tabS
  have HN2 : Hid (∀ w2, pt.Tabs w2 → RowC w2 A n c l → Calls Tryz.prog 99 #[.slice A n c] w2 fun e w' => Below w2.heap.size w2 w' ∧ ∃ X e1 f1, e = .returned (.tuple #[.agg #[X], .agg #[.int .i64 e1, .int .i64 f1]]) ∧ TBr w' w2.heap.size X r) := Lib.hid (fun w2 h1 h2 => (tbr_new w2 A n c l h1 h2 hn hsz).mono fun e w' h => ⟨h.1, by
    rcases h.2 with ⟨Z, h3, h4, h5⟩ | ⟨X, r', h3, h4, h5⟩
    · rw [hm] at h3; cases h3
    · rw [hm] at h3; injection h3 with h3; subst h3; exact ⟨X, 0, 0, h4, h5⟩⟩)
  have H := Lib.hid h; have HK := Lib.hid hK; have HT := Lib.hid T
  clear h hK T hsz hm
  go_enter Tryz.func82, Tryz.ntmps82
  go_wp2_with (go_at_call 99; refine (HN2.out _ (HT.out.stay _ _ HK.out (by repeat (first | (with_reducible exact Below.refl _ _) | (with_reducible refine Below.setCell ?_ (by simp) _) | (with_reducible refine Below.alloc ?_ (by simp) _)))) (H.out.below (by repeat (first | (with_reducible exact Below.refl _ _) | (with_reducible refine Below.setCell ?_ (by simp) _) | (with_reducible refine Below.alloc ?_ (by simp) _))))).mono ?_; rintro e2 w2 ⟨hb2, X, e1, f1, rfl, ht2⟩; obtain ⟨_, z0, z1⟩ := (f1_new w2 (.slice none 0 0) 48).below ((Below.refl (w2.alloc (.cells #[.slice none 0 0] 48)).heap.size _).alloc (Nat.le_refl _) (.cells #[.int .i64 0, .int .i64 0] 32)) (by simp); have hst := fun wx (a : Addr) m => run_store (P := Tryz.prog) (w := wx) (a := a) X m (HT.out.one _ _ _ ⟨_, ht2⟩); have q0 : w.heap.size < w2.heap.size := (by have := hb2.size; simp at this; omega); have hw : Below w2.heap.size w2 (w2.alloc (.cells #[X] 48)) := (Below.refl _ _).alloc (Nat.le_refl _) _; have hw2 : Below (w2.alloc (.cells #[X] 48)).heap.size (w2.alloc (.cells #[X] 48)) ((w2.alloc (.cells #[X] 48)).alloc (.cells #[.int .i64 e1, .int .i64 f1] 32)) := (Below.refl _ _).alloc (Nat.le_refl _) _; have X1 := (f1_new w2 X 48).below hw2 (by simp); have Y0 := (f1_new w (.slice none 0 0) 48).below hb2 (by simp); have Y1 := (Y0.below hw q0).below hw2 (by simp; omega); have n0 : ¬ w.heap.size = w2.heap.size := (by omega); have n1 : ¬ w2.heap.size = w.heap.size := (by omega); have HB2 := Lib.hid hb2; have HT2 := Lib.hid ht2; obtain ⟨_, x0, x1⟩ := X1; obtain ⟨_, y0, y1⟩ := Y1; clear hw hw2 hb2 ht2)
  have e0 : (w.alloc (.cells #[.slice none 0 0] 48)).heap.size = w.heap.size + 1 := World.size_alloc _ _
  have hs : Same (w.heap.size + 1) w2 ((((w2.setCell ⟨w.heap.size, 0, none⟩ X).alloc (.cells #[X] 48)).alloc (.cells #[.int .i64 e1, .int .i64 f1] 32))) := by
    refine ⟨by simp; omega, fun k h1 h2 => ?_⟩
    rw [Below.heap_alloc _ _ _ (by simp; omega), Below.heap_alloc _ _ _ (by simp; omega), Below.heap_setCell _ _ _ _ (by show k ≠ w.heap.size; omega)]
  have hb : Below w.heap.size w ((((w2.setCell ⟨w.heap.size, 0, none⟩ X).alloc (.cells #[X] 48)).alloc (.cells #[.int .i64 e1, .int .i64 f1] 32))) := by
    have h1 : Below w.heap.size w w2 := ((Below.refl _ _).alloc (Nat.le_refl _) (.cells #[.slice none 0 0] 48)).trans (HB2.out.mono (by simp))
    exact ((h1.setCell (Nat.le_refl _) _).alloc (by simp; omega) _).alloc (by simp; omega) _
  have ht := HT2.out
  rw [e0] at ht
  have htb := HT.out.keep _ _ _ _ _ ht hs
  have hc : ((((w2.setCell ⟨w.heap.size, 0, none⟩ X).alloc (.cells #[X] 48)).alloc (.cells #[.int .i64 e1, .int .i64 f1] 32))).cell? ⟨w.heap.size, 0, none⟩ = some X := by
    have h1 : (w2.setCell ⟨w.heap.size, 0, none⟩ X).cell? ⟨w.heap.size, 0, none⟩ = some X := World.cell?_setCell_same _ _ _ Y0.c0
    have h2 : Below (w2.setCell ⟨w.heap.size, 0, none⟩ X).heap.size (w2.setCell ⟨w.heap.size, 0, none⟩ X) ((w2.setCell ⟨w.heap.size, 0, none⟩ X).alloc (.cells #[X] 48)) := (Below.refl _ _).alloc (Nat.le_refl _) _
    have h3 := ((Below.refl ((w2.setCell ⟨w.heap.size, 0, none⟩ X).alloc (.cells #[X] 48)).heap.size _).alloc (Nat.le_refl _) (.cells #[.int .i64 e1, .int .i64 f1] 32)).cell (p := ⟨w.heap.size, 0, none⟩) (by simp; omega)
    exact h3.trans ((h2.cell (p := ⟨w.heap.size, 0, none⟩) (by simp; omega)).trans h1)
  refine bodyPost_ret (v := .agg #[X]) ?_ rfl ⟨X, rfl, ⟨_, htb⟩, hb⟩
  simp [results, Tryz.results82, go_sem, hc]
/-- Of pieces that were just laid. -/
theorem stable_lit (l : List Pce) (r : List (Int × Int)) (n : Nat) (w : World) (hT : pt.Tabs w) (hok : ∀ p ∈ l, p.ok) (hn : l.length = n) (h12 : n ≤ 12) (hs : ∀ p ∈ l, p.s.size ≤ 4000000) (hm : (made l).1 = some r) (t : TypeId) :
    Calls Tryz.prog 82 #[.slice (some ⟨w.heap.size, 0, none⟩) n n] (w.alloc (.cells (l.flatMap pcell).toArray t)) fun e w' => ∃ X, e = .returned (.agg #[X]) ∧ TE TBr w' X r ∧ Below w.heap.size w w' := by
  subst hn
  have hb := (Below.refl w.heap.size w).alloc (Nat.le_refl _) (.cells (l.flatMap pcell).toArray t)
  refine (stable_any _ _ _ l r _ (rowC_new w l hok (by omega) t) h12 hs hm (hT.below hb)).mono ?_
  rintro e w' ⟨X, h1, h2, h3⟩
  exact ⟨X, h1, h2, hb.trans (h3.mono (by simp))⟩
end Go.Proofs.YtbgbgigpcegenaaGreatDoor.sg
namespace Go.Proofs.YtbgbgigpcegenaaGreatDoor.sg
open Go.RowKit Go.Lib
open Go.Proofs.YtbgbgigpcegenaaGreatDoor.tb
set_option linter.unusedVariables false
/-- A block of four words. -/
structure G4 (w : World) (b : Nat) (x y z u : Value) : Prop where
  lt : b < w.heap.size
  c0 : w.cell? ⟨b, 0, none⟩ = some x
  c1 : w.cell? ⟨b, 1, none⟩ = some y
  c2 : w.cell? ⟨b, 2, none⟩ = some z
  c3 : w.cell? ⟨b, 3, none⟩ = some u
  fr : ∀ i, w.frozen? ⟨b, i, none⟩ = false
theorem G4.below {w w' : World} {b B : Nat} {x y z u : Value} (h : G4 w b x y z u) (hb : Below B w w') (hB : b < B) : G4 w' b x y z u :=
  ⟨Nat.lt_of_lt_of_le h.lt hb.size, (hb.cell (p := ⟨b, 0, none⟩) hB).trans h.c0, (hb.cell (p := ⟨b, 1, none⟩) hB).trans h.c1, (hb.cell (p := ⟨b, 2, none⟩) hB).trans h.c2, (hb.cell (p := ⟨b, 3, none⟩) hB).trans h.c3, fun i => (hb.frozen (p := ⟨b, i, none⟩) hB).trans (h.fr i)⟩
theorem g4_new (w : World) (x y z u : Value) (t : Nat) : G4 (w.alloc (.cells #[x, y, z, u] t)) w.heap.size x y z u := by
  refine ⟨by simp, ?_, ?_, ?_, ?_, fun i => by simp⟩ <;> (rw [World.cell?_alloc_mark]; rfl)
set_option maxRecDepth 100000 in
theorem plain_any (w : World) : Calls Tryz.prog 128 #[] w fun e w' => e = .returned (.agg #[.int .i64 0, .int .i32 0, .int .i64 128, .string ⟨#[]⟩]) ∧ Below w.heap.size w w' := by
  go_enter Tryz.func128, Tryz.ntmps128
  go_wp2_with (go_at_call 83; refine (seq_any _ _ _ _).mono ?_; rintro e1 w1 ⟨rfl, hb1⟩; have HB := Lib.hid (((Below.refl w.heap.size w).alloc (Nat.le_refl _) (.cells #[.int .i64 0, .int .i32 0, .int .i64 0, .string ⟨#[]⟩] 111)).trans (hb1.mono (by simp))); obtain ⟨_, g0, g1, g2, g3, g4⟩ := (g4_new w (.int .i64 0) (.int .i32 0) (.int .i64 0) (.string ⟨#[]⟩) 111).below hb1 (by simp); clear hb1)
  refine bodyPost_ret (v := .agg #[.int .i64 0, .int .i32 0, .int .i64 128, .string ⟨#[]⟩]) (by simp [results, Tryz.results128, go_sem, g0, g1, g2, g3]) rfl ⟨rfl, ?_⟩
  exact ((((HB.out.setCell (p := ⟨w.heap.size, 0, none⟩) (by simp) _).setCell (p := ⟨w.heap.size, 1, none⟩) (by simp) _).setCell (p := ⟨w.heap.size, 2, none⟩) (by simp) _).setCell (p := ⟨w.heap.size, 3, none⟩) (by simp) _)
/-- The cell of a result, while it isn't written. -/
structure Gs (w W : World) : Prop where
  f : Fr W w.heap.size (.slice none 0 0)
  b : Below w.heap.size w W
theorem Gs.new (w : World) : Gs w (w.alloc (.cells #[.slice none 0 0] 48)) := ⟨fr_new w _, (Below.refl _ _).alloc (Nat.le_refl _) _⟩
theorem Gs.below {w W W' : World} (h : Gs w W) (hb : Below W.heap.size W W') : Gs w W' := ⟨h.f.below hb h.f.f.lt, h.b.trans (hb.mono h.b.size)⟩
theorem Gs.fin {w W : World} (h : Gs w W) {X : Value} {l : List (Int × Int)} (ht : TE TBr W X l) (u : Value) : TE TBr (W.setCell ⟨w.heap.size, 0, none⟩ u) X l ∧ Below w.heap.size w (W.setCell ⟨w.heap.size, 0, none⟩ u) ∧ (W.setCell ⟨w.heap.size, 0, none⟩ u).cell? ⟨w.heap.size, 0, none⟩ = some u :=
  ⟨te_put ht h.f u, h.b.setCell (p := ⟨w.heap.size, 0, none⟩) (Nat.le_refl _) _, (h.f.put' u).f.c0⟩
theorem okSeq (f t c : Int) (h : -9223372036854775808 ≤ f ∧ f ≤ 9223372036854775807 ∧ -2147483648 ≤ t ∧ t ≤ 2147483647 ∧ -9223372036854775808 ≤ c ∧ c ≤ 9223372036854775807) {s : ByteArray} (hs : s.size ≤ 2000) : (⟨f, t, c, s⟩ : Pce).ok :=
  ⟨h.1, h.2.1, h.2.2.1, h.2.2.2.1, h.2.2.2.2.1, h.2.2.2.2.2, by show s.size ≤ _; omega⟩
theorem lat_lit (W : World) (hW : pt.Tabs W) : Calls Tryz.prog 82 #[.slice (some ⟨W.heap.size, 0, none⟩) 1 1] (W.alloc (.cells #[.int .i64 0, .int .i32 0, .int .i64 256, .string ⟨#[]⟩] 111)) fun e w' => ∃ X, e = .returned (.agg #[X]) ∧ TE TBr w' X (tbl 0) ∧ Below W.heap.size W w' :=
  stable_lit [⟨0, 0, 256, ⟨#[]⟩⟩] (tbl 0) 1 W hW (by intro p hp; simp at hp; subst hp; exact okSeq _ _ _ (by decide) (by decide)) rfl (by decide) (by intro p hp; simp at hp; subst hp; decide) made_lat 111
theorem koi_lit (s : ByteArray) (hs : pt.scan s = (rusL, none)) (hz : s.size ≠ 0) (hz2 : s.size ≤ 2000) (W : World) (hW : pt.Tabs W) : Calls Tryz.prog 82 #[.slice (some ⟨W.heap.size, 0, none⟩) 2 2] (W.alloc (.cells #[.int .i64 0, .int .i32 0, .int .i64 128, .string ⟨#[]⟩, .int .i64 128, .int .i32 0, .int .i64 0, .string s] 111)) fun e w' => ∃ X, e = .returned (.agg #[X]) ∧ TE TBr w' X (tbl 1) ∧ Below W.heap.size W w' :=
  stable_lit [⟨0, 0, 128, ⟨#[]⟩⟩, ⟨128, 0, 0, s⟩] (tbl 1) 2 W hW (by intro p hp; simp at hp; rcases hp with rfl | rfl; exact okSeq _ _ _ (by decide) (by decide); exact okSeq _ _ _ (by decide) hz2) rfl (by decide) (by intro p hp; simp at hp; rcases hp with rfl | rfl; decide; (show s.size ≤ _); omega) (made_koi hs hz) 111
theorem cp_lit (s u : ByteArray) (hs : pt.scan s = (fraL, none)) (hz : s.size ≠ 0) (hz2 : s.size ≤ 2000) (hu : pt.scan u = (othL, none)) (hv : u.size ≠ 0) (hv2 : u.size ≤ 2000) (W : World) (hW : pt.Tabs W) :
    Calls Tryz.prog 82 #[.slice (some ⟨W.heap.size, 0, none⟩) 5 5] (W.alloc (.cells #[.int .i64 0, .int .i32 0, .int .i64 128, .string ⟨#[]⟩, .int .i64 128, .int .i32 1040, .int .i64 48, .string ⟨#[]⟩, .int .i64 176, .int .i32 0, .int .i64 0, .string s, .int .i64 224, .int .i32 1088, .int .i64 16, .string ⟨#[]⟩, .int .i64 240, .int .i32 0, .int .i64 0, .string u] 111)) fun e w' => ∃ X, e = .returned (.agg #[X]) ∧ TE TBr w' X (tbl 3) ∧ Below W.heap.size W w' :=
  stable_lit [⟨0, 0, 128, ⟨#[]⟩⟩, ⟨128, 1040, 48, ⟨#[]⟩⟩, ⟨176, 0, 0, s⟩, ⟨224, 1088, 16, ⟨#[]⟩⟩, ⟨240, 0, 0, u⟩] (tbl 3) 5 W hW (by intro p hp; simp at hp; rcases hp with rfl | rfl | rfl | rfl | rfl; exact okSeq _ _ _ (by decide) (by decide); exact okSeq _ _ _ (by decide) (by decide); exact okSeq _ _ _ (by decide) hz2; exact okSeq _ _ _ (by decide) (by decide); exact okSeq _ _ _ (by decide) hv2) rfl (by decide)
    (by intro p hp; simp at hp; rcases hp with rfl | rfl | rfl | rfl | rfl; decide; decide; (show s.size ≤ _); omega; decide; (show u.size ≤ _); omega) (made_cp hs hz hu hv) 111
theorem ukr_lit (W : World) (hW : pt.Tabs W) :
    Calls Tryz.prog 82 #[.slice (some ⟨W.heap.size, 0, none⟩) 6 6] (W.alloc (.cells #[.int .i64 164, .int .i32 0, .int .i64 0, .string ⟨#[209, 148]⟩, .int .i64 166, .int .i32 0, .int .i64 0, .string ⟨#[209, 150, 209, 151]⟩, .int .i64 173, .int .i32 0, .int .i64 0, .string ⟨#[210, 145]⟩, .int .i64 180, .int .i32 0, .int .i64 0, .string ⟨#[208, 132]⟩, .int .i64 182, .int .i32 0, .int .i64 0, .string ⟨#[208, 134, 208, 135]⟩, .int .i64 189, .int .i32 0, .int .i64 0, .string ⟨#[210, 144]⟩] 111)) fun e w' => ∃ X, e = .returned (.agg #[X]) ∧ TE TBr w' X ukr ∧ Below W.heap.size W w' :=
  stable_lit pUkr ukr 6 W hW (by intro p hp; simp [pUkr] at hp; rcases hp with rfl | rfl | rfl | rfl | rfl | rfl <;> exact okSeq _ _ _ (by decide) (by decide)) rfl (by decide) (by intro p hp; simp [pUkr] at hp; rcases hp with rfl | rfl | rfl | rfl | rfl | rfl <;> decide) made_ukr 111
set_option maxRecDepth 100000 in
set_option maxHeartbeats 2000000 in
theorem koi_any (w : World) (hT : pt.Tabs w) : Calls Tryz.prog 84 #[] w fun e w' => ∃ X, e = .returned (.agg #[X]) ∧ TE TBr w' X (tbl 1) ∧ Below w.heap.size w w' := by
  have HT := Lib.hid hT
  have G0 := Lib.hid (Gs.new w)
  have HTB := Lib.hid koi_lit
  clear hT
  go_enter Tryz.func84, Tryz.ntmps84
  go_wp2_with (first
    | (go_at_call 128; refine (plain_any _).mono ?_; rintro e1 w1 ⟨rfl, hb1⟩; have G1 := Lib.hid (G0.out.below hb1); clear hb1)
    | (go_at_call 100; refine (list_any _ _ _).mono ?_; rintro e2 w2 ⟨rfl, hb2⟩; have G2 := Lib.hid (G1.out.below hb2); clear hb2)
    | (go_at_call 82; refine (HTB.out _ (by decide +kernel) (by decide +kernel) (by decide +kernel) _ (HT.out.below G2.out.b)).mono ?_; rintro e3 w3 ⟨X, rfl, hx, hb3⟩; have G3 := Lib.hid (G2.out.below hb3); have X3 := Lib.hid hx; have hst := (fun wx (a : Addr) m => run_store (P := Tryz.prog) (w := wx) (a := a) X m (TE.one hx)); obtain ⟨⟨_, z0, z1⟩, _⟩ := G3.out.f; clear hx hb3))
  obtain ⟨t1, t2, t3⟩ := G3.out.fin X3.out X
  exact bodyPost_ret (v := .agg #[X]) (by simp [results, Tryz.results84, go_sem, t3]) rfl ⟨X, rfl, t1, t2⟩
set_option maxRecDepth 100000 in
set_option maxHeartbeats 2000000 in
theorem ukr_any (w : World) (hT : pt.Tabs w) : Calls Tryz.prog 85 #[] w fun e w' => ∃ X, e = .returned (.agg #[X]) ∧ TE TBr w' X ukr ∧ Below w.heap.size w w' := by
  have HT := Lib.hid hT
  have G0 := Lib.hid (Gs.new w)
  have HTB := Lib.hid ukr_lit
  clear hT
  go_enter Tryz.func85, Tryz.ntmps85
  go_wp2_with (first
    | (go_at_call 100; refine (list_any _ _ _).mono ?_; rintro e2 w2 ⟨rfl, hb2⟩; have G0 := Lib.hid (G0.out.below hb2); clear hb2)
    | (go_at_call 82; refine (HTB.out _ (HT.out.below G0.out.b)).mono ?_; rintro e3 w3 ⟨X, rfl, hx, hb3⟩; have G3 := Lib.hid (G0.out.below hb3); have X3 := Lib.hid hx; have hst := (fun wx (a : Addr) m => run_store (P := Tryz.prog) (w := wx) (a := a) X m (TE.one hx)); obtain ⟨⟨_, z0, z1⟩, _⟩ := G3.out.f; clear hx hb3))
  obtain ⟨t1, t2, t3⟩ := G3.out.fin X3.out X
  exact bodyPost_ret (v := .agg #[X]) (by simp [results, Tryz.results85, go_sem, t3]) rfl ⟨X, rfl, t1, t2⟩
set_option maxRecDepth 100000 in
set_option maxHeartbeats 2000000 in
theorem cp_any (w : World) (hT : pt.Tabs w) : Calls Tryz.prog 87 #[] w fun e w' => ∃ X, e = .returned (.agg #[X]) ∧ TE TBr w' X (tbl 3) ∧ Below w.heap.size w w' := by
  have HT := Lib.hid hT
  have G0 := Lib.hid (Gs.new w)
  have HTB := Lib.hid cp_lit
  clear hT
  go_enter Tryz.func87, Tryz.ntmps87
  go_wp2_with (first
    | (go_at_call 128; refine (plain_any _).mono ?_; rintro e1 w1 ⟨rfl, hb1⟩; have G0 := Lib.hid (G0.out.below hb1); clear hb1)
    | (go_at_call 83; refine (seq_any _ _ _ _).mono ?_; rintro e1 w1 ⟨rfl, hb1⟩; have G0 := Lib.hid (G0.out.below hb1); clear hb1)
    | (go_at_call 100; refine (list_any _ _ _).mono ?_; rintro e2 w2 ⟨rfl, hb2⟩; have G0 := Lib.hid (G0.out.below hb2); clear hb2)
    | (go_at_call 82; refine (HTB.out _ _ (by decide +kernel) (by decide +kernel) (by decide +kernel) (by decide +kernel) (by decide +kernel) (by decide +kernel) _ (HT.out.below G0.out.b)).mono ?_; rintro e3 w3 ⟨X, rfl, hx, hb3⟩; have G3 := Lib.hid (G0.out.below hb3); have X3 := Lib.hid hx; have hst := (fun wx (a : Addr) m => run_store (P := Tryz.prog) (w := wx) (a := a) X m (TE.one hx)); obtain ⟨⟨_, z0, z1⟩, _⟩ := G3.out.f; clear hx hb3))
  obtain ⟨t1, t2, t3⟩ := G3.out.fin X3.out X
  exact bodyPost_ret (v := .agg #[X]) (by simp [results, Tryz.results87, go_sem, t3]) rfl ⟨X, rfl, t1, t2⟩
end Go.Proofs.YtbgbgigpcegenaaGreatDoor.sg
namespace Go.Proofs.YtbgbgigpcegenaaGreatDoor.sg
open Go.RowKit Go.Lib
open Go.Proofs.YtbgbgigpcegenaaGreatDoor.tb
set_option linter.unusedVariables false
set_option maxRecDepth 100000 in
set_option maxHeartbeats 2000000 in
theorem tof_lat (w : World) (hT : pt.Tabs w) : Calls Tryz.prog 45 #[.int .i64 0] w fun e w' => ∃ X, e = .returned (.tuple #[.agg #[X], .bool true]) ∧ TE TBr w' X (tbl 0) ∧ Below w.heap.size w w' := by
  have HT := Lib.hid hT
  have G0 := Lib.hid (Gs.new w)
  clear hT
  go_enter Tryz.func45, Tryz.ntmps45
  go_wp2_with (first | (go_at_call 83; refine (seq_any _ _ _ _).mono ?_; rintro e1 w1 ⟨rfl, hb1⟩; have G0 := Lib.hid (G0.out.below hb1); clear hb1) | (go_at_call 82; refine (lat_lit _ (HT.out.below G0.out.b)).mono ?_; rintro e3 w3 ⟨X, rfl, hx, hb3⟩; have G3 := Lib.hid (G0.out.below hb3); have X3 := Lib.hid hx; have hst := (fun wx (a : Addr) m => run_store (P := Tryz.prog) (w := wx) (a := a) X m (TE.one hx)); obtain ⟨⟨_, z0, z1⟩, _⟩ := G3.out.f; clear hx hb3))
  obtain ⟨t1, t2, t3⟩ := G3.out.fin X3.out X
  exact bodyPost_ret (v := .tuple #[.agg #[X], .bool true]) (by simp [results, Tryz.results45, go_sem, t3]) rfl ⟨X, rfl, t1, t2⟩
set_option maxRecDepth 100000 in
set_option maxHeartbeats 2000000 in
theorem tof_koi (w : World) (hT : pt.Tabs w) : Calls Tryz.prog 45 #[.int .i64 1] w fun e w' => ∃ X, e = .returned (.tuple #[.agg #[X], .bool true]) ∧ TE TBr w' X (tbl 1) ∧ Below w.heap.size w w' := by
  have HT := Lib.hid hT
  have G0 := Lib.hid (Gs.new w)
  clear hT
  go_enter Tryz.func45, Tryz.ntmps45
  go_wp2_with (first | (go_at_call 84; refine (koi_any _ (HT.out.below G0.out.b)).mono ?_; rintro e3 w3 ⟨X, rfl, hx, hb3⟩; have G3 := Lib.hid (G0.out.below hb3); have X3 := Lib.hid hx; have hst := (fun wx (a : Addr) m => run_store (P := Tryz.prog) (w := wx) (a := a) X m (TE.one hx)); obtain ⟨⟨_, z0, z1⟩, _⟩ := G3.out.f; clear hx hb3))
  obtain ⟨t1, t2, t3⟩ := G3.out.fin X3.out X
  exact bodyPost_ret (v := .tuple #[.agg #[X], .bool true]) (by simp [results, Tryz.results45, go_sem, t3]) rfl ⟨X, rfl, t1, t2⟩
set_option maxRecDepth 100000 in
set_option maxHeartbeats 2000000 in
theorem tof_cp (w : World) (hT : pt.Tabs w) : Calls Tryz.prog 45 #[.int .i64 3] w fun e w' => ∃ X, e = .returned (.tuple #[.agg #[X], .bool true]) ∧ TE TBr w' X (tbl 3) ∧ Below w.heap.size w w' := by
  have HT := Lib.hid hT
  have G0 := Lib.hid (Gs.new w)
  clear hT
  go_enter Tryz.func45, Tryz.ntmps45
  go_wp2_with (first | (go_at_call 87; refine (cp_any _ (HT.out.below G0.out.b)).mono ?_; rintro e3 w3 ⟨X, rfl, hx, hb3⟩; have G3 := Lib.hid (G0.out.below hb3); have X3 := Lib.hid hx; have hst := (fun wx (a : Addr) m => run_store (P := Tryz.prog) (w := wx) (a := a) X m (TE.one hx)); obtain ⟨⟨_, z0, z1⟩, _⟩ := G3.out.f; clear hx hb3))
  obtain ⟨t1, t2, t3⟩ := G3.out.fin X3.out X
  exact bodyPost_ret (v := .tuple #[.agg #[X], .bool true]) (by simp [results, Tryz.results45, go_sem, t3]) rfl ⟨X, rfl, t1, t2⟩
set_option maxRecDepth 100000 in
set_option maxHeartbeats 2000000 in
theorem tof_kou (w : World) (hT : pt.Tabs w) : Calls Tryz.prog 45 #[.int .i64 2] w fun e w' => ∃ X, e = .returned (.tuple #[.agg #[X], .bool true]) ∧ TE TBr w' X (tbl 2) ∧ Below w.heap.size w w' := by
  have HT := Lib.hid hT
  have G0 := Lib.hid (Gs.new w)
  clear hT
  go_enter Tryz.func45, Tryz.ntmps45
  go_wp2_with (first | (go_at_call 85; refine (ukr_any _ (HT.out.below G0.out.b)).mono ?_; rintro e1 w1 ⟨X1, rfl, hx1, hb1⟩; have G0 := Lib.hid (G0.out.below hb1); have Y1 := Lib.hid hx1; clear hb1 hx1) | (go_at_call 84; refine (koi_any _ (HT.out.below G0.out.b)).mono ?_; rintro e2 w2 ⟨X2, rfl, hx2, hb2⟩; have G0 := Lib.hid (G0.out.below hb2); have Y1 := Lib.hid (te_below Y1.out hb2); have Y2 := Lib.hid hx2; clear hb2 hx2) | (go_at_call 86; refine (tbr_over _ X1 X2 _ _ Y1.out Y2.out (by decide) (by rw [tbl_len]; decide)).mono ?_; rw [over_ukr]; rintro e3 w3 ⟨X, rfl, hx, hb3⟩; have G3 := Lib.hid (G0.out.below hb3); have X3 := Lib.hid hx; have hst := (fun wx (a : Addr) m => run_store (P := Tryz.prog) (w := wx) (a := a) X m (TE.one hx)); obtain ⟨⟨_, z0, z1⟩, _⟩ := G3.out.f; clear hx hb3))
  obtain ⟨t1, t2, t3⟩ := G3.out.fin X3.out X
  exact bodyPost_ret (v := .tuple #[.agg #[X], .bool true]) (by simp [results, Tryz.results45, go_sem, t3]) rfl ⟨X, rfl, t1, t2⟩
set_option maxRecDepth 100000 in
set_option maxHeartbeats 2000000 in
theorem tof_none (c : Int) (w : World) (h : c < 0 ∨ 3 < c) : Calls Tryz.prog 45 #[.int .i64 c] w fun e w' => e = .returned (.tuple #[.agg #[.slice none 0 0], .bool false]) ∧ Below w.heap.size w w' := by
  have G0 := Lib.hid (Gs.new w)
  have n0 : ¬ c = 0 := by omega
  have n1 : ¬ c = 1 := by omega
  have n2 : ¬ c = 2 := by omega
  have n3 : ¬ c = 3 := by omega
  clear h
  go_enter Tryz.func45, Tryz.ntmps45
  go_wp2_with fail
  refine bodyPost_ret (v := .tuple #[.agg #[.slice none 0 0], .bool false]) (by simp [results, Tryz.results45, go_sem]) rfl ⟨rfl, ?_⟩
  repeat (first | (with_reducible exact Below.refl _ _) | (with_reducible refine Below.setCell ?_ (by simp) _) | (with_reducible refine Below.alloc ?_ (by simp) _))
theorem tof_any (c : Int) (w : World) (hT : pt.Tabs w) (h0 : 0 ≤ c) (h1 : c ≤ 3) : Calls Tryz.prog 45 #[.int .i64 c] w fun e w' => ∃ X, e = .returned (.tuple #[.agg #[X], .bool true]) ∧ TE TBr w' X (tbl c) ∧ Below w.heap.size w w' := by
  rcases four h0 h1 with rfl | rfl | rfl | rfl
  · exact tof_lat w hT
  · exact tof_koi w hT
  · exact tof_kou w hT
  · exact tof_cp w hT
/-- A block of two words, of a type that is no row's. -/
structure K2 (w : World) (b : Nat) (t : TypeId) (x y : Value) : Prop where
  lt : b < w.heap.size
  c0 : w.cell? ⟨b, 0, none⟩ = some x
  c1 : w.cell? ⟨b, 1, none⟩ = some y
  fr : ∀ i, w.frozen? ⟨b, i, none⟩ = false
  k : ∃ cs, w.heap[b]? = some (.cells cs t)
theorem K2.below {w w' : World} {b B : Nat} {t : TypeId} {x y : Value} (h : K2 w b t x y) (hb : Below B w w') (hB : b < B) : K2 w' b t x y :=
  ⟨Nat.lt_of_lt_of_le h.lt hb.size, (hb.cell (p := ⟨b, 0, none⟩) hB).trans h.c0, (hb.cell (p := ⟨b, 1, none⟩) hB).trans h.c1, fun i => (hb.frozen (p := ⟨b, i, none⟩) hB).trans (h.fr i), by obtain ⟨cs, h⟩ := h.k; exact ⟨cs, by rw [hb.block b hB]; exact h⟩⟩
theorem k2_new (w : World) (t : TypeId) (x y : Value) : K2 (w.alloc (.cells #[x, y] t)) w.heap.size t x y := by
  refine ⟨by simp, ?_, ?_, fun i => by simp, ⟨_, heap_alloc_new w _⟩⟩ <;> (rw [World.cell?_alloc_mark]; rfl)
theorem kind_put {w : World} {p : Nat} {t : TypeId} (h : ∃ cs, w.heap[p]? = some (.cells cs t)) (o : Nat) (u : Value) : ∃ cs, (w.setCell ⟨p, o, none⟩ u).heap[p]? = some (.cells cs t) := by
  obtain ⟨cs, hk⟩ := h
  refine ⟨cs.setIfInBounds o u, ?_⟩
  obtain ⟨hp, hk2⟩ := Array.getElem?_eq_some_iff.1 hk
  simp only [World.setCell]
  rw [Array.getElem?_eq_getElem (by simpa using hp), Array.getElem_modify, hk2]
  simp
theorem te_set {w : World} {p o : Nat} {t : TypeId} {V : Value} {l : List (Int × Int)} (h : TE TBr w V l) (hp : ∃ cs, w.heap[p]? = some (.cells cs t)) (hne : t ≠ 117) (u : Value) : TE TBr (w.setCell ⟨p, o, none⟩ u) V l := by
  obtain ⟨B, S, ⟨h1, h2⟩, h3⟩ := h
  refine ⟨B, S, ⟨h1, ?_⟩, h3⟩
  rcases h2 with h2 | ⟨g, cap, cur, hv, hg, hh, r⟩
  · exact .inl h2
  · refine .inr ⟨g, cap, cur, hv, hg, ?_, r⟩
    have hgp : g ≠ p := fun e => by
      subst e
      obtain ⟨cs, hk⟩ := hp
      rw [hk] at hh
      injection hh with hh
      injection hh with _ hh
      exact hne hh
    rw [Below.heap_setCell _ _ _ _ hgp]; exact hh
set_option maxRecDepth 100000 in
set_option maxHeartbeats 2000000 in
theorem of_any (c : Int) (w : World) (hT : pt.Tabs w) (h0 : 0 ≤ c) (h1 : c ≤ 3) : Calls Tryz.prog 20 #[.int .i64 c] w fun e w' => ∃ X, e = .returned (.tuple #[.agg #[X, .int .i64 c], .bool true]) ∧ TE TBr w' X (tbl c) ∧ Below w.heap.size w w' := by
  have HT := Lib.hid hT
  have HTO := Lib.hid (fun w2 h2 => tof_any c w2 h2 h0 h1)
  have K0 := Lib.hid (k2_new w 50 (.slice none 0 0) (.int .i64 0))
  have B0 : Hid (Below w.heap.size w (w.alloc (.cells #[.slice none 0 0, .int .i64 0] 50))) := Lib.hid ((Below.refl _ _).alloc (Nat.le_refl _) _)
  clear hT h0 h1
  go_enter Tryz.func20, Tryz.ntmps20
  go_wp2_with (go_at_call 45; refine (HTO.out _ (HT.out.below B0.out)).mono ?_; rintro e1 w1 ⟨X, rfl, hx, hb1⟩; have q0 : w.heap.size < w1.heap.size := (by have := hb1.size; simp at this; omega); have B1 := Lib.hid (B0.out.trans (hb1.mono B0.out.size)); have K1 := Lib.hid (K0.out.below hb1 K0.out.lt); have X1 := Lib.hid hx; obtain ⟨_, z0, z1⟩ := f1_new w1 (.slice none 0 0) 48; have hst := (fun wx (a : Addr) m => run_store (P := Tryz.prog) (w := wx) (a := a) X m (TE.one hx)); have n0 : ¬ w1.heap.size = w.heap.size := (by omega); have n1 : ¬ w.heap.size = w1.heap.size := (by omega); obtain ⟨_, k0, k1, k2, _⟩ := K1.out; have hA : Below w1.heap.size w1 (w1.alloc (.cells #[X] 48)) := (Below.refl _ _).alloc (Nat.le_refl _) _; have X2 := Lib.hid (te_below hx hA); have B2 := Lib.hid (B1.out.trans (hA.mono B1.out.size)); have K2' := Lib.hid (K1.out.below hA K1.out.lt); obtain ⟨_, p0, p1, p2, _⟩ := K2'.out; clear hx hb1 hA)
  have k1' := kind_put K1.out.k 0 X
  have t2 := te_set (o := 1) (te_set (o := 0) X1.out K1.out.k (by decide) X) k1' (by decide) (.int .i64 c)
  have t3 := te_below t2 ((Below.refl _ _).alloc (Nat.le_refl _) (.cells #[X] 48))
  refine bodyPost_ret (v := .tuple #[.agg #[X, .int .i64 c], .bool true]) ?_ rfl ⟨X, rfl, t3, ((B1.out.setCell (p := ⟨w.heap.size, 0, none⟩) (Nat.le_refl _) _).setCell (p := ⟨w.heap.size, 1, none⟩) (Nat.le_refl _) _).alloc (by simp; omega) _⟩
  have lt2 : w.heap.size < ((w1.setCell ⟨w.heap.size, 0, none⟩ X).setCell ⟨w.heap.size, 1, none⟩ (.int .i64 c)).heap.size := by simpa using q0
  have hA := (Below.refl ((w1.setCell ⟨w.heap.size, 0, none⟩ X).setCell ⟨w.heap.size, 1, none⟩ (.int .i64 c)).heap.size _).alloc (Nat.le_refl _) (.cells #[X] 48)
  have r0 := hA.cell (p := ⟨w.heap.size, 0, none⟩) lt2
  have r1 := hA.cell (p := ⟨w.heap.size, 1, none⟩) lt2
  simp [results, Tryz.results20, go_sem, k0, k1, r0, r1]
set_option maxRecDepth 100000 in
set_option maxHeartbeats 2000000 in
theorem of_none (c : Int) (w : World) (h : c < 0 ∨ 3 < c) : Calls Tryz.prog 20 #[.int .i64 c] w fun e w' => e = .returned (.tuple #[.agg #[.slice none 0 0, .int .i64 0], .bool false]) ∧ Below w.heap.size w w' := by
  have HTO := Lib.hid (fun w2 => tof_none c w2 h)
  have K0 := Lib.hid (k2_new w 50 (.slice none 0 0) (.int .i64 0))
  have B0 : Hid (Below w.heap.size w (w.alloc (.cells #[.slice none 0 0, .int .i64 0] 50))) := Lib.hid ((Below.refl _ _).alloc (Nat.le_refl _) _)
  clear h
  go_enter Tryz.func20, Tryz.ntmps20
  go_wp2_with (go_at_call 45; refine (HTO.out _).mono ?_; rintro e1 w1 ⟨rfl, hb1⟩; have q0 : w.heap.size < w1.heap.size := (by have := hb1.size; simp at this; omega); have B1 := Lib.hid (B0.out.trans (hb1.mono B0.out.size)); have K1 := Lib.hid (K0.out.below hb1 K0.out.lt); obtain ⟨_, z0, z1⟩ := f1_new w1 (.slice none 0 0) 48; have n0 : ¬ w1.heap.size = w.heap.size := (by omega); have n1 : ¬ w.heap.size = w1.heap.size := (by omega); obtain ⟨_, k0, k1, k2, _⟩ := K1.out; have hA : Below w1.heap.size w1 (w1.alloc (.cells #[.slice none 0 0] 48)) := (Below.refl _ _).alloc (Nat.le_refl _) _; have B2 := Lib.hid (B1.out.trans (hA.mono B1.out.size)); have K2' := Lib.hid (K1.out.below hA K1.out.lt); obtain ⟨_, p0, p1, p2, _⟩ := K2'.out; clear hb1 hA)
  refine bodyPost_ret (v := .tuple #[.agg #[.slice none 0 0, .int .i64 0], .bool false]) ?_ rfl ⟨rfl, ((B1.out.setCell (p := ⟨w.heap.size, 0, none⟩) (Nat.le_refl _) _).setCell (p := ⟨w.heap.size, 1, none⟩) (Nat.le_refl _) _).alloc (by simp; omega) _⟩
  have lt2 : w.heap.size < ((w1.setCell ⟨w.heap.size, 0, none⟩ (.slice none 0 0)).setCell ⟨w.heap.size, 1, none⟩ (.int .i64 0)).heap.size := by simpa using q0
  have hA := (Below.refl ((w1.setCell ⟨w.heap.size, 0, none⟩ (.slice none 0 0)).setCell ⟨w.heap.size, 1, none⟩ (.int .i64 0)).heap.size _).alloc (Nat.le_refl _) (.cells #[.slice none 0 0] 48)
  have r0 := hA.cell (p := ⟨w.heap.size, 0, none⟩) lt2
  have r1 := hA.cell (p := ⟨w.heap.size, 1, none⟩) lt2
  simp [results, Tryz.results20, go_sem, k0, k1, r0, r1]
end Go.Proofs.YtbgbgigpcegenaaGreatDoor.sg
namespace Go.Proofs.YtbgbgigpcegenaaGreatDoor.sg
open Go.RowKit Go.Lib
open Go.Proofs.YtbgbgigpcegenaaGreatDoor.tb
set_option linter.unusedVariables false
theorem lk_tbl {c : Int} (hs : Srt (tbl c)) (n : Nat) (h : n < 256) : lk (tbl c) (n : Int) = some (sgn c n) :=
  (lk_mem hs _ _).2 (List.mem_map.2 ⟨n, List.mem_range.2 h, rfl⟩)
theorem rev_from (c p : Int) : ∀ f k, rev ((List.range' k f).map fun (n : Nat) => ((n : Int), sgn c n)) p = byFrom c p f k
  | 0, k => rfl
  | f + 1, k => by
    rw [List.range'_succ, List.map_cons]
    unfold rev byFrom
    simp only
    rw [rev_from c p f (k + 1)]
theorem rev_tbl (c p : Int) : rev (tbl c) p = byte c p := by
  unfold tbl byte
  rw [List.range_eq_range']
  exact rev_from c p 256 0
theorem mk_runes (n : Nat) (h : n ≤ 4000) (w : World) : (Instr.makeSlice 40 (.int .i64 0) (.int .i64 (n : Int))).run Tryz.prog w = .ok (.slice (some ⟨w.heap.size, 0, none⟩) 0 n) (w.alloc (.cells (madeCells #[.int .i32 0] n) 21)) := by
  obtain ⟨i, hi, hzz⟩ := Option.map_eq_some_iff.1 pt.rune_info
  simp only [Prod.mk.injEq] at hzz
  obtain ⟨hz, hs, hb⟩ := hzz
  have hr := run_make (P := Tryz.prog) w 40 21 i (.int .i32 0) Tryz.underlying40 hi hz .i64 .i64 0 (n : Int) (Int.le_refl _) (by omega) (by rw [hb]; omega) (by omega)
  simp only [Int.toNat_natCast, hs, Nat.mul_one] at hr
  exact hr
def rv (l : List Int) : List Value := l.map (Value.int .i32)
theorem rv_snoc (l : List Int) (p : Int) : rv (l ++ [p]) = rv l ++ [.int .i32 p] := by simp [rv]
/-- A row of signs of the call's own is a row. -/
theorem own_rowI {w : World} {B : Nat} {e : TypeId} {v : Value} {l : List Int} (h : w.ownsRow B e 1 v l.length (rv l)) : ∃ A c, v = .slice A l.length c ∧ pt.RowI w A l.length c l := by
  obtain ⟨h1, ⟨rfl, h3⟩ | ⟨g, cap, cur, rfl, hb, hg, hn, hm, hs, ht⟩⟩ := h
  · rw [h3]; exact ⟨none, 0, rfl, .inl ⟨rfl, rfl, rfl, List.length_eq_zero_iff.1 h3⟩⟩
  · refine ⟨_, cap, rfl, .inr ⟨⟨g, 0, none⟩, rfl, hn, hm, rfl, fun i hi => ?_⟩⟩
    have e : (⟨g, 0, none⟩ : Addr).add i = ⟨g, i, none⟩ := by rw [Addr.add_lit, Nat.zero_add]
    have hu : (rv l)[i]? = some (.int .i32 (l.getD i 0)) := by simp [rv, List.getElem?_eq_getElem hi, List.getD]
    rw [e]
    rw [← ht, List.getElem?_take, if_pos (by omega), Array.getElem?_toList] at hu
    simp only [World.cell?, hg, Option.isSome_none, Bool.false_eq_true, if_false]
    exact hu
/-- The world in which the loop begins. -/
def dcW (w : World) (X : Value) (c : Int) : World := (w.alloc (.cells #[X, .int .i64 c] 50)).alloc (.cells #[.int .i64 0, .int .i64 0] 32)
theorem dcW_size (w : World) (X : Value) (c : Int) : (dcW w X c).heap.size = w.heap.size + 1 + 1 := by simp [dcW]
/-- What stands while a charset's text is made. -/
structure Dc (w : World) (X : Value) (c : Int) (l : List (Int × Int)) (W : World) : Prop where
  k : K2 W w.heap.size 50 X (.int .i64 c)
  f : pt.F2 W (w.heap.size + 1) 0 0
  t : TE TBr W X l
  b : Below w.heap.size w W
  g : Below (w.heap.size + 1 + 1) (dcW w X c) W
theorem Dc.of {w W : World} {X : Value} {c : Int} {l : List (Int × Int)} (h : TE TBr w X l) (g : Below (w.heap.size + 1 + 1) (dcW w X c) W) : Dc w X c l W := by
  have h1 : Below (w.alloc (.cells #[X, .int .i64 c] 50)).heap.size (w.alloc (.cells #[X, .int .i64 c] 50)) (dcW w X c) := (Below.refl _ _).alloc (Nat.le_refl _) _
  have h2 : Below w.heap.size w (dcW w X c) := ((Below.refl _ _).alloc (Nat.le_refl _) _).alloc (by simp) _
  have h3 := h2.trans (g.mono (by omega))
  refine ⟨((k2_new w _ _ _).below h1 (by simp)).below g (by omega), ?_, te_below h h3, h3, g⟩
  have := pt.f2_new (w.alloc (.cells #[X, .int .i64 c] 50)) 0 0 32
  rw [World.size_alloc] at this
  exact pt.F2.below this g (by omega)
theorem Dc.below {w W W' : World} {X : Value} {c : Int} {l : List (Int × Int)} (h : Dc w X c l W) (hb : Below W.heap.size W W') : Dc w X c l W' :=
  ⟨h.k.below hb h.k.lt, h.f.below hb h.f.lt, te_below h.t hb, h.b.trans (hb.mono h.b.size), h.g.trans (hb.mono (by have := h.g.size; rw [dcW_size] at this; exact this))⟩
theorem Dc.new {w : World} {X : Value} {c : Int} {l : List (Int × Int)} (h : TE TBr w X l) : Dc w X c l (dcW w X c) := Dc.of h (Below.refl _ _)
theorem Dc.le {w W : World} {X : Value} {c : Int} {l : List (Int × Int)} (h : Dc w X c l W) : w.heap.size + 1 + 1 ≤ W.heap.size := by have := h.g.size; rw [dcW_size] at this; exact this
set_option maxRecDepth 100000 in
set_option maxHeartbeats 4000000 in
theorem decode_any (c c' : Int) (X : Value) (s : ByteArray) (w : World) (h0 : 0 ≤ c) (h1 : c ≤ 3) (hs : s.size ≤ 4000) (hx : TE TBr w X (tbl c)) :
    Calls Tryz.prog 22 #[.agg #[X, .int .i64 c'], .string s] w fun e w' => e = .returned (.tuple #[.string (pt.txt (sdec c s.data.toList)), .agg #[.int .i64 0, .int .i64 0]]) ∧ Below w.heap.size w w' := by
  have hl : s.data.toList.length = s.size := by rw [Array.length_toList]; rfl
  have hsr := tb.tabS.srt _ _ _ hx
  have h1c := TE.one hx
  have hval := sdec_valid h0 h1 s.data.toList
  obtain ⟨i0, hi0, hzz⟩ := Option.map_eq_some_iff.1 pt.rune_info
  simp only [Prod.mk.injEq] at hzz
  obtain ⟨hz, hsi, hby⟩ := hzz
  have hmk := mk_runes s.size hs
  have HL := Lib.hid hl; have HX := Lib.hid hx; have HSR := Lib.hid hsr; have HVAL := Lib.hid hval
  have D0 : Hid (Dc w X c' (tbl c) (dcW w X c')) := Lib.hid (Dc.new hx)
  have HST : Hid (((dcW w X c').alloc (.cells (madeCells #[.int .i32 0] s.size) 21)).ownsRow (w.heap.size + 1 + 1) 21 1 (.slice (some ⟨w.heap.size + 1 + 1, 0, none⟩) 0 s.size) 0 []) := Lib.hid (by
    have e : (dcW w X c').heap.size = w.heap.size + 1 + 1 := by simp [dcW]
    have h := World.ownsRow_made (base := w.heap.size + 1 + 1) (e := 21) (size := 1) (dcW w X c') (madeCells #[.int .i32 0] s.size) s.size (by omega) (by unfold maxLen; omega) (by simp [madeCells])
    rwa [e] at h)
  clear hl hx hsr hval
  obtain ⟨⟨_, z0, z1, z2, _⟩, ⟨_, z3, z4, z5, z6⟩, _, _⟩ := D0.out
  go_enter Tryz.func22, Tryz.ntmps22
  go_wp2_with fail
  go_loopw [6, 17] (fun v i wr => ∃ j : Nat, j ≤ s.size ∧ i = .int .i64 j ∧ wr.ownsRow (w.heap.size + 1 + 1) 21 1 v j (rv (sdec c (s.data.toList.take j))) ∧ Dc w X c' (tbl c) wr) (fun _ i _ => s.size - (RowKit.intOf i).toNat)
  case atStart => exact ⟨0, Nat.zero_le _, rfl, HST.out, D0.out.below ((Below.refl _ _).alloc (Nat.le_refl _) _)⟩
  case round =>
    obtain ⟨j, hj, rfl, hown, hD⟩ := hrel
    have HOW := Lib.hid hown
    have DA := Lib.hid hD
    have DB := Lib.hid (hD.below (Below.refl _ _).drew)
    clear hown hD
    by_cases hlt : j < s.size
    · have htk : s.data.toList.take (j + 1) = s.data.toList.take j ++ [s[j]] := by
        rw [List.take_add_one, List.getElem?_eq_getElem (by have := HL.out; omega)]; simp; rfl
      have hb := (s[j]).toNat_lt
      have hsn : rv (sdec c (s.data.toList.take (j + 1))) = rv (sdec c (s.data.toList.take j)) ++ [.int .i32 (sgn c (s[j]).toNat)] := by
        rw [htk, sdec_app, ← rv_snoc]; rfl
      have hfw : ∀ W, TE TBr W X (tbl c) → Calls Tryz.prog 46 #[.agg #[X], .int .i64 (IntKind.i64.wrap ((s[j]).toNat : Int))] W fun e w' => e = .returned (.tuple #[.int .i32 (sgn c (s[j]).toNat), .bool true]) ∧ Below W.heap.size W w' := fun W hW => by
        rw [show IntKind.i64.wrap ((s[j]).toNat : Int) = ((s[j]).toNat : Int) from wrap64 (by omega) (by omega)]
        exact (tbr_forward W X _ _ hW (by rw [tbl_len]; decide)).mono fun e w' h => ⟨by rw [h.1, lk_tbl HSR.out _ hb]; rfl, h.2⟩
      generalize sgn c (s[j]).toNat = S at *
      have HSN := Lib.hid hsn; have HFW := Lib.hid hfw
      clear htk hsn hfw
      obtain ⟨⟨_, k0, k1, k2, _⟩, _⟩ := DA.out
      go_wp2_with fail
      go_region_held3 (fun w' => w'.cell? ⟨w.heap.size, 0, none⟩ = some X) (go_keep) (first | (go_at_call 46; refine (HFW.out _ DB.out.t).mono ?_; rintro e1 w1 ⟨rfl, hb1⟩; have DC := Lib.hid (DB.out.below hb1); have OC := Lib.hid (pt.owns_below (pt.owns_below HOW.out (Below.refl _ _).drew) hb1); obtain ⟨⟨_, m0, m1, m2, _⟩, _⟩ := DC.out; clear hb1))
      all_goals go_wp2_with (at_builtin; refine wpList_append_own _ rfl _ _ 40 rfl (w.heap.size + 1 + 1) 21 i0 (.int .i32 0) 1 4 Tryz.underlying40 hi0 hz hsi hby rfl (by decide) _ _ _ rfl (OC.out.alloc _) ⟨w1.heap.size, 0, none⟩ 1 1 [.int .i32 S] rfl rfl ?c1 ?c2 ?c3 ?c4 ?c5 ?_)
      case c1 =>
        intro j u hj
        match j, hj with
        | 0, hj =>
          simp at hj
          subst hj
          have e : (⟨w1.heap.size, 0, none⟩ : Addr).add 0 = ⟨w1.heap.size, 0, none⟩ := by simp [Addr.add]
          rw [e, World.cell?_alloc_mark]; rfl
        | (j + 1), hj => simp at hj
      case c2 => intro u hu; simp at hu; subst hu; rfl
      case c3 => unfold maxLen; omega
      case c4 => omega
      case c5 => have := DC.out.le; simp; omega
      intro v' w2 hown2 hgrow _
      have HO2 := Lib.hid hown2
      have DE := Lib.hid (Dc.of (c := c') HX.out (pt.below_grown DC.out.g DC.out.le OC.out hgrow))
      clear hown2
      go_wp2_with fail
      go_roundw
      case rel => exact ⟨j + 1, by omega, by go_num, by rw [HSN.out]; exact HO2.out, DE.out⟩
      case measure => simp [RowKit.intOf]; omega
    · obtain rfl : j = s.size := by omega
      have htk : s.data.toList.take s.size = s.data.toList := List.take_of_length_le (by have := HL.out; omega)
      rw [htk] at HOW
      have hlen : (sdec c s.data.toList).length = s.size := by rw [sdec_len]; exact HL.out
      rw [← hlen] at HOW
      obtain ⟨A1, c1, rfl, hr⟩ := own_rowI HOW.out
      rw [hlen] at hr
      have hv := HVAL.out
      have htx : ∀ W, Below wr.heap.size wr W → Calls Tryz.prog 47 #[.slice A1 (sdec c s.data.toList).length c1] W fun e w' => e = .returned (.tuple #[.string (pt.txt (sdec c s.data.toList)), .bool true]) ∧ Below W.heap.size W w' := fun W hW => by
        have h := pt.text_row A1 s.size c1 _ W (hr.below hW) (by omega)
        rw [hv, if_pos rfl] at h
        rwa [hlen]
      obtain ⟨T, hT⟩ : ∃ T, T = pt.txt (sdec c s.data.toList) := ⟨_, rfl⟩
      rw [← hT] at htx
      have HT := Lib.hid hT
      rw [hlen] at htx
      rw [hlen]
      have HTX := Lib.hid htx
      clear htk hr hv htx hT
      go_wp2_with (go_at_call 47; refine (HTX.out _ (Below.refl _ _)).mono ?_; rintro e1 w1 ⟨rfl, hb1⟩; have DC := Lib.hid (DA.out.below hb1); obtain ⟨_, ⟨_, f0, f1, f2, f3⟩, _, _⟩ := DC.out)
      refine bodyPost_ret (v := .tuple #[.string T, .agg #[.int .i64 0, .int .i64 0]]) (by simp [results, Tryz.results22, go_sem, f0, f1]) rfl ⟨by rw [HT.out], ?_⟩
      exact (DC.out.b.setCell (p := ⟨w.heap.size + 1, 0, none⟩) (Nat.le_succ _) _).setCell (p := ⟨w.heap.size + 1, 1, none⟩) (Nat.le_succ _) _
end Go.Proofs.YtbgbgigpcegenaaGreatDoor.sg
