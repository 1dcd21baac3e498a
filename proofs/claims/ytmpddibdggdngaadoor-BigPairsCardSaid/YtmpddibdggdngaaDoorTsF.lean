/- Which codes are noted: a contract of note. -/
import Derived.Test.YtmpddibdggdngaaDoorTsE
namespace Go.Proofs.YtmpddibdggdngaaDoor.tb
open Go.RowKit Go.Lib
set_option linter.unusedVariables false
theorem bool_info : (Tryd.prog.info? 4).map (fun i => (i.zero, i.size, i.bytes)) = some (some (.bool false), 1, 1) := by kernel_rfl
def bit (bs : List Bool) (c : Nat) : Bool := bs.getD c false
theorem bit_app (bs : List Bool) (m c : Nat) : bit (bs ++ List.replicate m false) c = bit bs c := by
  unfold bit
  by_cases h : c < bs.length
  · simp [List.getD, List.getElem?_append_left h]
  · rw [List.getD_eq_getElem?_getD, List.getD_eq_getElem?_getD, List.getElem?_append_right (by omega), List.getElem?_eq_none (show bs.length ≤ c by omega)]
    by_cases h2 : c - bs.length < m
    · rw [List.getElem?_replicate, if_pos h2]; rfl
    · rw [List.getElem?_replicate, if_neg h2]
theorem bit_set (bs : List Bool) (k c : Nat) (hk : k < bs.length) : bit (bs.set k true) c = (bit bs c || decide (c = k)) := by
  unfold bit
  rw [List.getD_eq_getElem?_getD, List.getD_eq_getElem?_getD, List.getElem?_set]
  by_cases h : k = c
  · subst h; simp [hk]
  · have h2 : ¬ c = k := fun e => h e.symm
    simp [h, h2]
/-- A code is among pairs. -/
def amid (ps : List (Int × Int)) (c : Nat) : Bool := ps.any fun q => q.1 == (c : Int)
theorem amid_app (a b : List (Int × Int)) (c : Nat) : amid (a ++ b) c = (amid a c || amid b c) := by simp [amid]
/-- All blocks are as they were but nb, and the one that a slice had. -/
structure Kept (nb : Nat) (g : Option Nat) (w w' : World) : Prop where
  os : w'.os = w.os
  tape : w'.tape = w.tape
  output : w'.output = w.output
  size : w.heap.size ≤ w'.heap.size
  block : ∀ k, k < w.heap.size → k ≠ nb → g ≠ some k → w'.heap[k]? = w.heap[k]?
theorem Kept.refl (nb : Nat) (g : Option Nat) (w : World) : Kept nb g w w := ⟨rfl, rfl, rfl, Nat.le_refl _, fun _ _ _ _ => rfl⟩
theorem Kept.below {nb : Nat} {g : Option Nat} {w W W' : World} (h : Kept nb g w W) (hb : Below W.heap.size W W') : Kept nb g w W' :=
  ⟨hb.os.trans h.os, hb.tape.trans h.tape, hb.output.trans h.output, Nat.le_trans h.size hb.size, fun k h1 h2 h3 => (hb.block k (Nat.lt_of_lt_of_le h1 h.size)).trans (h.block k h1 h2 h3)⟩
theorem Kept.grown {nb : Nat} {g v : Option Nat} {w W W' : World} (h : Kept nb g w W) (hg : W.grownBy W' v) (hv : ∀ k, v = some k → g = some k ∨ w.heap.size ≤ k) : Kept nb g w W' :=
  ⟨hg.os.trans h.os, hg.tape.trans h.tape, hg.output.trans h.output, Nat.le_trans h.size hg.size, fun k h1 h2 h3 => by
    rw [hg.block k (Nat.lt_of_lt_of_le h1 h.size) (fun e => by rcases hv k e.symm with h4 | h4; exact h3 h4; omega)]
    exact h.block k h1 h2 h3⟩
theorem Kept.put {nb : Nat} {g : Option Nat} {w W : World} (h : Kept nb g w W) (o : Nat) (u : Value) : Kept nb g w (W.setCell ⟨nb, o, none⟩ u) :=
  ⟨h.os, h.tape, h.output, by simpa [World.setCell] using h.size, fun k h1 h2 h3 => (Below.heap_setCell _ _ _ _ (by simpa using h2)).trans (h.block k h1 h2 h3)⟩
/-- What is noted. -/
structure Nb (B nb : Nat) (V : Value) (bs : List Bool) (w : World) : Prop where
  p : F1 w nb V
  o : w.ownsRow B 4 1 V bs.length (bs.map Value.bool)
  lt : nb < B
  sz : B ≤ w.heap.size
theorem Nb.below {B nb : Nat} {V : Value} {bs : List Bool} {w w' : World} (h : Nb B nb V bs w) (hb : Below w.heap.size w w') : Nb B nb V bs w' :=
  ⟨h.p.below hb h.p.lt, owns_below2 h.o hb (Nat.le_refl _), h.lt, Nat.le_trans h.sz hb.size⟩
theorem Nb.form {B nb : Nat} {V : Value} {bs : List Bool} {w : World} (h : Nb B nb V bs w) : ∃ A c, V = .slice A bs.length c := by
  obtain ⟨_, ⟨rfl, h0⟩ | ⟨g, cap, cur, rfl, _⟩⟩ := h.o
  · exact ⟨none, 0, by rw [h0]⟩
  · exact ⟨_, _, rfl⟩
theorem F1.put {w : World} {b : Nat} {X Y : Value} (h : F1 w b X) : F1 (w.setCell ⟨b, 0, none⟩ Y) b Y := by
  refine ⟨by simpa [World.setCell] using h.lt, ?_, by simpa using h.f0⟩
  have h0 := h.c0
  go_simp
/-- A code is noted in its place. -/
theorem Nb.set {B nb g c : Nat} {bs : List Bool} {w : World} (h : Nb B nb (.slice (some ⟨g, 0, none⟩) bs.length c) bs w) (k : Nat) (hk : k < bs.length) :
    Nb B nb (.slice (some ⟨g, 0, none⟩) bs.length c) (bs.set k true) (w.setCell ⟨g, k, none⟩ (.bool true)) ∧ w.grownBy (w.setCell ⟨g, k, none⟩ (.bool true)) (some g) := by
  obtain ⟨h1, h2⟩ := h.o.stored k (.bool true)
  have hb := (h.o.lt g rfl).1
  have hl := h.lt
  refine ⟨⟨h.p.grown h2 (by intro e; injection e with e; omega), ?_, h.lt, by simpa [World.setCell] using h.sz⟩, h2⟩
  rw [List.length_set, List.map_set]
  exact h1
theorem Nb.cell {B nb g c : Nat} {bs : List Bool} {w : World} (h : Nb B nb (.slice (some ⟨g, 0, none⟩) bs.length c) bs w) (k : Nat) (hk : k < bs.length) : w.cell? ⟨g, k, none⟩ = some (.bool (bit bs k)) ∧ w.frozen? ⟨g, k, none⟩ = false ∧ bs.length ≤ c ∧ c ≤ maxLen := by
  refine ⟨?_, h.o.frozenAt k, ?_⟩
  · rw [h.o.cellAt k (by omega), List.getElem?_map, List.getElem?_eq_getElem hk]
    simp [bit, List.getD, List.getElem?_eq_getElem hk]
  · obtain ⟨_, ⟨h0, _⟩ | ⟨g', cap, cur, h0, _, _, h3, h4, _⟩⟩ := h.o
    · cases h0
    · cases h0; exact ⟨h3, h4⟩
end Go.Proofs.YtmpddibdggdngaaDoor.tb
namespace Go.Proofs.YtmpddibdggdngaaDoor.tb
open Go.RowKit Go.Lib
set_option linter.unusedVariables false
/-- What note answers. -/
def NoteP (B nb : Nat) (V : Value) (bs : List Bool) (ps : List (Int × Int)) (w : World) (e : Ending) (w' : World) : Prop :=
  Kept nb V.ownBlock w w' ∧ ((e = .returned (.bool false) ∧ ∃ c : Nat, amid ps c = true ∧ bit bs c = true) ∨
  (e = .returned (.bool true) ∧ (∀ c : Nat, amid ps c = true → bit bs c = false) ∧ ∃ V' bs', Nb B nb V' bs' w' ∧ bs'.length ≤ 1048576 ∧ ∀ c, bit bs' c = (bit bs c || amid ps c)))
theorem RowRw.kept {w W : World} {A : Option Addr} {c nb : Nat} {l : List Rw} {v : Option Nat} (h : RowRw w A c l) (hk : Kept nb v w W) (hA : ∀ g o, A = some ⟨g, o, none⟩ → g ≠ nb ∧ v ≠ some g) : RowRw W A c l := by
  rcases h with h | ⟨g, o, h1, h2, h3, h4, h5⟩
  · exact .inl h
  · have e := hk.block g h4 (hA g o h1).1 (hA g o h1).2
    have hB : ∀ k, W.cell? ⟨g, k, none⟩ = w.cell? ⟨g, k, none⟩ := fun k => World.cell?_of_block (w := w) (a := ⟨g, k, none⟩) e
    exact .inr ⟨g, o, h1, h2, h3, Nat.lt_of_lt_of_le h4 hk.size, fun i hi => by
      obtain ⟨x, y, z⟩ := h5 i hi
      exact ⟨(hB _).trans x, (hB _).trans y, (hB _).trans z⟩⟩
theorem RB.apart {W : World} {X nb : Nat} {r : Rw} (h : RB W X r) (hne : nb ≠ X) (u : Value) (o : Nat := 0) : RB (W.setCell ⟨nb, o, none⟩ u) X r := by
  have e : (W.setCell ⟨nb, o, none⟩ u).heap[X]? = W.heap[X]? := Below.heap_setCell _ _ _ _ (by simpa using hne.symm)
  obtain ⟨⟨cs, fz, hx⟩, hf⟩ := h
  have hc : ∀ i, (W.setCell ⟨nb, o, none⟩ u).cell? ⟨X, i, none⟩ = W.cell? ⟨X, i, none⟩ := fun i => World.cell?_of_block (w := W) (a := ⟨X, i, none⟩) e
  have hfz : ∀ i, (W.setCell ⟨nb, o, none⟩ u).frozen? ⟨X, i, none⟩ = W.frozen? ⟨X, i, none⟩ := fun i => World.frozen?_of_block (w := W) (a := ⟨X, i, none⟩) e
  exact ⟨⟨cs, fz, by rw [e]; exact hx⟩, ⟨by simpa [World.setCell] using hf.lt, (hc 0).trans hf.c0, (hc 1).trans hf.c1, (hc 2).trans hf.c2, fun i => (hfz i).trans (hf.fr i)⟩⟩
/-- What stands in note. -/
structure Ns (B nb X : Nat) (V : Value) (bs : List Bool) (r : Rw) (w : World) (v : Option Nat) (W : World) : Prop where
  n : Nb B nb V bs W
  x : RB W X r
  k : Kept nb v w W
theorem Ns.below {B nb X : Nat} {V : Value} {bs : List Bool} {r : Rw} {w : World} {v : Option Nat} {W W' : World} (h : Ns B nb X V bs r w v W) (hb : Below W.heap.size W W') : Ns B nb X V bs r w v W' :=
  ⟨h.n.below hb, h.x.below hb h.x.f.lt, h.k.below hb⟩
theorem Ns.set {B nb X g c : Nat} {bs : List Bool} {r : Rw} {w : World} {v : Option Nat} {W : World} (h : Ns B nb X (.slice (some ⟨g, 0, none⟩) bs.length c) bs r w v W) (k : Nat) (hk : k < bs.length) (hX : g ≠ X) (hoc : v = some g ∨ w.heap.size ≤ g) :
    Ns B nb X (.slice (some ⟨g, 0, none⟩) (bs.set k true).length c) (bs.set k true) r w v (W.setCell ⟨g, k, none⟩ (.bool true)) := by
  obtain ⟨h1, h2⟩ := h.n.set k hk
  exact ⟨by rw [List.length_set]; exact h1, h.x.apart hX _ k, h.k.grown h2 (fun q hq => by injection hq with hq; rw [← hq]; exact hoc)⟩
theorem amid_row (F : Nat) (t : Int) (k c : Nat) : amid (sqp (F : Int) t k) c = (decide (F ≤ c) && decide (c < F + k)) := by
  unfold amid
  rw [Bool.eq_iff_iff, List.any_eq_true]
  constructor
  · rintro ⟨q, hq, h⟩
    have := (sqp_iff _ _ _ _).1 hq
    simp at h ⊢
    omega
  · intro h
    simp at h
    exact ⟨((c : Int), t + ((c : Int) - (F : Int))), (sqp_iff _ _ _ _).2 ⟨by simp; omega, by simp; omega, rfl⟩, by simp⟩
theorem amid_lt {l : List Rw} (hd : Dis l) (hok : ∀ r ∈ l, r.ok) (j : Nat) (hj : j < l.length) {c : Nat} (h : amid (rps (l.take j)) c = true) : (c : Int) < (l.getD j default).f := by
  unfold amid at h
  rw [List.any_eq_true] at h
  obtain ⟨q, hq, h⟩ := h
  obtain ⟨r, hr, h1, h2, _⟩ := (rps_iff _ _).1 hq
  simp at h
  obtain ⟨i, hi, rfl⟩ := List.getElem_of_mem hr
  rw [List.length_take] at hi
  have h3 := List.pairwise_iff_getElem.1 hd i j (by omega) hj (by omega)
  rw [List.getElem_take] at h1 h2
  rw [getD_get l j hj]
  omega
theorem amid_up (l : List Rw) (j c : Nat) (h : amid (rps (l.take j)) c = true) : amid (rps l) c = true := by
  have : rps l = rps (l.take j) ++ rps (l.drop j) := by rw [← rps_app, List.take_append_drop]
  rw [this, amid_app, h]; rfl
set_option maxRecDepth 100000 in
set_option maxHeartbeats 8000000 in
theorem note_any (B nb : Nat) (V : Value) (bs : List Bool) (A : Option Addr) (n c : Nat) (l : List Rw) (w : World) (h : RowRw w A c l) (hn : n = l.length) (hok : ∀ r ∈ l, r.ok) (hd : Dis l) (hs : n ≤ 100000000)
    (hN : Nb B nb V bs w) (hb : bs.length ≤ 1048576) (hA : ∀ g o, A = some ⟨g, o, none⟩ → g ≠ nb ∧ V.ownBlock ≠ some g) :
    Calls Tryd.prog 55 #[.pointer (some ⟨nb, 0, none⟩), .slice A n c] w (NoteP B nb V bs (rps l) w) := by
  obtain ⟨i0, hi0, hzz⟩ := Option.map_eq_some_iff.1 bool_info
  simp only [Prod.mk.injEq] at hzz
  obtain ⟨hz, hsi, hby⟩ := hzz
  have H := Lib.hid h; have HN := Lib.hid hn; have HO := Lib.hid hok; have HD := Lib.hid hd; have HNB := Lib.hid hN; have HA := Lib.hid hA
  have hP : NoteP B nb V bs (rps l) w = NoteP B nb V bs (rps l) w := rfl
  generalize hPP : NoteP B nb V bs (rps l) w = PP at hP ⊢
  have HPP := Lib.hid hPP
  have hlt := hN.p.lt
  have hnB := hN.lt
  clear h hn hok hd hN hP hPP hA
  go_enter Tryd.func55, Tryd.ntmps55
  go_wp2
  go_loopw [10] (fun k wr => ∃ (j : Nat) (V1 : Value) (b1 : List Bool), j ≤ n ∧ k = .int .i64 j ∧ Nb B nb V1 b1 wr ∧ b1.length ≤ 1048576 ∧ Kept nb V.ownBlock w wr ∧ (∀ k, V1.ownBlock = some k → V.ownBlock = some k ∨ w.heap.size ≤ k) ∧ (∀ c, bit b1 c = (bit bs c || amid (rps (l.take j)) c)) ∧ (∀ c : Nat, amid (rps (l.take j)) c = true → bit bs c = false)) (fun k _ => n - (RowKit.intOf k).toNat)
  case atStart => exact ⟨0, V, bs, Nat.zero_le _, rfl, HNB.out, hb, Kept.refl _ _ _, fun k hk => .inl hk, fun c => by simp [rps, amid], fun c hc => by simp [rps, amid] at hc⟩
  case round =>
    obtain ⟨j, V1, b1, hj, rfl, hnb1, hb1, hk1, hoc, hbit, hun⟩ := hrel
    have HK1 := Lib.hid hk1; have HOC := Lib.hid hoc; have HBIT := Lib.hid hbit; have HUN := Lib.hid hun
    have z0 := hk1.size
    clear hk1 hoc hbit hun
    by_cases hjn : j < n
    · have hjl : j < l.length := by have := HN.out; omega
      obtain ⟨g, o, rfl, a1, a2, a3, k0, k1, k2, hmem⟩ := (H.out.kept HK1.out HA.out).at j hjl
      rw [← HN.out] at a1
      unfold maxLen at a2
      have hro := HO.out _ hmem
      have HLT := Lib.hid (fun c h => amid_lt HD.out HO.out j hjl (c := c) h)
      have HTK := Lib.hid (take_rps l j hjl)
      clear hmem hjl
      generalize l.getD j default = r at *
      obtain ⟨f, t, cc⟩ := r
      obtain ⟨f0, c1, f1, t0, t1⟩ := hro
      simp only at f0 c1 f1 t0 t1 k0 k1 k2 HLT HTK
      obtain ⟨F, rfl⟩ : ∃ F : Nat, f = F := ⟨f.toNat, by omega⟩
      obtain ⟨C, rfl⟩ : ∃ C : Nat, cc = C := ⟨cc.toNat, by omega⟩
      simp only [Int.toNat_natCast] at HTK
      generalize hR0 : rps (l.take j) = R0 at *
      have HR0 := Lib.hid hR0
      clear hR0
      have HE := Lib.hid (fun w => end_any (F : Int) t (C : Int) w (by omega) (by omega))
      have S0 := Lib.hid hnb1
      obtain ⟨A1, c1', rfl⟩ := hnb1.form
      clear hnb1
      obtain ⟨X, hX⟩ : ∃ X, X = wr.heap.size := ⟨_, rfl⟩
      have S1 : Hid (Ns B nb X (.slice A1 b1.length c1') b1 ⟨F, t, C⟩ w V.ownBlock (wr.alloc (.cells #[.int .i64 (F : Int), .int .i32 t, .int .i64 (C : Int)] 102))) := Lib.hid (by
        have hb := (Below.refl wr.heap.size wr).alloc (Nat.le_refl _) (.cells #[.int .i64 (F : Int), .int .i32 t, .int .i64 (C : Int)] 102)
        exact ⟨S0.out.below hb, by rw [hX]; exact RB.new wr ⟨F, t, C⟩, HK1.out.below hb⟩)
      have hXn : nb ≠ X := by have := S0.out.p.lt; omega
      have HXW : Hid (w.heap.size ≤ X) := Lib.hid (by omega)
      by_cases hgr : b1.length < F + C
      all_goals
        go_wp2_with fail
        rw [← hX] at *
        generalize wr.alloc (.cells #[.int .i64 (F : Int), .int .i32 t, .int .i64 (C : Int)] 102) = W at *
        clear k0 k1 k2 a3
        obtain ⟨x3, x0, x1, x2, x4⟩ := S1.out.x.f
        simp only at x0 x1 x2
        obtain ⟨y3, y0, y1⟩ := S1.out.n.p
        have S2 := Lib.hid (S1.out.below ((Below.refl _ W).drew))
        go_region_held3 (fun w' => w'.cell? ⟨nb, 0, none⟩ = some (.slice A1 b1.length c1') ∧ w'.cell? ⟨X, 0, none⟩ = some (.int .i64 (F : Int)) ∧ w'.cell? ⟨X, 1, none⟩ = some (.int .i32 t) ∧ w'.cell? ⟨X, 2, none⟩ = some (.int .i64 (C : Int))) (go_keep) (first | (go_at_call 58; refine (HE.out _).mono ?_; rintro e1 w2 ⟨rfl, hb2⟩; have S3 := Lib.hid (S2.out.below hb2); obtain ⟨x3, x0, x1, x2, x4⟩ := S3.out.x.f; simp only at x0 x1 x2; obtain ⟨y3, y0, y1⟩ := S3.out.n.p; clear hb2))
      focus
        go_wp2_with fail
        obtain ⟨m, hm⟩ : ∃ m : Nat, m = F + C - b1.length := ⟨_, rfl⟩
        have e5 : IntKind.i64.wrap ((F : Int) + (C : Int) - (b1.length : Int)) = (m : Int) := by rw [wrap64 (by omega) (by omega)]; omega
        have HM := Lib.hid hm
        clear hm
        have S4 := Lib.hid (S3.out.below ((Below.refl _ w2).drew))
        refine OnBut.start (by kernel_rfl) (fun w' => w'.cell? ⟨nb, 0, none⟩ = some (.slice A1 b1.length c1') ∧ w'.cell? ⟨X, 0, none⟩ = some (.int .i64 (F : Int)) ∧ w'.cell? ⟨X, 1, none⟩ = some (.int .i32 t) ∧ w'.cell? ⟨X, 2, none⟩ = some (.int .i64 (C : Int))) 13 ?_
        have hHeld : (fun w' => w'.cell? ⟨nb, 0, none⟩ = some (.slice A1 b1.length c1') ∧ w'.cell? ⟨X, 0, none⟩ = some (.int .i64 (F : Int)) ∧ w'.cell? ⟨X, 1, none⟩ = some (.int .i32 t) ∧ w'.cell? ⟨X, 2, none⟩ = some (.int .i64 (C : Int))) w2.drew := (by go_keep)
        (refine OnBut.take (i := 0) (oi := ⟨_, _, _, _, _, _⟩) (v := ?_) rfl (by kernel_rfl) (by kernel_rfl) (by kernel_rfl) (by kernel_rfl) (fun _ _ _ h => h) (Or.inl ⟨by rfl, ?_⟩) (by assumption) ?_); rotate_left; (focus (intro w hSw; (try dsimp only at hSw); go_simp; (try with_reducible rfl); done)); (try simp only [Act.put, List.setIfInBounds_toArray, List.set_cons_zero, List.set_cons_succ])
        (refine OnBut.take (i := 1) (oi := ⟨_, _, _, _, _, _⟩) (v := ?_) rfl (by kernel_rfl) (by kernel_rfl) (by kernel_rfl) (by kernel_rfl) (fun _ _ _ h => h) (Or.inl ⟨by rfl, ?_⟩) (by assumption) ?_); rotate_left; (focus (intro w hSw; (try dsimp only at hSw); go_simp; (try with_reducible rfl); done)); (try simp only [Act.put, List.setIfInBounds_toArray, List.set_cons_zero, List.set_cons_succ])
        (refine OnBut.take (i := 2) (oi := ⟨_, _, _, _, _, _⟩) (v := ?_) rfl (by kernel_rfl) (by kernel_rfl) (by kernel_rfl) (by kernel_rfl) (fun _ _ _ h => h) (Or.inl ⟨by rfl, ?_⟩) (by assumption) ?_); rotate_left; (focus (intro w hSw; (try dsimp only at hSw); go_simp; (try with_reducible rfl); done)); (try simp only [Act.put, List.setIfInBounds_toArray, List.set_cons_zero, List.set_cons_succ])
        (refine OnBut.take (i := 3) (oi := ⟨_, _, _, _, _, _⟩) (v := ?_) rfl (by kernel_rfl) (by kernel_rfl) (by kernel_rfl) (by kernel_rfl) (fun _ _ _ h => h) (Or.inl ⟨by rfl, ?_⟩) (by assumption) ?_); rotate_left; (focus (intro w hSw; (try dsimp only at hSw); go_simp; (try with_reducible rfl); done)); (try simp only [Act.put, List.setIfInBounds_toArray, List.set_cons_zero, List.set_cons_succ])
        (refine OnBut.take (i := 4) (oi := ⟨_, _, _, _, _, _⟩) (v := ?_) rfl (by kernel_rfl) (by kernel_rfl) (by kernel_rfl) (by kernel_rfl) (fun _ _ _ h => h) (Or.inl ⟨by rfl, ?_⟩) (by assumption) ?_); rotate_left; (focus (intro w hSw; (try dsimp only at hSw); go_simp; (try with_reducible rfl); done)); (try simp only [Act.put, List.setIfInBounds_toArray, List.set_cons_zero, List.set_cons_succ])
        (refine OnBut.take (i := 6) (oi := ⟨_, _, _, _, _, _⟩) (v := ?_) rfl (by kernel_rfl) (by kernel_rfl) (by kernel_rfl) (by kernel_rfl) (fun _ _ _ h => h) (Or.inl ⟨by rfl, ?_⟩) (by assumption) ?_); rotate_left; (focus (intro w hSw; (try dsimp only at hSw); go_simp; (try with_reducible rfl); done)); (try simp only [Act.put, List.setIfInBounds_toArray, List.set_cons_zero, List.set_cons_succ])
        (refine OnBut.take (i := 7) (oi := ⟨_, _, _, _, _, _⟩) (v := ?_) rfl (by kernel_rfl) (by kernel_rfl) (by kernel_rfl) (by kernel_rfl) (fun _ _ _ h => h) (Or.inl ⟨by rfl, ?_⟩) (by assumption) ?_); rotate_left; (focus (intro w hSw; (try dsimp only at hSw); go_simp; (try with_reducible rfl); done)); (try simp only [Act.put, List.setIfInBounds_toArray, List.set_cons_zero, List.set_cons_succ])
        (refine OnBut.take (i := 8) (oi := ⟨_, _, _, _, _, _⟩) (v := ?_) rfl (by kernel_rfl) (by kernel_rfl) (by kernel_rfl) (by kernel_rfl) (fun _ _ _ h => h) (Or.inl ⟨by rfl, ?_⟩) (by assumption) ?_); rotate_left; (focus (intro w hSw; (try dsimp only at hSw); go_simp; (try with_reducible rfl); done)); (try simp only [Act.put, List.setIfInBounds_toArray, List.set_cons_zero, List.set_cons_succ])
        (refine OnBut.take (i := 9) (oi := ⟨_, _, _, _, _, _⟩) (v := ?_) rfl (by kernel_rfl) (by kernel_rfl) (by kernel_rfl) (by kernel_rfl) (fun _ _ _ h => h) (Or.inl ⟨by rfl, ?_⟩) (by assumption) ?_); rotate_left; (focus (intro w hSw; (try dsimp only at hSw); go_simp; (try with_reducible rfl); done)); (try simp only [Act.put, List.setIfInBounds_toArray, List.set_cons_zero, List.set_cons_succ])
        refine OnBut.one (i := 5) (o := ⟨_, _, _, _, _, _⟩) (by kernel_rfl) rfl (fun K hK => ?_); go_simp
        (go_at_call 58; refine (HE.out _).mono ?_; rintro e1 w4 ⟨rfl, hb4⟩; have S5 := Lib.hid (S4.out.below hb4); obtain ⟨x3, x0, x1, x2, x4⟩ := S5.out.x.f; simp only at x0 x1 x2; obtain ⟨y3, y0, y1⟩ := S5.out.n.p; clear hb4)
        (try go_wp2_with fail); refine hK.out _ _ (fun _ => ?_) ?_; (focus ((try dsimp only); (try go_keep); done)); clear hHeld hK K; intro hh; have hHeld := hh (by decide); clear hh; (try simp only [Act.put, List.setIfInBounds_toArray, List.set_cons_zero, List.set_cons_succ])
        (refine OnBut.take (i := 10) (oi := ⟨_, _, _, _, _, _⟩) (v := ?_) rfl (by kernel_rfl) (by kernel_rfl) (by kernel_rfl) (by kernel_rfl) (fun _ _ _ h => h) (Or.inl ⟨by rfl, ?_⟩) (by assumption) ?_); rotate_left; (focus (intro w hSw; (try dsimp only at hSw); go_simp; (try with_reducible rfl); done)); (try simp only [Act.put, List.setIfInBounds_toArray, List.set_cons_zero, List.set_cons_succ])
        obtain ⟨v5, w5, hrun, ho5, hg5, hoc5⟩ := run_zeros_own (P := Tryd.prog) w4 B 95 3 95 4 i0 (.bool false) .i64 Tryd.underlying95 Tryd.underlying3 hi0 hz hsi hby rfl rfl _ b1.length m _ S5.out.n.o (by have := HM.out; omega) (by have := HM.out; omega) S5.out.n.sz
        obtain ⟨g5, c5, rfl⟩ : ∃ g5 c5, v5 = .slice (some ⟨g5, 0, none⟩) (b1.length + m) c5 := by
          rcases ho5.2 with ⟨_, h0⟩ | ⟨g5, cap, cur, h0, _⟩
          · have := HM.out; omega
          · exact ⟨_, _, h0⟩
        have S6 : Hid (Nb B nb (.slice (some ⟨g5, 0, none⟩) (b1.length + m) c5) (b1 ++ List.replicate m false) (w5.setCell ⟨nb, 0, none⟩ (.slice (some ⟨g5, 0, none⟩) (b1.length + m) c5))) := Lib.hid (by
          have hp := S5.out.n.p.grown hg5 (fun e => by have := (S5.out.n.o.lt _ e).1; omega)
          refine ⟨hp.put, ?_, hnB, by have := S5.out.n.sz; have := hg5.size; simp [World.setCell]; omega⟩
          refine ownsRow_setCell_below ?_ (by show nb < B; exact hnB) _
          simpa using ho5)
        have X6 : Hid (RB (w5.setCell ⟨nb, 0, none⟩ (.slice (some ⟨g5, 0, none⟩) (b1.length + m) c5)) X ⟨F, t, C⟩) := Lib.hid ((S5.out.x.grown hg5 (kind_ne S5.out.n.o S5.out.x.b.choose_spec.choose_spec (by decide))).apart hXn _)
        have K6 : Hid (Kept nb V.ownBlock w (w5.setCell ⟨nb, 0, none⟩ (.slice (some ⟨g5, 0, none⟩) (b1.length + m) c5))) := Lib.hid ((S5.out.k.grown hg5 HOC.out).put 0 _)
        refine OnBut.one (i := 11) (o := ⟨_, _, _, _, _, _⟩) (by kernel_rfl) rfl (fun K hK => ?_)
        rw [if_pos (by rfl)]
        refine wp_append_run w4 _ _ 95 3 rfl _ _ rfl rfl _ w5 hrun ?_
        obtain ⟨y3, y0, y1⟩ := S5.out.n.p.grown hg5 (fun e => by have := (S5.out.n.o.lt _ e).1; omega)
        obtain ⟨x3, x0, x1, x2, x4⟩ := (S5.out.x.grown hg5 (kind_ne S5.out.n.o S5.out.x.b.choose_spec.choose_spec (by decide))).f
        simp only at x0 x1 x2
        have HOC2 : Hid (∀ k, Value.ownBlock (.slice (some ⟨g5, 0, none⟩) (b1.length + m) c5) = some k → V.ownBlock = some k ∨ w.heap.size ≤ k) := Lib.hid (fun k hk => by
          rcases hoc5 k hk with h1 | h1
          · exact HOC.out k h1
          · exact .inr (Nat.le_trans S5.out.k.size h1))
        clear hrun ho5 hg5 hoc5
        simp only [Act.put, List.setIfInBounds_toArray, List.set_cons_zero, List.set_cons_succ]
        (try go_wp2_with fail); refine hK.out _ _ (fun _ => ?_) ?_; (focus ((try dsimp only); (try go_keep); done)); clear hHeld hK K; intro hh; have hHeld := hh (by decide); clear hh; (try simp only [Act.put, List.setIfInBounds_toArray, List.set_cons_zero, List.set_cons_succ])
        (refine OnBut.take (i := 12) (oi := ⟨_, _, _, _, _, _⟩) (v := ?_) rfl (by kernel_rfl) (by kernel_rfl) (by kernel_rfl) (by kernel_rfl) (fun _ _ _ h => h) (Or.inl ⟨by rfl, ?_⟩) (by assumption) ?_); rotate_left; (focus (intro w hSw; (try dsimp only at hSw); go_simp; (try with_reducible rfl); done)); (try simp only [Act.put, List.setIfInBounds_toArray, List.set_cons_zero, List.set_cons_succ])
        refine OnBut.one (i := 13) (o := ⟨_, _, _, _, _, _⟩) (by kernel_rfl) rfl (fun K hK => ?_); go_simp
        (try go_wp2_with fail); refine hK.out _ _ (fun h => absurd rfl h) ?_; clear hHeld hK K; intro _; refine OnBut.done (by kernel_rfl) ?_; (try simp only [Act.put, List.setIfInBounds_toArray, List.set_cons_zero, List.set_cons_succ])
        go_wp2_with fail
        obtain ⟨b2, hb2⟩ : ∃ b2, b2 = b1 ++ List.replicate m false := ⟨_, rfl⟩
        have hlb : b2.length = b1.length + m := by rw [hb2]; simp
        have S8 : Hid (Ns B nb X (.slice (some ⟨g5, 0, none⟩) b2.length c5) b2 ⟨F, t, C⟩ w V.ownBlock (w5.setCell ⟨nb, 0, none⟩ (.slice (some ⟨g5, 0, none⟩) (b1.length + m) c5))) := Lib.hid ⟨by rw [hlb, hb2]; exact S6.out, X6.out, K6.out⟩
        have HL2 : Hid (F + C ≤ b2.length ∧ b2.length ≤ 1048576) := Lib.hid (by rw [hlb]; have := HM.out; omega)
        have HB2 : Hid (∀ c, bit b2 c = (bit bs c || amid R0 c)) := Lib.hid (fun c => by rw [hb2, bit_app]; exact HBIT.out c)
        have HOC3 : Hid (∀ k, Value.ownBlock (.slice (some ⟨g5, 0, none⟩) b2.length c5) = some k → V.ownBlock = some k ∨ w.heap.size ≤ k) := HOC2
        clear hb2 hlb S6 X6 K6 HOC2 y3 y0 y1 x3 x0 x1 x2 x4 e5
      rotate_left
      focus
        obtain ⟨g5, c5, he⟩ : ∃ g5 c5, Value.slice A1 b1.length c1' = .slice (some ⟨g5, 0, none⟩) b1.length c5 := by
          rcases S3.out.n.o.2 with ⟨_, h0⟩ | ⟨g5, cap, cur, h0, _⟩
          · omega
          · exact ⟨_, _, h0⟩
        have HEE := Lib.hid he
        clear he
        go_wp2_with fail
        have he := HEE.out
        obtain ⟨b2, hb2⟩ : ∃ b2, b2 = b1 := ⟨_, rfl⟩
        have S8 := S3
        have HOC3 := HOC
        rw [he] at S8 HOC3
        rw [← hb2] at S8 HOC3
        have HL2 : Hid (F + C ≤ b2.length ∧ b2.length ≤ 1048576) := Lib.hid (by rw [hb2]; omega)
        have HB2 : Hid (∀ c, bit b2 c = (bit bs c || amid R0 c)) := Lib.hid (fun c => by rw [hb2]; exact HBIT.out c)
        clear he hb2 y3 y0 y1 x3 x0 x1 x2 x4
      all_goals
        go_loopw [7] (fun q wx => ∃ (k : Nat) (b3 : List Bool), k ≤ C ∧ q = .int .i64 ((F + k : Nat) : Int) ∧ Ns B nb X (.slice (some ⟨g5, 0, none⟩) b3.length c5) b3 ⟨F, t, C⟩ w V.ownBlock wx ∧ b3.length = b2.length ∧ (∀ c, bit b3 c = (bit bs c || amid (R0 ++ sqp F t k) c)) ∧ (∀ c : Nat, amid (R0 ++ sqp F t k) c = true → bit bs c = false)) (fun q _ => F + C - (RowKit.intOf q).toNat)
        case atStart => exact ⟨0, b2, Nat.zero_le _, by simp, S8.out, rfl, by simpa [sqp] using HB2.out, by simpa [sqp] using HUN.out⟩
        case round =>
          obtain ⟨k, b3, hk, rfl, hns, hl3, hbit3, hun3⟩ := hrel
          have S9 := Lib.hid hns; have HBIT3 := Lib.hid hbit3; have HUN3 := Lib.hid hun3
          obtain ⟨x3, x0, x1, x2, x4⟩ := hns.x.f
          simp only at x0 x1 x2
          obtain ⟨y3, y0, y1⟩ := hns.n.p
          have z9 := hns.k.size
          clear hns hbit3 hun3
          by_cases hkc : k < C
          · obtain ⟨I, hI⟩ : ∃ I, I = F + k := ⟨_, rfl⟩
            rw [← hI]
            have hI3 : I < b3.length := by have := HL2.out.1; omega
            obtain ⟨c0, c3, c4, c5'⟩ := S9.out.n.cell I hI3
            have HG := Lib.hid (S9.out.n.o.lt g5 rfl)
            have HXG : Hid (g5 ≠ X) := Lib.hid (fun e => kind_ne S9.out.n.o S9.out.x.b.choose_spec.choose_spec (by decide) (by rw [e]; rfl))
            have HL3 := Lib.hid hl3
            have HI : Hid (amid (sqp F t (k + 1)) I = true ∧ amid (R0 ++ sqp F t k) I = false) := Lib.hid (by
              refine ⟨by rw [amid_row]; simp; omega, ?_⟩
              rw [amid_app, amid_row]
              have h1 : amid R0 I = false := by
                cases h : amid R0 I with
                | false => rfl
                | true => have := HLT.out _ h; omega
              rw [h1]
              simp
              omega)
            unfold maxLen at c5'
            have HL4 := HL2.out.2
            have HIK := Lib.hid hI
            have hI2 : (I : Int) < (F : Int) + (C : Int) := by omega
            have hI4 : I ≤ 1048576 := by omega
            clear hI hl3
            cases hbI : bit b3 I with
            | true =>
              rw [hbI] at c0
              have HFIN : Hid (∀ v w', v = .returned (.bool false) → Kept nb V.ownBlock w w' → PP v w') := Lib.hid (fun v w' hv hk => by
                rw [← HPP.out]
                refine ⟨hk, .inl ⟨hv, I, ?_, ?_⟩⟩
                · refine amid_up l (j + 1) I ?_
                  rw [HTK.out, amid_app, amid_row]
                  have := HIK.out
                  have h3 : (decide (F ≤ I) && decide (I < F + C)) = true := by simp; omega
                  rw [h3]; simp
                · have h4 := HBIT3.out I
                  rw [hbI, HI.out.2, Bool.or_false] at h4
                  exact h4.symm)
              clear hbI
              go_wp2_with (go_at_call 58; refine (HE.out _).mono ?_; rintro e1 wy ⟨rfl, hby⟩; have S10 := Lib.hid (S9.out.below hby); obtain ⟨x3, x0, x1, x2, x4⟩ := S10.out.x.f; simp only at x0 x1 x2; obtain ⟨y3, y0, y1⟩ := S10.out.n.p; have c0 := (hby.cell (p := ⟨g5, I, none⟩) HG.out.2).trans c0; clear hby)
              exact HFIN.out _ _ rfl S10.out.k
            | false =>
              rw [hbI] at c0
              have HB4 : Hid (∀ c, bit (b3.set I true) c = (bit bs c || amid (R0 ++ sqp F t (k + 1)) c)) := Lib.hid (fun c => by
                have e : sqp (F : Int) t (k + 1) = sqp F t k ++ [((F : Int) + k, t + k)] := rfl
                rw [bit_set b3 I c hI3, HBIT3.out c, e, ← List.append_assoc, amid_app (R0 ++ sqp F t k), Bool.or_assoc]
                congr 2
                unfold amid
                have := HIK.out
                rw [Bool.eq_iff_iff]
                simp
                omega)
              have HU4 : Hid (∀ c : Nat, amid (R0 ++ sqp F t (k + 1)) c = true → bit bs c = false) := Lib.hid (fun c hc => by
                have e : sqp (F : Int) t (k + 1) = sqp F t k ++ [((F : Int) + k, t + k)] := rfl
                rw [e, ← List.append_assoc, amid_app, Bool.or_eq_true] at hc
                rcases hc with hc | hc
                · exact HUN3.out c hc
                · have : c = I := by
                    unfold amid at hc
                    have := HIK.out
                    simp at hc
                    omega
                  subst this
                  have h4 := HBIT3.out c
                  rw [hbI, HI.out.2, Bool.or_false] at h4
                  exact h4.symm)
              have hw7 : IntKind.i64.wrap ((I : Int) + 1) = (I : Int) + 1 := wrap64 (by omega) (by omega)
              clear hbI
              go_wp2_with (go_at_call 58; refine (HE.out _).mono ?_; rintro e1 wy ⟨rfl, hby⟩; have S10 := Lib.hid (S9.out.below hby); obtain ⟨x3, x0, x1, x2, x4⟩ := S10.out.x.f; simp only at x0 x1 x2; obtain ⟨y3, y0, y1⟩ := S10.out.n.p; have c0 := (hby.cell (p := ⟨g5, I, none⟩) HG.out.2).trans c0; have c3 := (hby.frozen (p := ⟨g5, I, none⟩) HG.out.2).trans c3; clear hby)
              go_roundw
              case rel => exact ⟨k + 1, b3.set I true, by omega, by rw [HIK.out]; congr 1, S10.out.set I hI3 HXG.out (HOC3.out g5 rfl), by rw [List.length_set]; exact HL3.out, HB4.out, HU4.out⟩
              case measure => simp [RowKit.intOf]; omega
          · have hkC : k = C := by omega
            subst hkC
            have HB4 : Hid (∀ c, bit b3 c = (bit bs c || amid (rps (l.take (j + 1))) c)) := Lib.hid (by rw [HTK.out]; exact HBIT3.out)
            have HU4 : Hid (∀ c : Nat, amid (rps (l.take (j + 1))) c = true → bit bs c = false) := Lib.hid (by rw [HTK.out]; exact HUN3.out)
            have HL4 : Hid (b3.length ≤ 1048576) := Lib.hid (by have := HL2.out.2; omega)
            have HOC5 : Hid (∀ q, Value.ownBlock (.slice (some ⟨g5, 0, none⟩) b3.length c5) = some q → V.ownBlock = some q ∨ w.heap.size ≤ q) := HOC3
            have hge : ¬ (((F + k : Nat) : Int) < (F : Int) + (k : Int)) := by omega
            clear hl3 hkc
            go_wp2_with (go_at_call 58; refine (HE.out _).mono ?_; rintro e1 wy ⟨rfl, hby⟩; have S10 := Lib.hid (S9.out.below hby); clear hby)
            go_roundw
            case rel => exact ⟨j + 1, _, b3, by omega, by go_num, S10.out.n, HL4.out, S10.out.k, HOC5.out, HB4.out, HU4.out⟩
            case measure => simp [RowKit.intOf]; omega
    · obtain rfl : j = n := by omega
      have e : l.take j = l := by rw [HN.out]; exact List.take_length
      rw [e] at HBIT HUN
      have HFIN : Hid (∀ v, v = .returned (.bool true) → PP v wr) := Lib.hid (fun v hv => by rw [← HPP.out]; exact ⟨HK1.out, .inr ⟨hv, HUN.out, V1, b1, hnb1, hb1, HBIT.out⟩⟩)
      clear e hnb1
      go_wp2_with fail
      exact HFIN.out _ rfl
end Go.Proofs.YtmpddibdggdngaaDoor.tb
