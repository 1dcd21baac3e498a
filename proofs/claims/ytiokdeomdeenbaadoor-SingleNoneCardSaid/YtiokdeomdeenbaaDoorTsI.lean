/- A region of four Overs and two new variables, in whatever order; the state of its ways. -/
import Derived.Test.YtiokdeomdeenbaaDoorTsH
import Derived.Deep.Cut
namespace Go.Proofs.YtiokdeomdeenbaaDoor.tb
open Go.RowKit Go.Lib
set_option linter.unusedVariables false
/-- A new variable: the word of a table. -/
structure Fr (w : World) (p : Nat) (X : Value) : Prop where
  f : F1 w p X
  k : ∃ cs, w.heap[p]? = some (.cells cs 27)
theorem Fr.below {w w' : World} {p B : Nat} {X : Value} (h : Fr w p X) (hb : Below B w w') (hB : p < B) : Fr w' p X :=
  ⟨h.f.below hb hB, by obtain ⟨cs, h⟩ := h.k; exact ⟨cs, by rw [hb.block p hB]; exact h⟩⟩
theorem fr_new (w : World) (X : Value) : Fr (w.alloc (.cells #[X] 27)) w.heap.size X := ⟨f1_new w X _, ⟨#[X], heap_alloc_new w _⟩⟩
theorem Fr.put {w : World} {p : Nat} {X u : Value} (h : Fr w p X) (hc : (w.setCell ⟨p, 0, none⟩ u).cell? ⟨p, 0, none⟩ = some u) (hz : ∃ cs, (w.setCell ⟨p, 0, none⟩ u).heap[p]? = some (.cells cs 27)) : Fr (w.setCell ⟨p, 0, none⟩ u) p u :=
  ⟨⟨by simpa [World.setCell] using h.f.lt, hc, by simpa using h.f.f0⟩, hz⟩
theorem Fr.put' {w : World} {p : Nat} {X : Value} (h : Fr w p X) (u : Value) : Fr (w.setCell ⟨p, 0, none⟩ u) p u := by
  obtain ⟨cs, hk⟩ := h.k
  have hc := h.f.c0
  have hx : 0 < cs.size := by
    simp only [World.cell?, hk, Option.isSome_none, Bool.false_eq_true, if_false] at hc
    exact (Array.getElem?_eq_some_iff.1 hc).1
  have hp := h.f.lt
  refine h.put ?_ ?_
  · exact World.cell?_setCell_same w ⟨p, 0, none⟩ u (by rw [hc])
  · refine ⟨cs.setIfInBounds 0 u, ?_⟩
    obtain ⟨_, hk2⟩ := Array.getElem?_eq_some_iff.1 hk
    simp only [World.setCell]
    rw [Array.getElem?_eq_getElem (by simpa using hp), Array.getElem_modify, hk2]
    simp
theorem Fr.far {w : World} {p q : Nat} {X : Value} (h : Fr w q X) (hne : q ≠ p) (u : Value) : Fr (w.setCell ⟨p, 0, none⟩ u) q X :=
  ⟨⟨by simpa [World.setCell] using h.f.lt, (World.cell?_setCell_far w ⟨p, 0, none⟩ ⟨q, 0, none⟩ u (Ne.symm hne)).trans h.f.c0, by simpa using h.f.f0⟩, by
    obtain ⟨cs, hk⟩ := h.k
    exact ⟨cs, (Below.heap_setCell _ _ _ _ hne).trans hk⟩⟩
/-- A table's rows don't lie in a variable of a table's word. -/
theorem te_put {w : World} {p : Nat} {X V : Value} {l : List (Int × Int)} (h : TE TBr w V l) (hp : Fr w p X) (u : Value) : TE TBr (w.setCell ⟨p, 0, none⟩ u) V l := by
  obtain ⟨B, S, ⟨h1, h2⟩, h3⟩ := h
  refine ⟨B, S, ⟨h1, ?_⟩, h3⟩
  rcases h2 with h2 | ⟨g, cap, cur, hv, hg, hh, r⟩
  · exact .inl h2
  · refine .inr ⟨g, cap, cur, hv, hg, ?_, r⟩
    have hne : g ≠ p := fun e => by
      subst e
      obtain ⟨cs, hk⟩ := hp.k
      rw [hk] at hh
      injection hh with hh
      injection hh with _ hh
      exact absurd hh (by decide)
    rw [Below.heap_setCell _ _ _ _ hne]; exact hh
/-- Where the region stands: how many of its Overs are done, and whether its variables are made. -/
structure St (wb : World) (x y z : List (Int × Int)) (k : Nat) (A B : Bool) (v1 v2 v3 v4 v5 v6 : Value) (W : World) : Prop where
  bel : Below wb.heap.size wb W
  c1 : 1 ≤ k → ∃ V, v1 = .agg #[V] ∧ TE TBr W V (over y z)
  c2 : 2 ≤ k → ∃ V, v2 = .agg #[V] ∧ TE TBr W V (over x (over y z))
  c3 : 3 ≤ k → ∃ V, v3 = .agg #[V] ∧ TE TBr W V (over x y)
  c4 : 4 ≤ k → ∃ V, v4 = .agg #[V] ∧ TE TBr W V (over (over x y) z)
  a : A = true → ∃ p, v5 = .pointer (some ⟨p, 0, none⟩) ∧ Fr W p (.slice none 0 0) ∧ wb.heap.size ≤ p
  b : B = true → ∃ p, v6 = .pointer (some ⟨p, 0, none⟩) ∧ Fr W p (.slice none 0 0) ∧ wb.heap.size ≤ p
  ne : A = true → B = true → v5 ≠ v6
variable {wb : World} {x y z : List (Int × Int)} {k : Nat} {A B : Bool} {v1 v2 v3 v4 v5 v6 : Value} {W W' : World}
theorem te_keep {W W' : World} {V : Value} {l : List (Int × Int)} (h : TE TBr W V l) (hb : Below W.heap.size W W') : TE TBr W' V l := tb.tab.keepE h hb
theorem St.below (h : St wb x y z k A B v1 v2 v3 v4 v5 v6 W) (hb : Below W.heap.size W W') : St wb x y z k A B v1 v2 v3 v4 v5 v6 W' where
  bel := h.bel.trans (hb.mono h.bel.size)
  c1 := fun e => by obtain ⟨V, h1, h2⟩ := h.c1 e; exact ⟨V, h1, te_keep h2 hb⟩
  c2 := fun e => by obtain ⟨V, h1, h2⟩ := h.c2 e; exact ⟨V, h1, te_keep h2 hb⟩
  c3 := fun e => by obtain ⟨V, h1, h2⟩ := h.c3 e; exact ⟨V, h1, te_keep h2 hb⟩
  c4 := fun e => by obtain ⟨V, h1, h2⟩ := h.c4 e; exact ⟨V, h1, te_keep h2 hb⟩
  a := fun e => by obtain ⟨p, h1, h2, h3⟩ := h.a e; exact ⟨p, h1, h2.below hb h2.f.lt, h3⟩
  b := fun e => by obtain ⟨p, h1, h2, h3⟩ := h.b e; exact ⟨p, h1, h2.below hb h2.f.lt, h3⟩
  ne := h.ne
theorem St.to1 (h : St wb x y z 0 A B v1 v2 v3 v4 v5 v6 W) (hb : Below W.heap.size W W') {V : Value} (ht : TE TBr W' V (over y z)) : St wb x y z 1 A B (.agg #[V]) v2 v3 v4 v5 v6 W' :=
  have h := h.below hb
  { h with c1 := fun _ => ⟨V, rfl, ht⟩, c2 := fun e => by omega, c3 := fun e => by omega, c4 := fun e => by omega }
theorem St.to2 (h : St wb x y z 1 A B v1 v2 v3 v4 v5 v6 W) (hb : Below W.heap.size W W') {V : Value} (ht : TE TBr W' V (over x (over y z))) : St wb x y z 2 A B v1 (.agg #[V]) v3 v4 v5 v6 W' :=
  have h := h.below hb
  { h with c1 := fun _ => h.c1 (by omega), c2 := fun _ => ⟨V, rfl, ht⟩, c3 := fun e => by omega, c4 := fun e => by omega }
theorem St.to3 (h : St wb x y z 2 A B v1 v2 v3 v4 v5 v6 W) (hb : Below W.heap.size W W') {V : Value} (ht : TE TBr W' V (over x y)) : St wb x y z 3 A B v1 v2 (.agg #[V]) v4 v5 v6 W' :=
  have h := h.below hb
  { h with c1 := fun _ => h.c1 (by omega), c2 := fun _ => h.c2 (by omega), c3 := fun _ => ⟨V, rfl, ht⟩, c4 := fun e => by omega }
theorem St.to4 (h : St wb x y z 3 A B v1 v2 v3 v4 v5 v6 W) (hb : Below W.heap.size W W') {V : Value} (ht : TE TBr W' V (over (over x y) z)) : St wb x y z 4 A B v1 v2 v3 (.agg #[V]) v5 v6 W' :=
  have h := h.below hb
  { h with c1 := fun _ => h.c1 (by omega), c2 := fun _ => h.c2 (by omega), c3 := fun _ => h.c3 (by omega), c4 := fun _ => ⟨V, rfl, ht⟩ }
theorem St.toA (h : St wb x y z k false B v1 v2 v3 v4 v5 v6 W) : St wb x y z k true B v1 v2 v3 v4 (.pointer (some ⟨W.heap.size, 0, none⟩)) v6 (W.alloc (.cells #[.slice none 0 0] 27)) :=
  have h' := h.below (W' := W.alloc (.cells #[.slice none 0 0] 27)) ((Below.refl _ _).alloc (Nat.le_refl _) _)
  have hne : B = true → (.pointer (some ⟨W.heap.size, 0, none⟩) : Value) ≠ v6 := by
    intro e he
    obtain ⟨p, h1, h2, _⟩ := h.b e
    rw [h1] at he
    injection he with he
    injection he with he
    injection he with he
    have := h2.f.lt
    omega
  { h' with a := fun _ => ⟨_, rfl, fr_new W _, h.bel.size⟩, ne := fun _ e => hne e }
theorem St.toB (h : St wb x y z k A false v1 v2 v3 v4 v5 v6 W) : St wb x y z k A true v1 v2 v3 v4 v5 (.pointer (some ⟨W.heap.size, 0, none⟩)) (W.alloc (.cells #[.slice none 0 0] 27)) :=
  have h' := h.below (W' := W.alloc (.cells #[.slice none 0 0] 27)) ((Below.refl _ _).alloc (Nat.le_refl _) _)
  have hne : A = true → v5 ≠ (.pointer (some ⟨W.heap.size, 0, none⟩) : Value) := by
    intro e he
    obtain ⟨p, h1, h2, _⟩ := h.a e
    rw [h1] at he
    injection he with he
    injection he with he
    injection he with he
    have := h2.f.lt
    omega
  { h' with b := fun _ => ⟨_, rfl, fr_new W _, h.bel.size⟩, ne := fun e _ => hne e }
/-- What of the region is done. -/
def Ls (k : Nat) (A B : Bool) : Array Bool := #[true, true, true, decide (1 ≤ k), decide (2 ≤ k), true, true, decide (3 ≤ k), true, decide (4 ≤ k), A, B, false, false]
/-- What comes next. -/
def rdy (k : Nat) (A B : Bool) : List Nat := (match k with | 0 => [3] | 1 => [4] | 2 => [7] | 3 => [9] | _ => []) ++ (if A then [] else [10]) ++ (if B then [] else [11]) ++ (if k = 4 ∧ A = true ∧ B = true then [12] else [])
def puts6 (a : Act) (v1 v2 v3 v4 v5 v6 : Value) : Act := (((((a.put (some 72) v1).put (some 73) v2).put (some 76) v3).put (some 78) v4).put (some 21) v5).put (some 22) v6
section
variable {P : Program} {ops : Array Oper} {Q : Exit → Act → World → Prop} {S : World → Prop}
theorem nodes (F : Value → Value → Value → Value → Value → Value → Act)
    (hr : ∀ k A B, k ≤ 4 → Region.ready .any ops (Ls k A B) = rdy k A B)
    (hS : ∀ k A B v1 v2 v3 v4 v5 v6 W, St wb x y z k A B v1 v2 v3 v4 v5 v6 W → S W)
    (h1 : ∀ A B v1 v2 v3 v4 v5 v6 W, St wb x y z 0 A B v1 v2 v3 v4 v5 v6 W → ∀ K, (∀ v W', St wb x y z 1 A B v v2 v3 v4 v5 v6 W' → K (F v v2 v3 v4 v5 v6) W') → wpOp P ops Q 3 K (F v1 v2 v3 v4 v5 v6) W)
    (h2 : ∀ A B v1 v2 v3 v4 v5 v6 W, St wb x y z 1 A B v1 v2 v3 v4 v5 v6 W → ∀ K, (∀ v W', St wb x y z 2 A B v1 v v3 v4 v5 v6 W' → K (F v1 v v3 v4 v5 v6) W') → wpOp P ops Q 4 K (F v1 v2 v3 v4 v5 v6) W)
    (h3 : ∀ A B v1 v2 v3 v4 v5 v6 W, St wb x y z 2 A B v1 v2 v3 v4 v5 v6 W → ∀ K, (∀ v W', St wb x y z 3 A B v1 v2 v v4 v5 v6 W' → K (F v1 v2 v v4 v5 v6) W') → wpOp P ops Q 7 K (F v1 v2 v3 v4 v5 v6) W)
    (h4 : ∀ A B v1 v2 v3 v4 v5 v6 W, St wb x y z 3 A B v1 v2 v3 v4 v5 v6 W → ∀ K, (∀ v W', St wb x y z 4 A B v1 v2 v3 v v5 v6 W' → K (F v1 v2 v3 v v5 v6) W') → wpOp P ops Q 9 K (F v1 v2 v3 v4 v5 v6) W)
    (ha : ∀ k B v1 v2 v3 v4 v5 v6 W, St wb x y z k false B v1 v2 v3 v4 v5 v6 W → ∀ K, (∀ v W', St wb x y z k true B v1 v2 v3 v4 v v6 W' → K (F v1 v2 v3 v4 v v6) W') → wpOp P ops Q 10 K (F v1 v2 v3 v4 v5 v6) W)
    (hb : ∀ k A v1 v2 v3 v4 v5 v6 W, St wb x y z k A false v1 v2 v3 v4 v5 v6 W → ∀ K, (∀ v W', St wb x y z k A true v1 v2 v3 v4 v5 v W' → K (F v1 v2 v3 v4 v5 v) W') → wpOp P ops Q 11 K (F v1 v2 v3 v4 v5 v6) W)
    (hs : ∀ v1 v2 v3 v4 v5 v6 W, St wb x y z 4 true true v1 v2 v3 v4 v5 v6 W → S W → wpAnyH P .any ops Q S 2 (Ls 4 true true) (F v1 v2 v3 v4 v5 v6) W) :
    ∀ m k A B v1 v2 v3 v4 v5 v6 W, k ≤ 4 → m = (4 - k) + (if A then 0 else 1) + (if B then 0 else 1) → St wb x y z k A B v1 v2 v3 v4 v5 v6 W → wpAnyH P .any ops Q S (m + 2) (Ls k A B) (F v1 v2 v3 v4 v5 v6) W := by
  intro m
  induction m with
  | zero =>
    intro k A B v1 v2 v3 v4 v5 v6 W hk hm h
    obtain rfl : k = 4 := by omega
    obtain ⟨rfl, rfl⟩ : A = true ∧ B = true := by revert hm; cases A <;> cases B <;> simp
    exact hs _ _ _ _ _ _ _ h (hS _ _ _ _ _ _ _ _ _ _ h)
  | succ m ih =>
    intro k A B v1 v2 v3 v4 v5 v6 W hk hm h
    have hne : rdy k A B ≠ [] := by
      unfold rdy
      rcases k with _ | _ | _ | _ | _ | k <;> cases A <;> cases B <;> simp at hm ⊢ <;> omega
    refine wpAnyH_ready (hr k A B hk) hne fun i hi => ?_
    have hcase : (k = 0 ∧ i = 3) ∨ (k = 1 ∧ i = 4) ∨ (k = 2 ∧ i = 7) ∨ (k = 3 ∧ i = 9) ∨ (A = false ∧ i = 10) ∨ (B = false ∧ i = 11) := by
      unfold rdy at hi
      rcases k with _ | _ | _ | _ | _ | k <;> cases A <;> cases B <;> simp at hi hm ⊢ <;> omega
    rcases hcase with ⟨rfl, rfl⟩ | ⟨rfl, rfl⟩ | ⟨rfl, rfl⟩ | ⟨rfl, rfl⟩ | ⟨rfl, rfl⟩ | ⟨rfl, rfl⟩
    · exact h1 A B _ _ _ _ _ _ _ h _ fun v W' h' => ⟨hS _ _ _ _ _ _ _ _ _ _ h', ih 1 A B _ _ _ _ _ _ _ (by omega) (by omega) h'⟩
    · exact h2 A B _ _ _ _ _ _ _ h _ fun v W' h' => ⟨hS _ _ _ _ _ _ _ _ _ _ h', ih 2 A B _ _ _ _ _ _ _ (by omega) (by omega) h'⟩
    · exact h3 A B _ _ _ _ _ _ _ h _ fun v W' h' => ⟨hS _ _ _ _ _ _ _ _ _ _ h', ih 3 A B _ _ _ _ _ _ _ (by omega) (by omega) h'⟩
    · exact h4 A B _ _ _ _ _ _ _ h _ fun v W' h' => ⟨hS _ _ _ _ _ _ _ _ _ _ h', ih 4 A B _ _ _ _ _ _ _ (by omega) (by omega) h'⟩
    · exact ha k B _ _ _ _ _ _ _ h _ fun v W' h' => ⟨hS _ _ _ _ _ _ _ _ _ _ h', ih k true B _ _ _ _ _ _ _ hk (by simp at hm ⊢; omega) h'⟩
    · exact hb k A _ _ _ _ _ _ _ h _ fun v W' h' => ⟨hS _ _ _ _ _ _ _ _ _ _ h', ih k A true _ _ _ _ _ _ _ hk (by simp at hm ⊢; omega) h'⟩
theorem nodes' {a : Act} {l : Array Bool} (hl : l = Ls 0 false false) (he : puts6 a undef undef undef undef undef undef = a)
    (hr : ∀ k A B, k ≤ 4 → Region.ready .any ops (Ls k A B) = rdy k A B)
    (hS : ∀ W, Below wb.heap.size wb W → S W)
    (h1 : ∀ A B v1 v2 v3 v4 v5 v6 W, St wb x y z 0 A B v1 v2 v3 v4 v5 v6 W → ∀ K, (∀ v W', St wb x y z 1 A B v v2 v3 v4 v5 v6 W' → K (puts6 a v v2 v3 v4 v5 v6) W') → wpOp P ops Q 3 K (puts6 a v1 v2 v3 v4 v5 v6) W)
    (h2 : ∀ A B v1 v2 v3 v4 v5 v6 W, St wb x y z 1 A B v1 v2 v3 v4 v5 v6 W → ∀ K, (∀ v W', St wb x y z 2 A B v1 v v3 v4 v5 v6 W' → K (puts6 a v1 v v3 v4 v5 v6) W') → wpOp P ops Q 4 K (puts6 a v1 v2 v3 v4 v5 v6) W)
    (h3 : ∀ A B v1 v2 v3 v4 v5 v6 W, St wb x y z 2 A B v1 v2 v3 v4 v5 v6 W → ∀ K, (∀ v W', St wb x y z 3 A B v1 v2 v v4 v5 v6 W' → K (puts6 a v1 v2 v v4 v5 v6) W') → wpOp P ops Q 7 K (puts6 a v1 v2 v3 v4 v5 v6) W)
    (h4 : ∀ A B v1 v2 v3 v4 v5 v6 W, St wb x y z 3 A B v1 v2 v3 v4 v5 v6 W → ∀ K, (∀ v W', St wb x y z 4 A B v1 v2 v3 v v5 v6 W' → K (puts6 a v1 v2 v3 v v5 v6) W') → wpOp P ops Q 9 K (puts6 a v1 v2 v3 v4 v5 v6) W)
    (ha : ∀ k B v1 v2 v3 v4 v5 v6 W, St wb x y z k false B v1 v2 v3 v4 v5 v6 W → ∀ K, (∀ v W', St wb x y z k true B v1 v2 v3 v4 v v6 W' → K (puts6 a v1 v2 v3 v4 v v6) W') → wpOp P ops Q 10 K (puts6 a v1 v2 v3 v4 v5 v6) W)
    (hb : ∀ k A v1 v2 v3 v4 v5 v6 W, St wb x y z k A false v1 v2 v3 v4 v5 v6 W → ∀ K, (∀ v W', St wb x y z k A true v1 v2 v3 v4 v5 v W' → K (puts6 a v1 v2 v3 v4 v5 v) W') → wpOp P ops Q 11 K (puts6 a v1 v2 v3 v4 v5 v6) W)
    (hs : ∀ v1 v2 v3 v4 v5 v6 W, St wb x y z 4 true true v1 v2 v3 v4 v5 v6 W → S W → wpAnyH P .any ops Q S 2 (Ls 4 true true) (puts6 a v1 v2 v3 v4 v5 v6) W)
    (hW : Below wb.heap.size wb W) : wpAnyH P .any ops Q S 8 l a W := by
  subst hl
  have h := nodes (puts6 a) hr (fun _ _ _ _ _ _ _ _ _ W h => hS W h.bel) h1 h2 h3 h4 ha hb hs 6 0 false false undef undef undef undef undef undef W (by omega) rfl ⟨hW, fun e => by omega, fun e => by omega, fun e => by omega, fun e => by omega, fun e => (by cases e), fun e => (by cases e), fun e => (by cases e)⟩
  rwa [he] at h
end
end Go.Proofs.YtiokdeomdeenbaaDoor.tb
