/- beside, Over of the landed table; append of a make: contracts. -/
import Derived.Lib.AppendZeros
import Derived.Lib.SliceRun
import Derived.Laws.OwnMore
import Derived.Test.YtmpddibdggdngaaDoorTsC
import Derived.Test.YtmpddibdggdngaaDoorTsB
import Derived.Test.YtmpddibdggdngaaDoorTsD
import Derived.Test.YtmpddibdggdngaaDoorTbF
import Derived.Laws.AppendOwnNone
namespace Go.Proofs.YtmpddibdggdngaaDoor.tb
open Go Go.Lib
set_option linter.unusedVariables false
section
variable {P : Program} (w : World)
theorem zeros_list (z : Value) (hz : z.cells = #[z]) (n : Nat) : (Builtin.zeroCells z.cells n).toList = List.replicate n z := by
  rw [hz]
  simp [Builtin.zeroCells]
  apply List.ext_getElem
  · simp
  · intro i h1 h2
    simp [Nat.mod_one]
/-- Of one cell and one byte each. -/
theorem run_zeros_own (base : Nat) (t tn ty e : TypeId) (i : TypeInfo) (z : Value) (kn : IntKind) (ht : P.underlying t = some (.slice e)) (htn : P.underlying tn = some (.int kn)) (hi : P.info? e = some i) (hz : i.zero = some z) (hsize : i.size = 1) (hby : i.bytes = 1) (hzc : z.cells = #[z]) (h1 : z.oneCell' = true)
    (v : Value) (n m : Nat) (xs : List Value) (hown : w.ownsRow base e 1 v n xs) (h0 : 0 < m) (hs : n + m ≤ 100000000) (hbase : base ≤ w.heap.size) :
    ∃ v' w', (Builtin.append_ #[t, tn] ty #[v, .int .i64 (m : Int)]).run P w = .ok v' w' ∧ w'.ownsRow base e 1 v' (n + m) (xs ++ List.replicate m z) ∧ w.grownBy w' v.ownBlock ∧ ∀ k, v'.ownBlock = some k → v.ownBlock = some k ∨ w.heap.size ≤ k := by
  have hw : IntKind.i64.wrap (m : Int) = m := by rw [IntKind.wrap_i64]; omega
  have hlen : (xs ++ List.replicate m z).length = (n + m) * 1 := by rw [List.length_append, hown.1, List.length_replicate]; omega
  have grown : ∀ (old : Nat) (row : Option Nat),
      (w.drew.alloc (.cells (xs.toArray ++ Builtin.zeroCells z.cells m ++ Builtin.zeroCells z.cells (grownCap w (n + m) old e - (n + m))) e)).ownsRow base e 1 (.slice (some ⟨w.heap.size, 0, none⟩) (n + m) (grownCap w (n + m) old e)) (n + m) (xs ++ List.replicate m z) ∧
      w.grownBy (w.drew.alloc (.cells (xs.toArray ++ Builtin.zeroCells z.cells m ++ Builtin.zeroCells z.cells (grownCap w (n + m) old e - (n + m))) e)) row := by
    intro old row
    have hge := grownCap_ge w (n + m) old e
    have hcm : grownCap w (n + m) old e ≤ maxLen := grownCap_le_maxLen w (n + m) old e (by unfold maxLen; omega)
    refine ⟨⟨hlen, .inr ⟨w.heap.size, _, _, rfl, hbase, heap_alloc_new w.drew _, hge, hcm, ?_, ?_⟩⟩, ⟨rfl, rfl, rfl, by simp, fun k hk _ => (by first | exact Go.heap_alloc_old w.drew _ hk | exact Go.heap_alloc_old w.drew _ k hk)⟩⟩
    · simp only [Array.size_append, List.size_toArray, size_zeroCells, hzc, hown.1]
      simp
      omega
    · simp only [Array.toList_append, zeros_list z hzc]
      rw [← hlen, List.append_assoc, ← List.append_assoc xs]
      exact List.take_left
  rcases hown.2 with ⟨rfl, rfl⟩ | ⟨g, cap, cur, rfl, hbg, hg, hnc, hcm, hcs, htake⟩
  · have hx : xs = [] := List.eq_nil_of_length_eq_zero (by simpa using hown.1)
    subst hx
    have hr := run_append_nil_zeros (P := P) w t tn ty e i z .i64 kn ht htn hi hz m h0 (by rw [hsize]; omega) (by omega) (by rw [hby]; omega)
    have hg := grown 0 (Value.ownBlock (.slice none 0 0))
    simp only [Nat.zero_add, List.nil_append, Array.empty_append] at hg ⊢
    exact ⟨_, _, hr, hg.1, hg.2, fun k hk => .inr (by simp [Value.ownBlock] at hk; omega)⟩
  · have hm0 : ¬ (m = 0) := by omega
    have hneg : ¬ ((m : Int) < 0) := by omega
    have hbig : ¬ (281474976710656 < (m : Int) * (1 : Nat)) := by omega
    have hbig' : ¬ (281474976710656 < (m : Int)) := by omega
    by_cases hroom : n + m ≤ cap
    · have hst := run_storeCells_at P g (n * i.size) e (List.replicate m z) 0 cur w hg (by rw [List.length_replicate, hsize]; omega) (by intro u hu; rw [List.eq_of_mem_replicate hu]; exact h1)
      simp only [Nat.add_zero] at hst
      refine ⟨.slice (some ⟨g, 0, none⟩) (n + m) cap, w.setRow g (cur.toList.take (n * i.size) ++ List.replicate m z ++ cur.toList.drop (n * i.size + (List.replicate m z).length)).toArray, ?_, ⟨hlen, .inr ⟨g, cap, _, rfl, hbg, setRow_heap w g cur _ e _ hg, hroom, hcm, ?_, ?_⟩⟩, ⟨rfl, rfl, rfl, by simp, fun k _ hk => setRow_other w g k _ (fun e => hk (by simp [Value.ownBlock, e]))⟩, fun k hk => .inl hk⟩
      · simp [Builtin.append_, run_underlying ht, run_underlying htn, sizeOf, typeInfo, zeroValue, hi, hz, hby, asInt, asIntOf, hw, hm0, hneg, hbig', hroom, Addr.add_lit, hsize, zeros_list z hzc] at hst ⊢
        rw [hst]; rfl
      · rw [hsize]
        simp only [List.size_toArray, List.length_append, List.length_take, List.length_drop, Array.length_toList, List.length_replicate]
        omega
      · rw [hsize, htake, ← hlen]
        exact List.take_left
    · have holds : ∀ j u, xs[j]? = some u → w.cell? ((⟨g, 0, none⟩ : Addr).add j) = some u := hown.cells (g := g) rfl
      have hf := run_firstCells_some (P := P) w.drew i.size n ⟨g, 0, none⟩ n cap xs (by rw [hsize]; exact hown.1) (by simpa using holds)
      have hlt : cap < n + m := by omega
      have hfit := growslice_fits (bytes := 1) hlt (by omega)
      have hfit' : ¬ (281474976710656 < Builtin.nextslicecap (n + m) cap) := by omega
      have h63' : ¬ (9223372036854775807 < ((n : Int) + (m : Int))) := by omega
      have hgr := grown cap (Value.ownBlock (.slice (some ⟨g, 0, none⟩) n cap))
      refine ⟨_, _, ?_, hgr.1, hgr.2, fun k hk => .inr (by simp [Value.ownBlock] at hk; omega)⟩
      rw [hsize] at hf
      simp [Builtin.append_, run_underlying ht, run_underlying htn, sizeOf, typeInfo, zeroValue, hi, hz, hby, asInt, asIntOf, hw, hm0, hneg, hbig', hroom, hsize, h63', hfit', Question.forced, hf, newRow, grownCap]
end
end Go.Proofs.YtmpddibdggdngaaDoor.tb
namespace Go.Proofs.YtmpddibdggdngaaDoor.tb
open Go.RowKit Go.Lib
set_option linter.unusedVariables false
theorem row_info : (Tryd.prog.info? 102).map (fun i => (i.zero, i.size, i.bytes)) = some (some (.agg #[.int .i64 0, .int .i32 0, .int .i64 0]), 3, 24) := by kernel_rfl
theorem new_cells3 (w : World) (x y z : Value) (t : TypeId) : ∀ j u, ([x, y, z] : List Value)[j]? = some u → (w.alloc (.cells #[x, y, z] t)).cell? ((⟨w.heap.size, 0, none⟩ : Addr).add j) = some u := by
  intro j u hj
  have e : (⟨w.heap.size, 0, none⟩ : Addr).add j = ⟨w.heap.size, j, none⟩ := by unfold Addr.add; by_cases h : j = 0 <;> simp [h]
  rw [e, World.cell?_alloc_mark]
  match j, hj with
  | 0, hj => simpa using hj
  | 1, hj => simpa using hj
  | 2, hj => simpa using hj
  | (j + 3), hj => simp at hj
theorem bes_nil (r : Rw) : bes [] r = if r.c > 0 then [r] else [] := rfl
theorem bes_cons (o : Rw) (T : List Rw) (r : Rw) : bes (o :: T) r = if r.f + r.c ≤ o.f then (if r.c > 0 then [r] else []) else
      (if o.f > r.f then [⟨r.f, r.t, o.f - r.f⟩] else []) ++ bes T ⟨min (o.f + o.c) (r.f + r.c), r.t + (min (o.f + o.c) (r.f + r.c) - r.f), r.f + r.c - min (o.f + o.c) (r.f + r.c)⟩ := rfl
/-- What is left of a row. -/
structure Rst (r : Rw) : Prop where
  f0 : 0 ≤ r.f
  c0 : 0 ≤ r.c
  f1 : r.f + r.c ≤ 1048576
  t0 : 0 ≤ r.t
  t1 : r.t + r.c ≤ 1114112
theorem RO.snoc {w : World} {B : Nat} {v : Value} {l : List Rw} {r : Rw} (h : w.ownsRow B 102 3 v (l.length + 1) (rcells l ++ [.int .i64 r.f, .int .i32 r.t, .int .i64 r.c])) : RO w B v (l ++ [r]) := by
  unfold RO
  rw [rcells_app, List.length_append]
  exact h
/-- What stands in beside. -/
structure Bs (w : World) (B : Nat) (r : Rw) (v : Value) (fr : List Rw) (W : World) : Prop where
  r : RB W (w.heap.size + 1) r
  f : RO W B v fr
  bel : Below w.heap.size w W
  lo : w.heap.size + 1 + 1 ≤ B
  sz : B ≤ W.heap.size
theorem Bs.below {w : World} {B : Nat} {r : Rw} {v : Value} {fr : List Rw} {W W' : World} (h : Bs w B r v fr W) (hb : Below W.heap.size W W') : Bs w B r v fr W' :=
  ⟨h.r.below hb (by have := h.sz; have := h.lo; omega), h.f.below hb, h.bel.trans (hb.mono (by have := h.sz; have := h.lo; omega)), h.lo, Nat.le_trans h.sz hb.size⟩
theorem Bs.app {w : World} {B : Nat} {r p : Rw} {v v5 : Value} {fr : List Rw} {W w5 : World} {t : TypeId} (h : Bs w B r v fr W)
    (ho : w5.ownsRow B 102 3 v5 (fr.length + 1) (rcells fr ++ [.int .i64 p.f, .int .i32 p.t, .int .i64 p.c])) (hg : (W.alloc (.cells #[.int .i64 p.f, .int .i32 p.t, .int .i64 p.c] t)).grownBy w5 v.ownBlock) : Bs w B r v5 (fr ++ [p]) w5 := by
  have hb : Below W.heap.size W (W.alloc (.cells #[.int .i64 p.f, .int .i32 p.t, .int .i64 p.c] t)) := (Below.refl _ W).alloc (Nat.le_refl _) _
  have h2 := h.below hb
  have hl := h.lo
  refine ⟨h2.r.grown hg (fun e => by have := (h2.f.lt _ e).1; omega), RO.snoc ho, below_own h2.bel h2.bel.size (own_base h2.f (by omega)) hg, hl, Nat.le_trans h2.sz hg.size⟩
theorem RB.put {W : World} {X : Nat} {r p : Rw} (h : RB W X r) : RB (((W.setCell ⟨X, 0, none⟩ (.int .i64 p.f)).setCell ⟨X, 1, none⟩ (.int .i32 p.t)).setCell ⟨X, 2, none⟩ (.int .i64 p.c)) X p := by
  obtain ⟨⟨cs, fz, hx⟩, ⟨h1, h2, h3, h4, h5⟩⟩ := h
  refine ⟨?_, ⟨by simpa [World.setCell] using h1, ?_, ?_, ?_, fun o => by simpa using h5 o⟩⟩
  · simp [World.setCell, Array.getElem?_modify, hx]
  all_goals go_simp
theorem Bs.put {w : World} {B : Nat} {r p : Rw} {v : Value} {fr : List Rw} {W : World} (h : Bs w B r v fr W) : Bs w B p v fr (((W.setCell ⟨w.heap.size + 1, 0, none⟩ (.int .i64 p.f)).setCell ⟨w.heap.size + 1, 1, none⟩ (.int .i32 p.t)).setCell ⟨w.heap.size + 1, 2, none⟩ (.int .i64 p.c)) := by
  have hl := h.lo
  refine ⟨h.r.put, ownsRow_setCell_below (ownsRow_setCell_below (ownsRow_setCell_below h.f (by show w.heap.size + 1 < B; omega) _) (by show w.heap.size + 1 < B; omega) _) (by show w.heap.size + 1 < B; omega) _, ((h.bel.setCell (by simp) _).setCell (by simp) _).setCell (by simp) _, hl, by simpa [World.setCell] using h.sz⟩
end Go.Proofs.YtmpddibdggdngaaDoor.tb
namespace Go.Proofs.YtmpddibdggdngaaDoor.tb
open Go.RowKit Go.Lib
set_option linter.unusedVariables false
theorem RowRw.cells {w : World} {g o c : Nat} {l : List Rw} (h : RowRw w (some ⟨g, o, none⟩) c l) : ∀ j u, (rcells l)[j]? = some u → w.cell? ⟨g, o + j, none⟩ = some u := by
  intro j u hu
  have hj : j < l.length * 3 := by rw [← rcells_len]; exact (List.getElem?_eq_some_iff.1 hu).1
  obtain ⟨g', o', he, _, _, _, k0, k1, k2, _⟩ := h.at (j / 3) (by omega)
  cases he
  obtain ⟨a, b, c⟩ := rcells_at l (j / 3) (by omega)
  have h3 : j % 3 = 0 ∨ j % 3 = 1 ∨ j % 3 = 2 := by omega
  rcases h3 with h3 | h3 | h3
  · rw [show j / 3 * 3 = j by omega] at a k0
    rw [← hu, a]; exact k0
  · rw [show j / 3 * 3 + 1 = j by omega] at b
    rw [show o + j / 3 * 3 + 1 = o + j by omega] at k1
    rw [← hu, b]; exact k1
  · rw [show j / 3 * 3 + 2 = j by omega] at c
    rw [show o + j / 3 * 3 + 2 = o + j by omega] at k2
    rw [← hu, c]; exact k2
theorem append_rows {ops : Array Oper} {rest : List Oper} {o : Oper} {a : Act} {Q : Exit → Act → World → Prop} {w : World} (hgd : o.guard = none) (s x : Operand)
    (ho : o.op = .call { callee := .builtin .append, args := #[s, x], argTypes := #[80, 80] }) (B : Nat) (v : Value) (l : List Rw) (hs : a.eval s = v) (hown : RO w B v l)
    (A : Option Addr) (c n : Nat) (m : List Rw) (hx : a.eval x = .slice A n c) (hn : n = m.length) (hm : RowRw w A c m) (hlen : l.length + m.length ≤ 1000000000) (hB : B ≤ w.heap.size)
    (h : ∀ v' w', RO w' B v' (l ++ m) → w.grownBy w' v.ownBlock → wpList Tryd.prog ops Q rest (a.put o.dst v') w') : wpList Tryd.prog ops Q (o :: rest) a w := by
  obtain ⟨i0, hi0, hzz⟩ := Option.map_eq_some_iff.1 row_info
  simp only [Prod.mk.injEq] at hzz
  obtain ⟨hz, hsi, hby⟩ := hzz
  subst hn
  cases A with
  | none =>
    rcases hm with ⟨_, rfl, rfl⟩ | ⟨g, o', h0, _⟩
    · exact wpList_append_own_none hgd s x 80 ho B 102 i0 3 Tryd.underlying80 hi0 v _ _ hs hown hx (h v w (by simpa using hown) (World.grownBy.refl _ _))
    · cases h0
  | some ad =>
    have hm' := hm
    rcases hm with ⟨h0, _⟩ | ⟨g, o', h0, _, _, _, _⟩
    · cases h0
    · cases h0
      refine wpList_append_own w hgd s x 80 ho B 102 i0 _ 3 24 Tryd.underlying80 hi0 hz hsi hby rfl (by decide) v _ _ hs hown ⟨g, o', none⟩ m.length c (rcells m) hx (rcells_len m) (fun j u hu => by rw [Addr.add_lit]; exact hm'.cells j u hu) (rcells_one m) (by unfold maxLen; omega) (by omega) hB ?_
      intro v' w' h1 h2 _
      refine h v' w' ?_ h2
      unfold RO
      rw [rcells_app, List.length_append]
      exact h1
/-- What stands in Over. -/
structure Vs (w : World) (B : Nat) (X v : Value) (fr : List Rw) (W : World) : Prop where
  t : F1 W w.heap.size X
  r : F1 W (w.heap.size + 1 + 1) (.slice none 0 0)
  f : RO W B v fr
  bel : Below w.heap.size w W
  lo : w.heap.size + 1 + 1 + 1 ≤ B
  sz : B ≤ W.heap.size
theorem Vs.below {w : World} {B : Nat} {X v : Value} {fr : List Rw} {W W' : World} (h : Vs w B X v fr W) (hb : Below W.heap.size W W') : Vs w B X v fr W' :=
  ⟨h.t.below hb h.t.lt, h.r.below hb h.r.lt, h.f.below hb, h.bel.trans (hb.mono h.bel.size), h.lo, Nat.le_trans h.sz hb.size⟩
theorem Vs.app {w : World} {B : Nat} {X v v' : Value} {fr fr' : List Rw} {W W' : World} (h : Vs w B X v fr W) (ho : RO W' B v' fr') (hg : W.grownBy W' v.ownBlock) : Vs w B X v' fr' W' := by
  have hl := h.lo
  exact ⟨h.t.grown hg (fun e => by have := (h.f.lt _ e).1; omega), h.r.grown hg (fun e => by have := (h.f.lt _ e).1; omega), ho, below_own h.bel h.bel.size (own_base h.f (by omega)) hg, hl, Nat.le_trans h.sz hg.size⟩
end Go.Proofs.YtmpddibdggdngaaDoor.tb
