/- beside, Over of the landed table; append of a make: contracts. -/
import Derived.Lib.AppendZeros
import Derived.Lib.SliceRun
import Derived.Laws.OwnMore
import Derived.Test.YtiigknimfibdpaaGreatDoorTsC
import Derived.Test.YtiigknimfibdpaaGreatDoorTsB
import Derived.Test.YtiigknimfibdpaaGreatDoorTsD
import Derived.Test.YtiigknimfibdpaaGreatDoorZ24
import Derived.Laws.AppendOwnNone
namespace Go.Proofs.YtiigknimfibdpaaGreatDoor.tb
open Go Go.Lib
set_option linter.unusedVariables false
section
variable {P : Program} (w : World)
theorem zeros_list (z : Value) (hz : z.cells = #[z]) (n : Nat) : (Builtin.zeroCells z.cells n).toList = List.replicate n z := by
  rw [hz]
  simp [Builtin.zeroCells]
  apply List.ext_getElem
  · simp
  · intro i h1 h2
    simp [Nat.mod_one]
/-- Of one cell and one byte each. -/
theorem run_zeros_own (base : Nat) (t tn ty e : TypeId) (i : TypeInfo) (z : Value) (kn : IntKind) (ht : P.underlying t = some (.slice e)) (htn : P.underlying tn = some (.int kn)) (hi : P.info? e = some i) (hz : i.zero = some z) (hsize : i.size = 1) (hby : i.bytes = 1) (hzc : z.cells = #[z]) (h1 : z.oneCell' = true)
    (v : Value) (n m : Nat) (xs : List Value) (hown : w.ownsRow base e 1 v n xs) (h0 : 0 < m) (hs : n + m ≤ 100000000) (hbase : base ≤ w.heap.size) :
    ∃ v' w', (Builtin.append_ #[t, tn] ty #[v, .int .i64 (m : Int)]).run P w = .ok v' w' ∧ w'.ownsRow base e 1 v' (n + m) (xs ++ List.replicate m z) ∧ w.grownBy w' v.ownBlock ∧ ∀ k, v'.ownBlock = some k → v.ownBlock = some k ∨ w.heap.size ≤ k := by
  have hw : IntKind.i64.wrap (m : Int) = m := by rw [IntKind.wrap_i64]; omega
  have hlen : (xs ++ List.replicate m z).length = (n + m) * 1 := by rw [List.length_append, hown.1, List.length_replicate]; omega
  have grown : ∀ (old : Nat) (row : Option Nat),
      (w.drew.alloc (.cells (xs.toArray ++ Builtin.zeroCells z.cells m ++ Builtin.zeroCells z.cells (grownCap w (n + m) old e - (n + m))) e)).ownsRow base e 1 (.slice (some ⟨w.heap.size, 0, none⟩) (n + m) (grownCap w (n + m) old e)) (n + m) (xs ++ List.replicate m z) ∧
      w.grownBy (w.drew.alloc (.cells (xs.toArray ++ Builtin.zeroCells z.cells m ++ Builtin.zeroCells z.cells (grownCap w (n + m) old e - (n + m))) e)) row := by
    intro old row
    have hge := grownCap_ge w (n + m) old e
    have hcm : grownCap w (n + m) old e ≤ maxLen := grownCap_le_maxLen w (n + m) old e (by unfold maxLen; omega)
    refine ⟨⟨hlen, .inr ⟨w.heap.size, _, _, rfl, hbase, heap_alloc_new w.drew _, hge, hcm, ?_, ?_⟩⟩, ⟨rfl, rfl, rfl, by simp, fun k hk _ => (by first | exact Go.heap_alloc_old w.drew _ hk | exact Go.heap_alloc_old w.drew _ k hk)⟩⟩
    · simp only [Array.size_append, List.size_toArray, size_zeroCells, hzc, hown.1]
      simp
      omega
    · simp only [Array.toList_append, zeros_list z hzc]
      rw [← hlen, List.append_assoc, ← List.append_assoc xs]
      exact List.take_left
  rcases hown.2 with ⟨rfl, rfl⟩ | ⟨g, cap, cur, rfl, hbg, hg, hnc, hcm, hcs, htake⟩
  · have hx : xs = [] := List.eq_nil_of_length_eq_zero (by simpa using hown.1)
    subst hx
    have hr := run_append_nil_zeros (P := P) w t tn ty e i z .i64 kn ht htn hi hz m h0 (by rw [hsize]; omega) (by omega) (by rw [hby]; omega)
    have hg := grown 0 (Value.ownBlock (.slice none 0 0))
    simp only [Nat.zero_add, List.nil_append, Array.empty_append] at hg ⊢
    exact ⟨_, _, hr, hg.1, hg.2, fun k hk => .inr (by simp [Value.ownBlock] at hk; omega)⟩
  · have hm0 : ¬ (m = 0) := by omega
    have hneg : ¬ ((m : Int) < 0) := by omega
    have hbig : ¬ (281474976710656 < (m : Int) * (1 : Nat)) := by omega
    have hbig' : ¬ (281474976710656 < (m : Int)) := by omega
    by_cases hroom : n + m ≤ cap
    · have hst := run_storeCells_at P g (n * i.size) e (List.replicate m z) 0 cur w hg (by rw [List.length_replicate, hsize]; omega) (by intro u hu; rw [List.eq_of_mem_replicate hu]; exact h1)
      simp only [Nat.add_zero] at hst
      refine ⟨.slice (some ⟨g, 0, none⟩) (n + m) cap, w.setRow g (cur.toList.take (n * i.size) ++ List.replicate m z ++ cur.toList.drop (n * i.size + (List.replicate m z).length)).toArray, ?_, ⟨hlen, .inr ⟨g, cap, _, rfl, hbg, setRow_heap w g cur _ e _ hg, hroom, hcm, ?_, ?_⟩⟩, ⟨rfl, rfl, rfl, by simp, fun k _ hk => setRow_other w g k _ (fun e => hk (by simp [Value.ownBlock, e]))⟩, fun k hk => .inl hk⟩
      · simp [Builtin.append_, run_underlying ht, run_underlying htn, sizeOf, typeInfo, zeroValue, hi, hz, hby, asInt, asIntOf, hw, hm0, hneg, hbig', hroom, Addr.add_lit, hsize, zeros_list z hzc] at hst ⊢
        rw [hst]; rfl
      · rw [hsize]
        simp only [List.size_toArray, List.length_append, List.length_take, List.length_drop, Array.length_toList, List.length_replicate]
        omega
      · rw [hsize, htake, ← hlen]
        exact List.take_left
    · have holds : ∀ j u, xs[j]? = some u → w.cell? ((⟨g, 0, none⟩ : Addr).add j) = some u := hown.cells (g := g) rfl
      have hf := run_firstCells_some (P := P) w.drew i.size n ⟨g, 0, none⟩ n cap xs (by rw [hsize]; exact hown.1) (by simpa using holds)
      have hlt : cap < n + m := by omega
      have hfit := growslice_fits (bytes := 1) hlt (by omega)
      have hfit' : ¬ (281474976710656 < Builtin.nextslicecap (n + m) cap) := by omega
      have h63' : ¬ (9223372036854775807 < ((n : Int) + (m : Int))) := by omega
      have hgr := grown cap (Value.ownBlock (.slice (some ⟨g, 0, none⟩) n cap))
      refine ⟨_, _, ?_, hgr.1, hgr.2, fun k hk => .inr (by simp [Value.ownBlock] at hk; omega)⟩
      rw [hsize] at hf
      simp [Builtin.append_, run_underlying ht, run_underlying htn, sizeOf, typeInfo, zeroValue, hi, hz, hby, asInt, asIntOf, hw, hm0, hneg, hbig', hroom, hsize, h63', hfit', Question.forced, hf, newRow, grownCap]
end
end Go.Proofs.YtiigknimfibdpaaGreatDoor.tb
namespace Go.Proofs.YtiigknimfibdpaaGreatDoor.tb
open Go.RowKit Go.Lib
set_option linter.unusedVariables false
theorem row_info : (Tryz.prog.info? 145).map (fun i => (i.zero, i.size, i.bytes)) = some (some (.agg #[.int .i64 0, .int .i32 0, .int .i64 0]), 3, 24) := by kernel_rfl
theorem new_cells3 (w : World) (x y z : Value) (t : TypeId) : ∀ j u, ([x, y, z] : List Value)[j]? = some u → (w.alloc (.cells #[x, y, z] t)).cell? ((⟨w.heap.size, 0, none⟩ : Addr).add j) = some u := by
  intro j u hj
  have e : (⟨w.heap.size, 0, none⟩ : Addr).add j = ⟨w.heap.size, j, none⟩ := by unfold Addr.add; by_cases h : j = 0 <;> simp [h]
  rw [e, World.cell?_alloc_mark]
  match j, hj with
  | 0, hj => simpa using hj
  | 1, hj => simpa using hj
  | 2, hj => simpa using hj
  | (j + 3), hj => simp at hj
theorem bes_nil (r : Rw) : bes [] r = if r.c > 0 then [r] else [] := rfl
theorem bes_cons (o : Rw) (T : List Rw) (r : Rw) : bes (o :: T) r = if r.f + r.c ≤ o.f then (if r.c > 0 then [r] else []) else
      (if o.f > r.f then [⟨r.f, r.t, o.f - r.f⟩] else []) ++ bes T ⟨min (o.f + o.c) (r.f + r.c), r.t + (min (o.f + o.c) (r.f + r.c) - r.f), r.f + r.c - min (o.f + o.c) (r.f + r.c)⟩ := rfl
/-- What is left of a row. -/
structure Rst (r : Rw) : Prop where
  f0 : 0 ≤ r.f
  c0 : 0 ≤ r.c
  f1 : r.f + r.c ≤ 1048576
  t0 : 0 ≤ r.t
  t1 : r.t + r.c ≤ 1114112
theorem RO.snoc {w : World} {B : Nat} {v : Value} {l : List Rw} {r : Rw} (h : w.ownsRow B 145 3 v (l.length + 1) (rcells l ++ [.int .i64 r.f, .int .i32 r.t, .int .i64 r.c])) : RO w B v (l ++ [r]) := by
  unfold RO
  rw [rcells_app, List.length_append]
  exact h
/-- What stands in beside. -/
structure Bs (w : World) (B : Nat) (r : Rw) (v : Value) (fr : List Rw) (W : World) : Prop where
  r : RB W (w.heap.size + 1) r
  f : RO W B v fr
  bel : Below w.heap.size w W
  lo : w.heap.size + 1 + 1 ≤ B
  sz : B ≤ W.heap.size
theorem Bs.below {w : World} {B : Nat} {r : Rw} {v : Value} {fr : List Rw} {W W' : World} (h : Bs w B r v fr W) (hb : Below W.heap.size W W') : Bs w B r v fr W' :=
  ⟨h.r.below hb (by have := h.sz; have := h.lo; omega), h.f.below hb, h.bel.trans (hb.mono (by have := h.sz; have := h.lo; omega)), h.lo, Nat.le_trans h.sz hb.size⟩
theorem Bs.app {w : World} {B : Nat} {r p : Rw} {v v5 : Value} {fr : List Rw} {W w5 : World} {t : TypeId} (h : Bs w B r v fr W)
    (ho : w5.ownsRow B 145 3 v5 (fr.length + 1) (rcells fr ++ [.int .i64 p.f, .int .i32 p.t, .int .i64 p.c])) (hg : (W.alloc (.cells #[.int .i64 p.f, .int .i32 p.t, .int .i64 p.c] t)).grownBy w5 v.ownBlock) : Bs w B r v5 (fr ++ [p]) w5 := by
  have hb : Below W.heap.size W (W.alloc (.cells #[.int .i64 p.f, .int .i32 p.t, .int .i64 p.c] t)) := (Below.refl _ W).alloc (Nat.le_refl _) _
  have h2 := h.below hb
  have hl := h.lo
  refine ⟨h2.r.grown hg (fun e => by have := (h2.f.lt _ e).1; omega), RO.snoc ho, below_own h2.bel h2.bel.size (own_base h2.f (by omega)) hg, hl, Nat.le_trans h2.sz hg.size⟩
theorem RB.put {W : World} {X : Nat} {r p : Rw} (h : RB W X r) : RB (((W.setCell ⟨X, 0, none⟩ (.int .i64 p.f)).setCell ⟨X, 1, none⟩ (.int .i32 p.t)).setCell ⟨X, 2, none⟩ (.int .i64 p.c)) X p := by
  obtain ⟨⟨cs, fz, hx⟩, ⟨h1, h2, h3, h4, h5⟩⟩ := h
  refine ⟨?_, ⟨by simpa [World.setCell] using h1, ?_, ?_, ?_, fun o => by simpa using h5 o⟩⟩
  · simp [World.setCell, Array.getElem?_modify, hx]
  all_goals go_simp
theorem Bs.put {w : World} {B : Nat} {r p : Rw} {v : Value} {fr : List Rw} {W : World} (h : Bs w B r v fr W) : Bs w B p v fr (((W.setCell ⟨w.heap.size + 1, 0, none⟩ (.int .i64 p.f)).setCell ⟨w.heap.size + 1, 1, none⟩ (.int .i32 p.t)).setCell ⟨w.heap.size + 1, 2, none⟩ (.int .i64 p.c)) := by
  have hl := h.lo
  refine ⟨h.r.put, ownsRow_setCell_below (ownsRow_setCell_below (ownsRow_setCell_below h.f (by show w.heap.size + 1 < B; omega) _) (by show w.heap.size + 1 < B; omega) _) (by show w.heap.size + 1 < B; omega) _, ((h.bel.setCell (by simp) _).setCell (by simp) _).setCell (by simp) _, hl, by simpa [World.setCell] using h.sz⟩
set_option maxRecDepth 100000 in
set_option maxHeartbeats 4000000 in
theorem beside_nil (c : Nat) (r : Rw) (w : World) (hr : r.ok) :
    Calls Tryz.prog 154 #[.agg #[.slice none 0 0], .agg #[.int .i64 r.f, .int .i32 r.t, .int .i64 r.c]] w fun e w' => ∃ v, e = .returned v ∧ RO w' w.heap.size v [r] ∧ Below w.heap.size w w' := by
  obtain ⟨i0, hi0, hzz⟩ := Option.map_eq_some_iff.1 row_info
  simp only [Prod.mk.injEq] at hzz
  obtain ⟨hz, hsi, hby⟩ := hzz
  obtain ⟨f0, c1, f1, t0, t1⟩ := hr
  have HF : Hid (∀ w2, Calls Tryz.prog 117 #[.agg #[.slice none 0 0], .int .i64 r.f] w2 fun e w' => ∃ D, e = .returned (.tuple #[.int .i64 0, .bool D]) ∧ Below w2.heap.size w2 w') := Lib.hid (fun w2 => (find_any none 0 0 [] r.f w2 (.inl ⟨rfl, rfl, rfl⟩) rfl (fun _ h => by cases h) List.Pairwise.nil (by omega)).mono fun e w' ⟨i, D, h1, h2, h3, h4⟩ => by
    have : i = 0 := by have := h1.le; simpa using this
    subst this
    exact ⟨D, h3, h4⟩)
  go_enter Tryz.func154, Tryz.ntmps154
  go_wp2_with (go_at_call 117; refine (HF.out _).mono ?_; rintro e1 w1 ⟨D, rfl, hb1⟩; have G1 := Lib.hid (((f1_new w (.slice none 0 0) 74).below ((Below.refl (w.heap.size + 1) _).alloc (by simp) (.cells #[.int .i64 r.f, .int .i32 r.t, .int .i64 r.c] 145)) (by simp)).below hb1 (by simp; omega)); obtain ⟨_, b0, _⟩ := G1.out; have G2 : Hid (RB w1 (w.heap.size + 1) r) := Lib.hid (by have X := (RB.new (w.alloc (.cells #[.slice none 0 0] 74)) r).below hb1 (by simp); rwa [World.size_alloc] at X); obtain ⟨y3, y0, y1, y2, y4⟩ := G2.out.f; have HB := Lib.hid ((((Below.refl w.heap.size w).alloc (Nat.le_refl _) (.cells #[.slice none 0 0] 74)).alloc (by simp) (.cells #[.int .i64 r.f, .int .i32 r.t, .int .i64 r.c] 145)).trans (hb1.mono (by simp; omega))); have LT := (show w.heap.size + 1 + 1 ≤ w1.heap.size by have := hb1.size; simpa using this); clear hb1)
  go_loopw [5, 22] (fun v i wr => v = .slice none 0 0 ∧ i = .int .i64 0 ∧ wr = w1) (fun _ _ _ => 0)
  case atStart => exact ⟨rfl, rfl, rfl⟩
  case round =>
    obtain ⟨rfl, rfl, rfl⟩ := hrel
    go_wp2_with (at_builtin; refine wpList_append_own _ rfl _ _ 72 rfl w.heap.size 145 i0 _ 3 24 Tryz.underlying72 hi0 hz hsi hby rfl (by decide) (.slice none 0 0) 0 [] rfl (World.ownsRow_nil _ _ _ _) ⟨wr.heap.size, 0, none⟩ 1 1 [.int .i64 r.f, .int .i32 r.t, .int .i64 r.c] rfl rfl (new_cells3 wr _ _ _ _) (fun u hu => by simp at hu; rcases hu with rfl | rfl | rfl <;> rfl) (by unfold maxLen; omega) (by omega) (by first | omega | (simp; omega)) ?_; intro v5 w5 hown5 hgrow _; have HO5 := Lib.hid hown5; have HB5 := Lib.hid (((HB.out.alloc HB.out.size (.cells #[.int .i64 r.f, .int .i32 r.t, .int .i64 r.c] 145))).grown hgrow (by simp; omega) (by simp [Value.ownBlock])); clear hown5 hgrow)
    go_ret
    exact ⟨v5, rfl, HO5.out, HB5.out⟩
set_option maxRecDepth 100000 in
set_option maxHeartbeats 8000000 in
theorem beside_some (g o n c : Nat) (L : List Rw) (r0 : Rw) (w : World) (h : RowRw w (some ⟨g, o, none⟩) c L) (hn : n = L.length) (hok : ∀ r ∈ L, r.ok) (hd : Dis L) (hs : n ≤ 100000000) (hr : r0.ok) :
    Calls Tryz.prog 154 #[.agg #[.slice (some ⟨g, o, none⟩) n c], .agg #[.int .i64 r0.f, .int .i32 r0.t, .int .i64 r0.c]] w fun e w' => ∃ v, e = .returned v ∧ RO w' w.heap.size v (besL L r0) ∧ Below w.heap.size w w' := by
  obtain ⟨i0, hi0, hzz⟩ := Option.map_eq_some_iff.1 row_info
  simp only [Prod.mk.injEq] at hzz
  obtain ⟨hz, hsi, hby⟩ := hzz
  have hrc : r0.c > 0 := hr.c1
  have hr0 : Rst r0 := ⟨hr.f0, by have := hr.c1; omega, hr.f1, hr.t0, hr.t1⟩
  have HF : Hid (∀ w2, RowRw w2 (some ⟨g, o, none⟩) c L → Calls Tryz.prog 117 #[.agg #[.slice (some ⟨g, o, none⟩) n c], .int .i64 r0.f] w2 fun e w' => ∃ (i : Nat) (D : Bool), FindP L r0.f i ∧ e = .returned (.tuple #[.int .i64 i, .bool D]) ∧ Below w2.heap.size w2 w') := Lib.hid (fun w2 h2 => (find_any (some ⟨g, o, none⟩) n c L r0.f w2 h2 hn hok hd hs).mono fun e w' ⟨i, D, h1, h2, h3, h4⟩ => ⟨i, D, h1, h3, h4⟩)
  have H := Lib.hid h; have HN := Lib.hid hn; have HO := Lib.hid hok; have HD := Lib.hid hd
  have hnc : n ≤ c ∧ c ≤ maxLen := by
    rcases h with ⟨h, _⟩ | ⟨_, _, _, h2, h3, _⟩
    · cases h
    · exact ⟨by omega, h3⟩
  obtain ⟨hnc, hcm⟩ := hnc
  unfold maxLen at hcm
  have HR0 := Lib.hid hr0
  clear h hn hok hd hr hr0
  go_enter Tryz.func154, Tryz.ntmps154
  go_wp2_with (go_at_call 117; refine (HF.out _ (H.out.below (by repeat (first | (with_reducible exact Below.refl _ _) | (with_reducible refine Below.setCell ?_ (by simp) _) | (with_reducible refine Below.alloc ?_ (by simp) _))))).mono ?_; rintro e1 w1 ⟨i, D, hi, rfl, hb1⟩; have G1 := Lib.hid (((f1_new w (.slice (some ⟨g, o, none⟩) n c) 74).below ((Below.refl (w.heap.size + 1) _).alloc (by simp) (.cells #[.int .i64 r0.f, .int .i32 r0.t, .int .i64 r0.c] 145)) (by simp)).below hb1 (by simp; omega)); obtain ⟨_, b0, _⟩ := G1.out; have G2 : Hid (RB w1 (w.heap.size + 1) r0) := Lib.hid (by have X := (RB.new (w.alloc (.cells #[.slice (some ⟨g, o, none⟩) n c] 74)) r0).below hb1 (by simp); rwa [World.size_alloc] at X); have HB := Lib.hid ((((Below.refl w.heap.size w).alloc (Nat.le_refl _) (.cells #[.slice (some ⟨g, o, none⟩) n c] 74)).alloc (by simp) (.cells #[.int .i64 r0.f, .int .i32 r0.t, .int .i64 r0.c] 145)).trans (hb1.mono (by simp; omega))); have LT := (show w.heap.size + 1 + 1 ≤ w1.heap.size by have := hb1.size; simpa using this); have HI := Lib.hid hi; have hin : i ≤ n := (by rw [HN.out]; exact hi.le); clear hb1 hi)
  case inl =>
    have hni : n - i = 0 := by omega
    have c1 := HR0.out.c0
    have HE : Hid (besL L r0 = [r0]) := Lib.hid (by
      unfold besL
      rw [← drop_while i HI.out.le HI.out.lo (fun h => HI.out.hi i h (Nat.le_refl _)), List.drop_eq_nil_of_le (by rw [← HN.out]; omega), bes_nil, if_pos hrc])
    have HS1 : Hid (Bs w w1.heap.size r0 (.slice none 0 0) [] w1) := Lib.hid ⟨G2.out, RO.nil _ _, HB.out, LT, Nat.le_refl _⟩
    obtain ⟨y3, y0, y1, y2, y4⟩ := G2.out.f
    clear b0 h hnc hcm hin c1
    go_loopw [5, 22] (fun v i wr => v = .slice none 0 0 ∧ i = .int .i64 0 ∧ wr = w1) (fun _ _ _ => 0)
    case atStart => exact ⟨rfl, rfl, rfl⟩
    case round =>
      obtain ⟨rfl, rfl, hw⟩ := hrel
      subst hw
      have hlt : ¬ 0 < n - i := by omega
      rw [hni]
      clear hlt
      go_wp2_with (at_builtin; refine wpList_append_own _ rfl _ _ 72 rfl wr.heap.size 145 i0 _ 3 24 Tryz.underlying72 hi0 hz hsi hby rfl (by decide) _ _ _ rfl (HS1.out.f.below ((Below.refl _ wr).alloc (Nat.le_refl _) _)) ⟨wr.heap.size, 0, none⟩ 1 1 [.int .i64 r0.f, .int .i32 r0.t, .int .i64 r0.c] rfl rfl (new_cells3 wr _ _ _ _) (fun u hu => by simp at hu; rcases hu with rfl | rfl | rfl <;> rfl) (by unfold maxLen; simp) (by simp) (by simp) ?_; intro v5 w5 hown5 hgrow _; have HO5 := Lib.hid hown5; have HG5 := Lib.hid hgrow; clear hown5 hgrow)
      go_ret
      have S5 := HS1.out.app HO5.out HG5.out
      exact ⟨v5, rfl, by rw [HE.out]; exact S5.f.le (by omega), S5.bel⟩
  case inr =>
    obtain ⟨T, hT⟩ : ∃ T, T = L.drop i := ⟨_, rfl⟩
    have HT := Lib.hid hT
    have HE : Hid (besL L r0 = bes T r0) := Lib.hid (by rw [hT]; unfold besL; rw [← drop_while i HI.out.le HI.out.lo (fun h => HI.out.hi i h (Nat.le_refl _))])
    have HRW : Hid (RowRw w (some ⟨g, o + i * 3, none⟩) (c - i) T) := Lib.hid (by rw [hT]; exact H.out.drop i HI.out.le)
    have HTN : Hid (T.length = n - i) := Lib.hid (by rw [hT, List.length_drop, HN.out])
    have HTO : Hid (∀ r ∈ T, r.ok) := Lib.hid (fun r hr => HO.out r (List.mem_of_mem_drop (by rw [hT] at hr; exact hr)))
    have HTD : Hid (Dis T) := Lib.hid (by rw [hT]; exact List.Pairwise.sublist (List.drop_sublist i L) HD.out)
    have HTH : Hid (∀ o ∈ T, r0.f < o.f + o.c) := Lib.hid (fun o ho => by
      rw [hT] at ho
      obtain ⟨j, hj, rfl⟩ := List.getElem_of_mem ho
      rw [List.getElem_drop]
      exact HI.out.hi (i + j) (by rw [List.length_drop] at hj; omega) (by omega))
    have hci : n - i ≤ c - i := by omega
    have hcim : c - i ≤ 9223372036854775807 := by omega
    have hni : n - i ≤ 100000000 := by omega
    clear hT
    clear b0 h hnc hcm hin
    generalize o + i * 3 = O at *
    generalize n - i = m at *
    generalize c - i = C at *
    have HS1 : Hid (Bs w w1.heap.size r0 (.slice none 0 0) [] w1) := Lib.hid ⟨G2.out, RO.nil _ _, HB.out, LT, Nat.le_refl _⟩
    go_loopw [5, 22] (fun v k wr => ∃ (j : Nat) (r : Rw) (fr : List Rw), j ≤ m ∧ k = .int .i64 j ∧ Bs w w1.heap.size r v fr wr ∧ fr ++ bes (T.drop j) r = bes T r0 ∧ Rst r ∧ (∀ o ∈ T.drop j, r.f < o.f + o.c) ∧ fr.length ≤ j) (fun _ k _ => m - (RowKit.intOf k).toNat)
    case atStart => exact ⟨0, r0, [], Nat.zero_le _, rfl, HS1.out, rfl, HR0.out, HTH.out, Nat.le_refl _⟩
    case round =>
      obtain ⟨j, r, fr, hj, rfl, hs1, hbe, hrs, hhi, hfl⟩ := hrel
      have HS := Lib.hid hs1; have HBE := Lib.hid hbe; have HRS := Lib.hid hrs; have HHI := Lib.hid hhi
      obtain ⟨y3, y0, y1, y2, y4⟩ := hs1.r.f
      have z0 := hs1.sz; have z1 := hs1.lo
      obtain ⟨f0, c0, f1, t0, t1⟩ := HRS.out
      clear hs1 hbe hrs hhi
      by_cases hlt : j < m
      · have hjT : j < T.length := by rw [HTN.out]; exact hlt
        obtain ⟨g', O', he, a1, a2, a3, k0, k1, k2, hmem⟩ := (HRW.out.below HS.out.bel).at j hjT
        cases he
        rw [HTN.out] at a1
        have hdrop : T.drop j = T.getD j default :: T.drop (j + 1) := by rw [getD_get T j hjT]; exact List.drop_eq_getElem_cons hjT
        rw [hdrop] at HBE HHI
        have hoo := HTO.out _ hmem
        have hho := HHI.out _ (List.mem_cons_self ..)
        have HNX : Hid (∀ p ∈ T.drop (j + 1), (T.getD j default).f + (T.getD j default).c ≤ p.f) := Lib.hid (by
          have h := List.Pairwise.sublist (List.drop_sublist j T) HTD.out
          rw [hdrop] at h
          exact (List.pairwise_cons.1 h).1)
        clear hdrop hmem hjT a1 a2
        generalize T.getD j default = q at *
        obtain ⟨p0, p1, p2, p3, p4⟩ := hoo
        have HEr := Lib.hid (fun w => end_any r.f r.t r.c w (by omega) (by omega))
        have HEq := Lib.hid (fun w => end_any q.f q.t q.c w (by omega) (by omega))
        go_wp2_with fail
        obtain ⟨X, hX⟩ : ∃ X, X = wr.heap.size := ⟨_, rfl⟩
        have hXb : w.heap.size + 1 < X := by rw [hX]; omega
        have S1 := Lib.hid (HS.out.below ((Below.refl _ wr).alloc (Nat.le_refl _) (.cells #[.int .i64 q.f, .int .i32 q.t, .int .i64 q.c] 145)))
        have Q1 := Lib.hid (RB.new wr q)
        have HVX : Hid (u5.ownBlock ≠ some X) := Lib.hid (fun e => by have := (HS.out.f.lt _ e).2; omega)
        rw [← hX] at *
        generalize wr.alloc (.cells #[.int .i64 q.f, .int .i32 q.t, .int .i64 q.c] 145) = W at *
        clear hX k0 k1 k2 y0 y1 y2 y3 y4 a3
        obtain ⟨y3, y0, y1, y2, y4⟩ := S1.out.r.f
        obtain ⟨x3, x0, x1, x2, x4⟩ := Q1.out.f
        have S2 := Lib.hid (S1.out.below ((Below.refl _ W).drew))
        have Q2 := Lib.hid (Q1.out.below ((Below.refl _ W).drew) x3)
        by_cases hbr : r.f + r.c ≤ q.f
        · go_region_held3 (fun w' => w'.cell? ⟨w.heap.size + 1, 0, none⟩ = some (.int .i64 r.f) ∧ w'.cell? ⟨w.heap.size + 1, 1, none⟩ = some (.int .i32 r.t) ∧ w'.cell? ⟨w.heap.size + 1, 2, none⟩ = some (.int .i64 r.c) ∧ w'.cell? ⟨X, 0, none⟩ = some (.int .i64 q.f) ∧ w'.cell? ⟨X, 1, none⟩ = some (.int .i32 q.t) ∧ w'.cell? ⟨X, 2, none⟩ = some (.int .i64 q.c)) (go_keep) (first | (go_at_call 195; refine (HEr.out _).mono ?_; rintro e1 w2 ⟨rfl, hb2⟩; have S3 := Lib.hid (S2.out.below hb2); have Q3 := Lib.hid (Q2.out.below hb2 x3); obtain ⟨y3, y0, y1, y2, y4⟩ := S3.out.r.f; obtain ⟨x3, x0, x1, x2, x4⟩ := Q3.out.f; clear hb2))
          rw [bes_cons, if_pos hbr] at HBE
          by_cases hc : 0 < r.c
          · have HEND : Hid (fr ++ [r] = besL L r0) := Lib.hid (by have h := HBE.out; rw [if_pos hc] at h; rw [HE.out]; exact h)
            go_wp2_with (at_builtin; refine wpList_append_own _ rfl _ _ 72 rfl w1.heap.size 145 i0 _ 3 24 Tryz.underlying72 hi0 hz hsi hby rfl (by decide) _ _ _ rfl (S3.out.f.below ((Below.refl _ w2).alloc (Nat.le_refl _) _)) ⟨w2.heap.size, 0, none⟩ 1 1 [.int .i64 r.f, .int .i32 r.t, .int .i64 r.c] rfl rfl (new_cells3 w2 _ _ _ _) (fun u hu => by simp at hu; rcases hu with rfl | rfl | rfl <;> rfl) (by unfold maxLen; omega) (by omega) (by have := S3.out.sz; simp; omega) ?_; intro v5 w5 hown5 hgrow _; have HO5 := Lib.hid hown5; have HG5 := Lib.hid hgrow; clear hown5 hgrow)
            go_ret
            exact ⟨v5, rfl, by rw [← HEND.out]; exact (S3.out.app HO5.out HG5.out).f.le (by omega), (S3.out.app HO5.out HG5.out).bel⟩
          · have HEND : Hid (fr = besL L r0) := Lib.hid (by have h := HBE.out; rw [if_neg hc, List.append_nil] at h; rw [HE.out]; exact h)
            go_wp2_with fail
            go_ret
            exact ⟨u5, rfl, by rw [← HEND.out]; exact S3.out.f.le (by omega), S3.out.bel⟩
        · rw [bes_cons, if_neg hbr] at HBE
          have hbq : q.f < r.f + r.c := by omega
          obtain ⟨E, hE⟩ : ∃ E, E = min (q.f + q.c) (r.f + r.c) := ⟨_, rfl⟩
          have hE1 : r.f ≤ E := by omega
          have hE2 : E ≤ r.f + r.c := by omega
          rw [← hE] at HBE
          have HPT := Lib.hid (fun w => part_any r.f r.t r.c E (r.f + r.c) w (by omega) (by omega) (by omega) (by omega) (by omega) (by omega) (by omega) (by omega))
          have HNEW : Hid (∀ p ∈ T.drop (j + 1), E < p.f + p.c) := Lib.hid (fun p hp => by
            have h1 := HNX.out p hp
            have h2 := (HTO.out p (List.mem_of_mem_drop hp)).c1
            omega)
          have HR2 : Hid (Rst ⟨E, r.t + (E - r.f), r.f + r.c - E⟩) := Lib.hid ⟨by show 0 ≤ E; omega, by show 0 ≤ r.f + r.c - E; omega, by show E + (r.f + r.c - E) ≤ _; omega, by show 0 ≤ r.t + (E - r.f); omega, by show r.t + (E - r.f) + (r.f + r.c - E) ≤ _; omega⟩
          have hmin : min (q.f + q.c) (r.f + r.c) = E := hE.symm
          clear hE hbr
          go_region_held3 (fun w' => w'.cell? ⟨w.heap.size + 1, 0, none⟩ = some (.int .i64 r.f) ∧ w'.cell? ⟨w.heap.size + 1, 1, none⟩ = some (.int .i32 r.t) ∧ w'.cell? ⟨w.heap.size + 1, 2, none⟩ = some (.int .i64 r.c) ∧ w'.cell? ⟨X, 0, none⟩ = some (.int .i64 q.f) ∧ w'.cell? ⟨X, 1, none⟩ = some (.int .i32 q.t) ∧ w'.cell? ⟨X, 2, none⟩ = some (.int .i64 q.c)) (go_keep) (first | (go_at_call 195; refine (HEr.out _).mono ?_; rintro e1 w2 ⟨rfl, hb2⟩; have S3 := Lib.hid (S2.out.below hb2); have Q3 := Lib.hid (Q2.out.below hb2 x3); obtain ⟨y3, y0, y1, y2, y4⟩ := S3.out.r.f; obtain ⟨x3, x0, x1, x2, x4⟩ := Q3.out.f; clear hb2))
          by_cases hgt : r.f < q.f
          · rw [if_pos (show q.f > r.f from hgt), ← List.append_assoc] at HBE
            have HPF : Hid (∀ w, Calls Tryz.prog 196 #[.agg #[.int .i64 r.f, .int .i32 r.t, .int .i64 r.c], .int .i64 r.f, .int .i64 q.f] w fun e w' => e = .returned (.agg #[.int .i64 r.f, .int .i32 r.t, .int .i64 (q.f - r.f)]) ∧ Below w.heap.size w w') := Lib.hid (fun w => (part_any r.f r.t r.c r.f q.f w (by omega) (by omega) (by omega) (by omega) (by omega) (by omega) (by omega) (by omega)).mono fun e w' h => ⟨by rw [h.1, show r.t + (r.f - r.f) = r.t by omega], h.2⟩)
            go_wp2_with (first | (go_at_call 196; refine (HPF.out _).mono ?_; rintro e1 w3 ⟨rfl, hb3⟩; have S4 := Lib.hid (S3.out.below hb3); have Q4 := Lib.hid (Q3.out.below hb3 x3); obtain ⟨y3, y0, y1, y2, y4⟩ := S4.out.r.f; obtain ⟨x3, x0, x1, x2, x4⟩ := Q4.out.f; clear hb3) | (at_builtin; refine wpList_append_own _ rfl _ _ 72 rfl w1.heap.size 145 i0 _ 3 24 Tryz.underlying72 hi0 hz hsi hby rfl (by decide) _ _ _ rfl (S4.out.f.below ((Below.refl _ w3).alloc (Nat.le_refl _) _)) ⟨w3.heap.size, 0, none⟩ 1 1 [.int .i64 r.f, .int .i32 r.t, .int .i64 (q.f - r.f)] rfl rfl (new_cells3 w3 _ _ _ _) (fun u hu => by simp at hu; rcases hu with rfl | rfl | rfl <;> rfl) (by unfold maxLen; omega) (by omega) (by have := S4.out.sz; simp; omega) ?_; intro v5 w5 hown5 hgrow _; have HO5 := Lib.hid hown5; have HG5 := Lib.hid hgrow; have S5 := Lib.hid (S4.out.app (p := ⟨r.f, r.t, q.f - r.f⟩) hown5 hgrow); have Q5 := Lib.hid ((Q4.out.below ((Below.refl _ w3).alloc (Nat.le_refl _) _) x3).grown hgrow HVX.out); obtain ⟨y3, y0, y1, y2, y4⟩ := S5.out.r.f; obtain ⟨x3, x0, x1, x2, x4⟩ := Q5.out.f; clear hown5 hgrow))
            have S6 := Lib.hid (S5.out.below ((Below.refl _ w5).drew)); have Q6 := Lib.hid (Q5.out.below ((Below.refl _ w5).drew) x3); refine OnBut.start (by kernel_rfl) (fun w' => w'.cell? ⟨w.heap.size + 1, 0, none⟩ = some (.int .i64 r.f) ∧ w'.cell? ⟨w.heap.size + 1, 1, none⟩ = some (.int .i32 r.t) ∧ w'.cell? ⟨w.heap.size + 1, 2, none⟩ = some (.int .i64 r.c) ∧ w'.cell? ⟨X, 0, none⟩ = some (.int .i64 q.f) ∧ w'.cell? ⟨X, 1, none⟩ = some (.int .i32 q.t) ∧ w'.cell? ⟨X, 2, none⟩ = some (.int .i64 q.c)) 9 ?_; have hHeld : (fun w' => w'.cell? ⟨w.heap.size + 1, 0, none⟩ = some (.int .i64 r.f) ∧ w'.cell? ⟨w.heap.size + 1, 1, none⟩ = some (.int .i32 r.t) ∧ w'.cell? ⟨w.heap.size + 1, 2, none⟩ = some (.int .i64 r.c) ∧ w'.cell? ⟨X, 0, none⟩ = some (.int .i64 q.f) ∧ w'.cell? ⟨X, 1, none⟩ = some (.int .i32 q.t) ∧ w'.cell? ⟨X, 2, none⟩ = some (.int .i64 q.c)) w5.drew := (by go_keep); (refine OnBut.take (i := 0) (oi := ⟨_, _, _, _, _, _⟩) (v := ?_) rfl (by kernel_rfl) (by kernel_rfl) (by kernel_rfl) (by kernel_rfl) (fun _ _ _ h => h) (Or.inl ⟨by rfl, ?_⟩) (by assumption) ?_); rotate_left; (focus (intro w hSw; (try dsimp only at hSw); go_simp; (try with_reducible rfl); done)); (try simp only [Act.put, List.setIfInBounds_toArray, List.set_cons_zero, List.set_cons_succ]); (refine OnBut.take (i := 1) (oi := ⟨_, _, _, _, _, _⟩) (v := ?_) rfl (by kernel_rfl) (by kernel_rfl) (by kernel_rfl) (by kernel_rfl) (fun _ _ _ h => h) (Or.inl ⟨by rfl, ?_⟩) (by assumption) ?_); rotate_left; (focus (intro w hSw; (try dsimp only at hSw); go_simp; (try with_reducible rfl); done)); (try simp only [Act.put, List.setIfInBounds_toArray, List.set_cons_zero, List.set_cons_succ]); (refine OnBut.take (i := 3) (oi := ⟨_, _, _, _, _, _⟩) (v := ?_) rfl (by kernel_rfl) (by kernel_rfl) (by kernel_rfl) (by kernel_rfl) (fun _ _ _ h => h) (Or.inl ⟨by rfl, ?_⟩) (by assumption) ?_); rotate_left; (focus (intro w hSw; (try dsimp only at hSw); go_simp; (try with_reducible rfl); done)); (try simp only [Act.put, List.setIfInBounds_toArray, List.set_cons_zero, List.set_cons_succ]); (refine OnBut.take (i := 6) (oi := ⟨_, _, _, _, _, _⟩) (v := ?_) rfl (by kernel_rfl) (by kernel_rfl) (by kernel_rfl) (by kernel_rfl) (fun _ _ _ h => h) (Or.inl ⟨by rfl, ?_⟩) (by assumption) ?_); rotate_left; (focus (intro w hSw; (try dsimp only at hSw); go_simp; (try with_reducible rfl); done)); (try simp only [Act.put, List.setIfInBounds_toArray, List.set_cons_zero, List.set_cons_succ]); refine OnBut.one (i := 2) (o := ⟨_, _, _, _, _, _⟩) (by kernel_rfl) rfl (fun K hK => ?_); go_simp; (go_at_call 195; refine (end_any _ _ _ _ (by omega) (by omega)).mono ?_; rintro e1 w6 ⟨rfl, hb6⟩; have S6 := Lib.hid (S6.out.below hb6); have Q6 := Lib.hid (Q6.out.below hb6 x3); obtain ⟨y3, y0, y1, y2, y4⟩ := S6.out.r.f; obtain ⟨x3, x0, x1, x2, x4⟩ := Q6.out.f; clear hb6); (try go_wp2_with fail); refine hK.out _ _ (fun _ => ?_) ?_; (focus ((try dsimp only); (try go_keep); done)); clear hHeld hK K; intro hh; have hHeld := hh (by decide); clear hh; (try simp only [Act.put, List.setIfInBounds_toArray, List.set_cons_zero, List.set_cons_succ]); refine OnBut.one (i := 4) (o := ⟨_, _, _, _, _, _⟩) (by kernel_rfl) rfl (fun K hK => ?_); go_simp; (go_at_call 195; refine (end_any _ _ _ _ (by omega) (by omega)).mono ?_; rintro e1 w6 ⟨rfl, hb6⟩; have S6 := Lib.hid (S6.out.below hb6); have Q6 := Lib.hid (Q6.out.below hb6 x3); obtain ⟨y3, y0, y1, y2, y4⟩ := S6.out.r.f; obtain ⟨x3, x0, x1, x2, x4⟩ := Q6.out.f; clear hb6); (try go_wp2_with fail); refine hK.out _ _ (fun _ => ?_) ?_; (focus ((try dsimp only); (try go_keep); done)); clear hHeld hK K; intro hh; have hHeld := hh (by decide); clear hh; (try simp only [Act.put, List.setIfInBounds_toArray, List.set_cons_zero, List.set_cons_succ]); (refine OnBut.take (i := 5) (oi := ⟨_, _, _, _, _, _⟩) (v := ?_) rfl (by kernel_rfl) (by kernel_rfl) (by kernel_rfl) (by kernel_rfl) (fun _ _ _ h => h) (Or.inl ⟨by rfl, ?_⟩) (by assumption) ?_); rotate_left; (focus (intro w hSw; (try dsimp only at hSw); go_simp; (try with_reducible rfl); done)); (try simp only [Act.put, List.setIfInBounds_toArray, List.set_cons_zero, List.set_cons_succ]); refine OnBut.one (i := 7) (o := ⟨_, _, _, _, _, _⟩) (by kernel_rfl) rfl (fun K hK => ?_); go_simp; (go_at_call 195; refine (end_any _ _ _ _ (by omega) (by omega)).mono ?_; rintro e1 w6 ⟨rfl, hb6⟩; have S6 := Lib.hid (S6.out.below hb6); have Q6 := Lib.hid (Q6.out.below hb6 x3); obtain ⟨y3, y0, y1, y2, y4⟩ := S6.out.r.f; obtain ⟨x3, x0, x1, x2, x4⟩ := Q6.out.f; clear hb6); (try go_wp2_with fail); refine hK.out _ _ (fun _ => ?_) ?_; (focus ((try dsimp only); (try go_keep); done)); clear hHeld hK K; intro hh; have hHeld := hh (by decide); clear hh; (try simp only [Act.put, List.setIfInBounds_toArray, List.set_cons_zero, List.set_cons_succ]); refine OnBut.one (i := 8) (o := ⟨_, _, _, _, _, _⟩) (by kernel_rfl) rfl (fun K hK => ?_); go_simp; (go_at_call 196; refine (HPT.out _).mono ?_; rintro e1 w6 ⟨rfl, hb6⟩; have S6 := Lib.hid (S6.out.below hb6); have Q6 := Lib.hid (Q6.out.below hb6 x3); obtain ⟨y3, y0, y1, y2, y4⟩ := S6.out.r.f; obtain ⟨x3, x0, x1, x2, x4⟩ := Q6.out.f; clear hb6); (try go_wp2_with fail); refine hK.out _ _ (fun _ => ?_) ?_; (focus ((try dsimp only); (try go_keep); done)); clear hHeld hK K; intro hh; have hHeld := hh (by decide); clear hh; (try simp only [Act.put, List.setIfInBounds_toArray, List.set_cons_zero, List.set_cons_succ]); refine OnBut.one (i := 9) (o := ⟨_, _, _, _, _, _⟩) (by kernel_rfl) rfl (fun K hK => ?_); go_simp; (try go_wp2_with fail); refine hK.out _ _ (fun h => absurd rfl h) ?_; clear hHeld hK K; intro _; refine OnBut.done (by kernel_rfl) ?_; (try simp only [Act.put, List.setIfInBounds_toArray, List.set_cons_zero, List.set_cons_succ])
            go_wp2_with fail
            go_roundw
            case rel => exact ⟨j + 1, ⟨E, r.t + (E - r.f), r.f + r.c - E⟩, fr ++ [⟨r.f, r.t, q.f - r.f⟩], by omega, by go_num, S6.out.put, HBE.out, HR2.out, HNEW.out, by rw [List.length_append]; simp; omega⟩
            case measure => simp [RowKit.intOf]; omega
          · rw [if_neg (show ¬ q.f > r.f from hgt), List.nil_append] at HBE
            go_wp2_with fail
            have S6 := Lib.hid (S3.out.below ((Below.refl _ w2).drew)); have Q6 := Lib.hid (Q3.out.below ((Below.refl _ w2).drew) x3); refine OnBut.start (by kernel_rfl) (fun w' => w'.cell? ⟨w.heap.size + 1, 0, none⟩ = some (.int .i64 r.f) ∧ w'.cell? ⟨w.heap.size + 1, 1, none⟩ = some (.int .i32 r.t) ∧ w'.cell? ⟨w.heap.size + 1, 2, none⟩ = some (.int .i64 r.c) ∧ w'.cell? ⟨X, 0, none⟩ = some (.int .i64 q.f) ∧ w'.cell? ⟨X, 1, none⟩ = some (.int .i32 q.t) ∧ w'.cell? ⟨X, 2, none⟩ = some (.int .i64 q.c)) 9 ?_; have hHeld : (fun w' => w'.cell? ⟨w.heap.size + 1, 0, none⟩ = some (.int .i64 r.f) ∧ w'.cell? ⟨w.heap.size + 1, 1, none⟩ = some (.int .i32 r.t) ∧ w'.cell? ⟨w.heap.size + 1, 2, none⟩ = some (.int .i64 r.c) ∧ w'.cell? ⟨X, 0, none⟩ = some (.int .i64 q.f) ∧ w'.cell? ⟨X, 1, none⟩ = some (.int .i32 q.t) ∧ w'.cell? ⟨X, 2, none⟩ = some (.int .i64 q.c)) w2.drew := (by go_keep); (refine OnBut.take (i := 0) (oi := ⟨_, _, _, _, _, _⟩) (v := ?_) rfl (by kernel_rfl) (by kernel_rfl) (by kernel_rfl) (by kernel_rfl) (fun _ _ _ h => h) (Or.inl ⟨by rfl, ?_⟩) (by assumption) ?_); rotate_left; (focus (intro w hSw; (try dsimp only at hSw); go_simp; (try with_reducible rfl); done)); (try simp only [Act.put, List.setIfInBounds_toArray, List.set_cons_zero, List.set_cons_succ]); (refine OnBut.take (i := 1) (oi := ⟨_, _, _, _, _, _⟩) (v := ?_) rfl (by kernel_rfl) (by kernel_rfl) (by kernel_rfl) (by kernel_rfl) (fun _ _ _ h => h) (Or.inl ⟨by rfl, ?_⟩) (by assumption) ?_); rotate_left; (focus (intro w hSw; (try dsimp only at hSw); go_simp; (try with_reducible rfl); done)); (try simp only [Act.put, List.setIfInBounds_toArray, List.set_cons_zero, List.set_cons_succ]); (refine OnBut.take (i := 3) (oi := ⟨_, _, _, _, _, _⟩) (v := ?_) rfl (by kernel_rfl) (by kernel_rfl) (by kernel_rfl) (by kernel_rfl) (fun _ _ _ h => h) (Or.inl ⟨by rfl, ?_⟩) (by assumption) ?_); rotate_left; (focus (intro w hSw; (try dsimp only at hSw); go_simp; (try with_reducible rfl); done)); (try simp only [Act.put, List.setIfInBounds_toArray, List.set_cons_zero, List.set_cons_succ]); (refine OnBut.take (i := 6) (oi := ⟨_, _, _, _, _, _⟩) (v := ?_) rfl (by kernel_rfl) (by kernel_rfl) (by kernel_rfl) (by kernel_rfl) (fun _ _ _ h => h) (Or.inl ⟨by rfl, ?_⟩) (by assumption) ?_); rotate_left; (focus (intro w hSw; (try dsimp only at hSw); go_simp; (try with_reducible rfl); done)); (try simp only [Act.put, List.setIfInBounds_toArray, List.set_cons_zero, List.set_cons_succ]); refine OnBut.one (i := 2) (o := ⟨_, _, _, _, _, _⟩) (by kernel_rfl) rfl (fun K hK => ?_); go_simp; (go_at_call 195; refine (end_any _ _ _ _ (by omega) (by omega)).mono ?_; rintro e1 w6 ⟨rfl, hb6⟩; have S6 := Lib.hid (S6.out.below hb6); have Q6 := Lib.hid (Q6.out.below hb6 x3); obtain ⟨y3, y0, y1, y2, y4⟩ := S6.out.r.f; obtain ⟨x3, x0, x1, x2, x4⟩ := Q6.out.f; clear hb6); (try go_wp2_with fail); refine hK.out _ _ (fun _ => ?_) ?_; (focus ((try dsimp only); (try go_keep); done)); clear hHeld hK K; intro hh; have hHeld := hh (by decide); clear hh; (try simp only [Act.put, List.setIfInBounds_toArray, List.set_cons_zero, List.set_cons_succ]); refine OnBut.one (i := 4) (o := ⟨_, _, _, _, _, _⟩) (by kernel_rfl) rfl (fun K hK => ?_); go_simp; (go_at_call 195; refine (end_any _ _ _ _ (by omega) (by omega)).mono ?_; rintro e1 w6 ⟨rfl, hb6⟩; have S6 := Lib.hid (S6.out.below hb6); have Q6 := Lib.hid (Q6.out.below hb6 x3); obtain ⟨y3, y0, y1, y2, y4⟩ := S6.out.r.f; obtain ⟨x3, x0, x1, x2, x4⟩ := Q6.out.f; clear hb6); (try go_wp2_with fail); refine hK.out _ _ (fun _ => ?_) ?_; (focus ((try dsimp only); (try go_keep); done)); clear hHeld hK K; intro hh; have hHeld := hh (by decide); clear hh; (try simp only [Act.put, List.setIfInBounds_toArray, List.set_cons_zero, List.set_cons_succ]); (refine OnBut.take (i := 5) (oi := ⟨_, _, _, _, _, _⟩) (v := ?_) rfl (by kernel_rfl) (by kernel_rfl) (by kernel_rfl) (by kernel_rfl) (fun _ _ _ h => h) (Or.inl ⟨by rfl, ?_⟩) (by assumption) ?_); rotate_left; (focus (intro w hSw; (try dsimp only at hSw); go_simp; (try with_reducible rfl); done)); (try simp only [Act.put, List.setIfInBounds_toArray, List.set_cons_zero, List.set_cons_succ]); refine OnBut.one (i := 7) (o := ⟨_, _, _, _, _, _⟩) (by kernel_rfl) rfl (fun K hK => ?_); go_simp; (go_at_call 195; refine (end_any _ _ _ _ (by omega) (by omega)).mono ?_; rintro e1 w6 ⟨rfl, hb6⟩; have S6 := Lib.hid (S6.out.below hb6); have Q6 := Lib.hid (Q6.out.below hb6 x3); obtain ⟨y3, y0, y1, y2, y4⟩ := S6.out.r.f; obtain ⟨x3, x0, x1, x2, x4⟩ := Q6.out.f; clear hb6); (try go_wp2_with fail); refine hK.out _ _ (fun _ => ?_) ?_; (focus ((try dsimp only); (try go_keep); done)); clear hHeld hK K; intro hh; have hHeld := hh (by decide); clear hh; (try simp only [Act.put, List.setIfInBounds_toArray, List.set_cons_zero, List.set_cons_succ]); refine OnBut.one (i := 8) (o := ⟨_, _, _, _, _, _⟩) (by kernel_rfl) rfl (fun K hK => ?_); go_simp; (go_at_call 196; refine (HPT.out _).mono ?_; rintro e1 w6 ⟨rfl, hb6⟩; have S6 := Lib.hid (S6.out.below hb6); have Q6 := Lib.hid (Q6.out.below hb6 x3); obtain ⟨y3, y0, y1, y2, y4⟩ := S6.out.r.f; obtain ⟨x3, x0, x1, x2, x4⟩ := Q6.out.f; clear hb6); (try go_wp2_with fail); refine hK.out _ _ (fun _ => ?_) ?_; (focus ((try dsimp only); (try go_keep); done)); clear hHeld hK K; intro hh; have hHeld := hh (by decide); clear hh; (try simp only [Act.put, List.setIfInBounds_toArray, List.set_cons_zero, List.set_cons_succ]); refine OnBut.one (i := 9) (o := ⟨_, _, _, _, _, _⟩) (by kernel_rfl) rfl (fun K hK => ?_); go_simp; (try go_wp2_with fail); refine hK.out _ _ (fun h => absurd rfl h) ?_; clear hHeld hK K; intro _; refine OnBut.done (by kernel_rfl) ?_; (try simp only [Act.put, List.setIfInBounds_toArray, List.set_cons_zero, List.set_cons_succ])
            go_wp2_with fail
            go_roundw
            case rel => exact ⟨j + 1, ⟨E, r.t + (E - r.f), r.f + r.c - E⟩, fr, by omega, by go_num, S6.out.put, HBE.out, HR2.out, HNEW.out, by omega⟩
            case measure => simp [RowKit.intOf]; omega
      · obtain rfl : j = m := by omega
        have hnil : T.drop j = [] := List.drop_eq_nil_of_le (by rw [HTN.out]; exact Nat.le_refl _)
        rw [hnil] at HBE
        clear hnil
        by_cases hc : 0 < r.c
        · have HEND : Hid (fr ++ [r] = besL L r0) := Lib.hid (by have h := HBE.out; rw [bes_nil, if_pos hc] at h; rw [HE.out]; exact h)
          go_wp2_with (at_builtin; refine wpList_append_own _ rfl _ _ 72 rfl w1.heap.size 145 i0 _ 3 24 Tryz.underlying72 hi0 hz hsi hby rfl (by decide) _ _ _ rfl (HS.out.f.below ((Below.refl _ wr).alloc (Nat.le_refl _) _)) ⟨wr.heap.size, 0, none⟩ 1 1 [.int .i64 r.f, .int .i32 r.t, .int .i64 r.c] rfl rfl (new_cells3 wr _ _ _ _) (fun u hu => by simp at hu; rcases hu with rfl | rfl | rfl <;> rfl) (by unfold maxLen; omega) (by omega) (by have := HS.out.sz; simp; omega) ?_; intro v5 w5 hown5 hgrow _; have HO5 := Lib.hid hown5; have HG5 := Lib.hid hgrow; clear hown5 hgrow)
          go_ret
          exact ⟨v5, rfl, by rw [← HEND.out]; exact (HS.out.app HO5.out HG5.out).f.le (by omega), (HS.out.app HO5.out HG5.out).bel⟩
        · have HEND : Hid (fr = besL L r0) := Lib.hid (by have h := HBE.out; rw [bes_nil, if_neg hc, List.append_nil] at h; rw [HE.out]; exact h)
          go_wp2_with fail
          go_ret
          exact ⟨u5, rfl, by rw [← HEND.out]; exact HS.out.f.le (by omega), HS.out.bel⟩
end Go.Proofs.YtiigknimfibdpaaGreatDoor.tb
namespace Go.Proofs.YtiigknimfibdpaaGreatDoor.tb
open Go.RowKit Go.Lib
set_option linter.unusedVariables false
theorem RowRw.cells {w : World} {g o c : Nat} {l : List Rw} (h : RowRw w (some ⟨g, o, none⟩) c l) : ∀ j u, (rcells l)[j]? = some u → w.cell? ⟨g, o + j, none⟩ = some u := by
  intro j u hu
  have hj : j < l.length * 3 := by rw [← rcells_len]; exact (List.getElem?_eq_some_iff.1 hu).1
  obtain ⟨g', o', he, _, _, _, k0, k1, k2, _⟩ := h.at (j / 3) (by omega)
  cases he
  obtain ⟨a, b, c⟩ := rcells_at l (j / 3) (by omega)
  have h3 : j % 3 = 0 ∨ j % 3 = 1 ∨ j % 3 = 2 := by omega
  rcases h3 with h3 | h3 | h3
  · rw [show j / 3 * 3 = j by omega] at a k0
    rw [← hu, a]; exact k0
  · rw [show j / 3 * 3 + 1 = j by omega] at b
    rw [show o + j / 3 * 3 + 1 = o + j by omega] at k1
    rw [← hu, b]; exact k1
  · rw [show j / 3 * 3 + 2 = j by omega] at c
    rw [show o + j / 3 * 3 + 2 = o + j by omega] at k2
    rw [← hu, c]; exact k2
theorem append_rows {ops : Array Oper} {rest : List Oper} {o : Oper} {a : Act} {Q : Exit → Act → World → Prop} {w : World} (hgd : o.guard = none) (s x : Operand)
    (ho : o.op = .call { callee := .builtin .append, args := #[s, x], argTypes := #[72, 72] }) (B : Nat) (v : Value) (l : List Rw) (hs : a.eval s = v) (hown : RO w B v l)
    (A : Option Addr) (c n : Nat) (m : List Rw) (hx : a.eval x = .slice A n c) (hn : n = m.length) (hm : RowRw w A c m) (hlen : l.length + m.length ≤ 1000000000) (hB : B ≤ w.heap.size)
    (h : ∀ v' w', RO w' B v' (l ++ m) → w.grownBy w' v.ownBlock → wpList Tryz.prog ops Q rest (a.put o.dst v') w') : wpList Tryz.prog ops Q (o :: rest) a w := by
  obtain ⟨i0, hi0, hzz⟩ := Option.map_eq_some_iff.1 row_info
  simp only [Prod.mk.injEq] at hzz
  obtain ⟨hz, hsi, hby⟩ := hzz
  subst hn
  cases A with
  | none =>
    rcases hm with ⟨_, rfl, rfl⟩ | ⟨g, o', h0, _⟩
    · exact wpList_append_own_none hgd s x 72 ho B 145 i0 3 Tryz.underlying72 hi0 v _ _ hs hown hx (h v w (by simpa using hown) (World.grownBy.refl _ _))
    · cases h0
  | some ad =>
    have hm' := hm
    rcases hm with ⟨h0, _⟩ | ⟨g, o', h0, _, _, _, _⟩
    · cases h0
    · cases h0
      refine wpList_append_own w hgd s x 72 ho B 145 i0 _ 3 24 Tryz.underlying72 hi0 hz hsi hby rfl (by decide) v _ _ hs hown ⟨g, o', none⟩ m.length c (rcells m) hx (rcells_len m) (fun j u hu => by rw [Addr.add_lit]; exact hm'.cells j u hu) (rcells_one m) (by unfold maxLen; omega) (by omega) hB ?_
      intro v' w' h1 h2 _
      refine h v' w' ?_ h2
      unfold RO
      rw [rcells_app, List.length_append]
      exact h1
theorem beside_any (A : Option Addr) (n c : Nat) (L : List Rw) (r0 : Rw) (w : World) (h : RowRw w A c L) (hn : n = L.length) (hok : ∀ r ∈ L, r.ok) (hd : Dis L) (hs : n ≤ 100000000) (hr : r0.ok) :
    Calls Tryz.prog 154 #[.agg #[.slice A n c], .agg #[.int .i64 r0.f, .int .i32 r0.t, .int .i64 r0.c]] w fun e w' => ∃ v, e = .returned v ∧ RO w' w.heap.size v (besL L r0) ∧ Below w.heap.size w w' := by
  have h' := h
  rcases h with ⟨rfl, rfl, rfl⟩ | ⟨g, o, rfl, _⟩
  · subst hn
    have e : besL [] r0 = [r0] := by
      show bes [] r0 = _
      rw [bes_nil, if_pos (show r0.c > 0 from hr.c1)]
    rw [e]
    exact beside_nil 0 r0 w hr
  · exact beside_some g o n c L r0 w h' hn hok hd hs hr
theorem clone_any (A : Option Addr) (n c : Nat) (L : List Rw) (w : World) (h : RowRw w A c L) (hn : n = L.length) (hs : n ≤ 100000000) :
    Calls Tryz.prog 153 #[.slice A n c] w fun e w' => ∃ v, e = .returned v ∧ RO w' w.heap.size v L ∧ Below w.heap.size w w' := by
  obtain ⟨i0, hi0, hzz⟩ := Option.map_eq_some_iff.1 row_info
  simp only [Prod.mk.injEq] at hzz
  obtain ⟨hz, hsi, hby⟩ := hzz
  have h' := h
  rcases h with ⟨rfl, rfl, rfl⟩ | ⟨g, o, rfl, _, _, _, _⟩
  · subst hn
    refine (AnyE.slices_Clone_nil Tryz.cloneRows 0 0 w).mono ?_
    rintro e w' ⟨rfl, rfl⟩
    exact ⟨_, rfl, RO.nil _ _, Below.refl _ _⟩
  · refine (AnyE.slices_Clone Tryz.cloneRows i0 _ 3 24 hi0 hz hsi hby rfl (by decide) Tryz.sizeOf145 g o n c (rcells L) w (by rw [rcells_len, hn]) (by unfold maxLen; omega) (by omega) h'.cells (rcells_one L)).mono ?_
    rintro e w' ⟨v, rfl, h1, _, h3⟩
    refine ⟨v, rfl, ?_, h3⟩
    unfold RO
    rw [← hn]
    exact h1
/-- What stands in Over. -/
structure Vs (w : World) (B : Nat) (X v : Value) (fr : List Rw) (W : World) : Prop where
  t : F1 W w.heap.size X
  r : F1 W (w.heap.size + 1 + 1) (.slice none 0 0)
  f : RO W B v fr
  bel : Below w.heap.size w W
  lo : w.heap.size + 1 + 1 + 1 ≤ B
  sz : B ≤ W.heap.size
theorem Vs.below {w : World} {B : Nat} {X v : Value} {fr : List Rw} {W W' : World} (h : Vs w B X v fr W) (hb : Below W.heap.size W W') : Vs w B X v fr W' :=
  ⟨h.t.below hb h.t.lt, h.r.below hb h.r.lt, h.f.below hb, h.bel.trans (hb.mono h.bel.size), h.lo, Nat.le_trans h.sz hb.size⟩
theorem Vs.app {w : World} {B : Nat} {X v v' : Value} {fr fr' : List Rw} {W W' : World} (h : Vs w B X v fr W) (ho : RO W' B v' fr') (hg : W.grownBy W' v.ownBlock) : Vs w B X v' fr' W' := by
  have hl := h.lo
  exact ⟨h.t.grown hg (fun e => by have := (h.f.lt _ e).1; omega), h.r.grown hg (fun e => by have := (h.f.lt _ e).1; omega), ho, below_own h.bel h.bel.size (own_base h.f (by omega)) hg, hl, Nat.le_trans h.sz hg.size⟩
set_option maxRecDepth 100000 in
set_option maxHeartbeats 8000000 in
theorem over_any (A : Option Addr) (n c : Nat) (L : List Rw) (A2 : Option Addr) (n2 c2 : Nat) (M : List Rw) (w : World) (h : RowRw w A c L) (hn : n = L.length) (hok : ∀ r ∈ L, r.ok) (hd : Dis L) (hs : n ≤ 8000)
    (h2 : RowRw w A2 c2 M) (hn2 : n2 = M.length) (hok2 : ∀ r ∈ M, r.ok) (hd2 : Dis M) (hs2 : n2 ≤ 8000) :
    Calls Tryz.prog 115 #[.agg #[.slice A n c], .agg #[.slice A2 n2 c2]] w fun e w' => ∃ Z S, e = .returned (.agg #[Z]) ∧ RO w' w.heap.size Z S ∧ S.Perm (overR L M) ∧ Dis S ∧ (∀ r ∈ S, r.ok) ∧ Below w.heap.size w w' := by
  have HC := Lib.hid (fun w2 hw => clone_any A n c L w2 hw hn (by omega))
  have HBS := Lib.hid (fun r w2 hw hr => beside_any A n c L r w2 hw hn hok hd (by omega) hr)
  have hov := overR_spec hd hok hd2 hok2
  have HOV := Lib.hid hov
  have H := Lib.hid h; have HN := Lib.hid hn; have HO := Lib.hid hok; have HD := Lib.hid hd
  have H2 := Lib.hid h2; have HN2 := Lib.hid hn2; have HO2 := Lib.hid hok2; have HD2 := Lib.hid hd2
  clear h hn hok hd h2 hn2 hok2 hd2 hov
  obtain ⟨hA, hA2, hA3, hA4⟩ := f1_three w (.slice A n c) (.slice A2 n2 c2) (.slice none 0 0)
  have HA := Lib.hid hA; have HA2 := Lib.hid hA2; have HA3 := Lib.hid hA3; have HA4 := Lib.hid hA4
  clear hA hA2 hA3 hA4
  go_enter Tryz.func115, Tryz.ntmps115
  go_wp2_with (go_at_call 153; refine (HC.out _ (H.out.below HA4.out)).mono ?_; rintro e1 w1 ⟨v, rfl, hro, hb1⟩; have LT := (show w.heap.size + 1 + 1 + 1 ≤ w1.heap.size by have := hb1.size; simpa using this); have S1 : Hid (Vs w (w.heap.size + 1 + 1 + 1) (.slice A n c) v L w1) := Lib.hid ⟨HA.out.below hb1 (by simp; omega), HA3.out.below hb1 (by simp), (by simpa using hro), HA4.out.trans (hb1.mono (by simp; omega)), Nat.le_refl _, LT⟩; obtain ⟨_, q0, _⟩ := HA2.out.below hb1 (by simp); clear hro hb1)
  go_loopw [5, 14] (fun v k wr => ∃ j : Nat, j ≤ n2 ∧ k = .int .i64 j ∧ Vs w (w.heap.size + 1 + 1 + 1) (.slice A n c) v (overR L (M.take j)) wr) (fun _ k _ => n2 - (RowKit.intOf k).toNat)
  case atStart => exact ⟨0, Nat.zero_le _, rfl, by simpa [overR] using S1.out⟩
  case round =>
    obtain ⟨j, hj, rfl, hvs⟩ := hrel
    have HS := Lib.hid hvs
    obtain ⟨t3, t0, t1⟩ := hvs.t
    have z0 := hvs.sz
    clear hvs
    by_cases hlt : j < n2
    · have hjl : j < M.length := by have := HN2.out; omega
      obtain ⟨g, o, rfl, a1, a2, a3, k0, k1, k2, hmem⟩ := (H2.out.below HS.out.bel).at j hjl
      rw [← HN2.out] at a1
      unfold maxLen at a2
      have hqo := HO2.out _ hmem
      have HT : Hid (overR L (M.take (j + 1)) = overR L (M.take j) ++ besL L (M.getD j default)) := Lib.hid (by rw [List.take_add_one, List.getElem?_eq_getElem hjl, ← overR_snoc, getD_get M j hjl]; rfl)
      have HLEN : Hid ((overR L (M.take j)).length + (besL L (M.getD j default)).length ≤ 1000000000) := Lib.hid (by
        have h1 := overR_len L (M.take j)
        have h2 := besL_len L (M.getD j default)
        have h3 : (M.take j).length ≤ 8000 := by rw [List.length_take]; omega
        have h4 : L.length ≤ 8000 := by have := HN.out; omega
        have h5 := Nat.mul_le_mul h3 (show L.length + 1 ≤ 8001 by omega)
        omega)
      have HQ := Lib.hid hqo
      clear hmem hjl hqo
      generalize M.getD j default = q at *
      have hqs := fun w2 hw => HBS.out q w2 hw HQ.out
      have HB := Lib.hid hqs
      clear hqs
      go_wp2_with (first
        | (go_at_call 154; refine (HB.out _ ((H.out.below HS.out.bel).below ((Below.refl _ wr).alloc (Nat.le_refl _) _))).mono ?_; rintro e1 w3 ⟨v3, rfl, hro3, hb3⟩; have S3 := Lib.hid ((HS.out.below ((Below.refl _ wr).alloc (Nat.le_refl _) _)).below hb3); obtain ⟨A3, c3, rfl, hrw3⟩ := hro3.rows; have HR3 := Lib.hid hrw3; clear hro3 hb3 hrw3)
        | (at_builtin; refine append_rows rfl _ _ rfl (w.heap.size + 1 + 1 + 1) _ (overR L (M.take j)) rfl S3.out.f A3 c3 _ (besL L q) rfl rfl HR3.out HLEN.out S3.out.sz ?_; intro v5 w5 ho5 hg5; have S5 := Lib.hid (S3.out.app ho5 hg5); clear ho5 hg5))
      go_roundw
      case rel => exact ⟨j + 1, by omega, by go_num, by rw [HT.out]; exact S5.out⟩
      case measure => simp [RowKit.intOf]; omega
    · obtain rfl : j = n2 := by omega
      have e : M.take j = M := by rw [HN2.out]; exact List.take_length
      rw [e] at HS
      have hlen : (overR L M).length ≤ 1000000000 := by
        have h1 := overR_len L M
        have h3 : M.length ≤ 8000 := by have := HN2.out; omega
        have h4 : L.length ≤ 8000 := by have := HN.out; omega
        have h5 := Nat.mul_le_mul h3 (show L.length + 1 ≤ 8001 by omega)
        omega
      have HOR := Lib.hid (ordered_any u5 (overR L M) (w.heap.size + 1 + 1 + 1) wr HS.out.f HS.out.sz hlen HOV.out.1 HOV.out.2)
      obtain ⟨A5, c5, rfl⟩ := HS.out.f.slice
      clear e hlen
      go_wp2_with (go_at_call 155; refine HOR.out.mono ?_; rintro e1 w6 ⟨rfl, S, h1, h2, h3, h4, h5, h6⟩; have HS6 := Lib.hid (And.intro h1 (And.intro h2 h3)); have HR6 := Lib.hid h5; have HB6 := Lib.hid (HS.out.bel.trans (h6.mono (by omega))); obtain ⟨x3, x0, x1⟩ := HS.out.r.below h6 (by omega); clear h1 h2 h3 h4 h5 h6)
      refine bodyPost_ret (v := .agg #[.slice A5 (overR L M).length c5]) (by simp [results, Tryz.results115, go_sem, x0]) rfl ⟨_, S, rfl, RO.le (ownsRow_setCell_below HR6.out (by show w.heap.size + 1 + 1 < _; omega) _) (by omega), HS6.out.1, HS6.out.2.1, HS6.out.2.2, HB6.out.setCell (p := ⟨w.heap.size + 1 + 1, 0, none⟩) (by show w.heap.size ≤ w.heap.size + 1 + 1; omega) _⟩
end Go.Proofs.YtiigknimfibdpaaGreatDoor.tb
