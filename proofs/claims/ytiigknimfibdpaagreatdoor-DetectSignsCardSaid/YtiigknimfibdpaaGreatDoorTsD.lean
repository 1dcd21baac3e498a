/- Rows put in order: contracts of the sort at rows, of ordered. -/
import Derived.Test.YtiigknimfibdpaaGreatDoorTsA
import Derived.Shelf.SlSortCmp.WholeK
import Derived.Lib.OwnBridge
import Derived.Test.YtiigknimfibdpaaGreatDoorTsC
namespace Go.Proofs.YtiigknimfibdpaaGreatDoor.tb
open Go.RowKit Go.Lib Go.Sort
set_option linter.unusedVariables false
/-- A row of the call's own. -/
theorem own_flat {w : World} {base : Nat} {e : TypeId} {k : Nat} {v : Value} {n : Nat} {xs : List Value} (h : w.ownsRow base e k v n xs) (hv : v ≠ .slice none 0 0) :
    ∃ g cap, v = .slice (some ⟨g, 0, none⟩) n cap ∧ base ≤ g ∧ g < w.heap.size ∧ n ≤ cap ∧ cap ≤ maxLen ∧ Holds id w g 0 xs.toArray := by
  have hl := h.1
  rcases h.2 with ⟨e0, _⟩ | ⟨g, cap, cur, rfl, hb, hg, hn, hm, hs, ht⟩
  · exact absurd e0 hv
  · have hlt : g < w.heap.size := by
      rcases Nat.lt_or_ge g w.heap.size with h' | h'
      · exact h'
      · rw [Array.getElem?_eq_none h'] at hg; cases hg
    refine ⟨g, cap, rfl, hb, hlt, hn, hm, fun j hj => ?_⟩
    have hj' : j < xs.length := by simpa using hj
    refine ⟨?_, by simp [World.frozen?, hg]⟩
    have e1 : (cur.toList.take (n * k))[j]? = xs[j]? := by rw [ht]
    rw [List.getElem?_take, if_pos (by omega), Array.getElem?_toList, List.getElem?_eq_getElem hj'] at e1
    simp only [World.cell?, hg, Nat.zero_add]
    simp only [Option.isSome_none, Bool.false_eq_true, if_false]
    rw [e1]
    simp [getElem!_pos, hj']
theorem own_put {w : World} {base : Nat} {e : TypeId} {k g n cap q : Nat} {xs : List Value} (h : w.ownsRow base e k (.slice (some ⟨g, 0, none⟩) n cap) n xs) (F : Array Value) (hF : F.size = n * k) :
    (putRow id (Sort.ahead w q) g 0 F).ownsRow base e k (.slice (some ⟨g, 0, none⟩) n cap) n F.toList := by
  rcases h.2 with ⟨e0, _⟩ | ⟨g', cap', cur, e0, hb, hg, hn, hm, hs, ht⟩
  · cases e0
  · injection e0 with e1 _ e3
    injection e1 with e1
    injection e1 with e1
    subst e1; subst e3
    have hle : n * k ≤ cap * k := Nat.mul_le_mul_right k hn
    refine ⟨by simpa using hF, .inr ⟨g, cap, putCells id 0 F cur, rfl, hb, ?_, hn, hm, by simpa [putCells] using hs, ?_⟩⟩
    · simp [putRow, mapBlock, Sort.ahead, Array.getElem?_modify, hg, onCells]
    · apply List.ext_getElem?
      intro j
      rw [List.getElem?_take, Array.getElem?_toList, Array.getElem?_toList]
      by_cases hj : j < n * k
      · have hjc : j < cur.size := by omega
        simp only [if_pos hj, putCells, Array.getElem?_mapIdx, Array.getElem?_eq_getElem hjc, Option.map_some]
        rw [if_pos (by omega), Array.getElem?_eq_getElem (by omega)]
        simp [getElem!_pos, show j < F.size by omega]
      · rw [if_neg hj, Array.getElem?_eq_none (by omega)]
theorem own_grow {w : World} {base : Nat} {e : TypeId} {k n : Nat} {v : Value} {xs : List Value} (h : w.ownsRow base e k v n xs) (os : Array Obj) : (grow w os).ownsRow base e k v n xs := by
  obtain ⟨h1, h2⟩ := h
  refine ⟨h1, ?_⟩
  rcases h2 with h2 | ⟨g, cap, cur, hv, hb, hg, r⟩
  · exact .inl h2
  · refine .inr ⟨g, cap, cur, hv, hb, ?_, r⟩
    have hlt : g < w.heap.size := by
      rcases Nat.lt_or_ge g w.heap.size with h' | h'
      · exact h'
      · rw [Array.getElem?_eq_none h'] at hg; cases hg
    rw [heap_grow_old w os hlt]; exact hg
theorem flat_rcells (d : Array Rw) : flatK rcell 3 d = (rcells d.toList).toArray := by
  refine ext_get! (by simp [rcells_len]) fun t ht => ?_
  have ht' : t < d.size * 3 := by simpa using ht
  rw [get_flatK _ _ _ t ht']
  have hd : t / 3 < d.size := by omega
  have hl : t / 3 < d.toList.length := by simpa using hd
  obtain ⟨a, b, c⟩ := rcells_at d.toList (t / 3) hl
  have hg : d[t / 3]! = d.toList.getD (t / 3) default := by
    rw [getElem!_pos d _ hd]; simp [List.getD, hd]
  rw [hg]
  have hlen : t < (rcells d.toList).length := by rw [rcells_len]; simpa using ht'
  have hx : (rcells d.toList).toArray[t]! = (rcells d.toList)[t] := by rw [getElem!_pos _ t (by simpa using hlen)]; simp
  rw [hx]
  have h3 : t % 3 = 0 ∨ t % 3 = 1 ∨ t % 3 = 2 := by omega
  have key : ∀ v : Value, (rcells d.toList)[t]? = some v → (rcells d.toList)[t] = v := fun v h => by
    rw [List.getElem?_eq_getElem hlen] at h; injection h
  rcases h3 with h3 | h3 | h3
  · rw [h3]; symm; apply key; rw [show t = t / 3 * 3 by omega]; rw [show t / 3 * 3 / 3 = t / 3 by omega]; exact a
  · rw [h3]; symm; apply key; rw [show t = t / 3 * 3 + 1 by omega]; rw [show (t / 3 * 3 + 1) / 3 = t / 3 by omega]; exact b
  · rw [h3]; symm; apply key; rw [show t = t / 3 * 3 + 2 by omega]; rw [show (t / 3 * 3 + 2) / 3 = t / 3 by omega]; exact c
/-- Behind the sort. -/
theorem own_sorted {w : World} {base : Nat} {e : TypeId} {g n cap q : Nat} {l : List Rw} (h : w.ownsRow base e 3 (.slice (some ⟨g, 0, none⟩) n cap) n (rcells l)) (d : Array Rw) (os : Array Obj) (hd : d.size = n) :
    (sortWorldK rcell 3 w g 0 q d os).ownsRow base e 3 (.slice (some ⟨g, 0, none⟩) n cap) n (rcells d.toList) := by
  unfold sortWorldK putRowK
  refine own_grow ?_ os
  have := own_put (q := q) h (flatK rcell 3 d) (by simp [hd])
  rw [show (flatK rcell 3 d).toList = rcells d.toList by rw [flat_rcells]] at this
  exact this
theorem holds_rows {w : World} {base : Nat} {e : TypeId} {v : Value} {n : Nat} {l : List Rw} (h : w.ownsRow base e 3 v n (rcells l)) (hv : v ≠ .slice none 0 0) :
    ∃ g cap, v = .slice (some ⟨g, 0, none⟩) n cap ∧ base ≤ g ∧ g < w.heap.size ∧ n ≤ cap ∧ cap ≤ maxLen ∧ HoldsK rcell 3 w g 0 l.toArray := by
  obtain ⟨g, cap, h1, h2, h3, h4, h5, h6⟩ := own_flat h hv
  refine ⟨g, cap, h1, h2, h3, h4, h5, ?_⟩
  unfold HoldsK
  rw [flat_rcells]
  simpa using h6
end Go.Proofs.YtiigknimfibdpaaGreatDoor.tb
namespace Go.Proofs.YtiigknimfibdpaaGreatDoor.tb
open Go.RowKit Go.Lib Go.Sort
set_option linter.unusedVariables false
theorem isNaN_any (x : Int) (w : World) : Calls Tryz.prog 218 #[.int .i64 x] w fun e w' => e = .returned (.bool false) ∧ w' = w := by
  go_enter Tryz.func218, Tryz.ntmps218
  go_wp2
  go_ret
  exact ⟨by simp, rfl⟩
/-- Which of two is less. -/
def cmp3 (x y : Int) : Int := if x < y then -1 else if y < x then 1 else 0
theorem compare_any (x y : Int) (w : World) : Calls Tryz.prog 199 #[.int .i64 x, .int .i64 y] w fun e w' => e = .returned (.int .i64 (cmp3 x y)) ∧ w' = w := by
  have HN := Lib.hid (fun z w => isNaN_any z w)
  unfold cmp3
  by_cases h1 : x < y
  · rw [if_pos h1]
    go_enter Tryz.func199, Tryz.ntmps199
    go_wp2_with (go_at_call 218; refine (HN.out _ _).mono ?_; rintro e1 w1 ⟨rfl, rfl⟩)
    go_ret
    exact ⟨rfl, rfl⟩
  · rw [if_neg h1]
    by_cases h2 : y < x
    · rw [if_pos h2]
      go_enter Tryz.func199, Tryz.ntmps199
      go_wp2_with (go_at_call 218; refine (HN.out _ _).mono ?_; rintro e1 w1 ⟨rfl, rfl⟩)
      go_ret
      exact ⟨rfl, rfl⟩
    · rw [if_neg h2]
      go_enter Tryz.func199, Tryz.ntmps199
      go_wp2_with (go_at_call 218; refine (HN.out _ _).mono ?_; rintro e1 w1 ⟨rfl, rfl⟩)
      go_ret
      exact ⟨rfl, rfl⟩
/-- Which of two rows stands ahead. -/
def cmpR (a b : Rw) : Int := cmp3 a.f b.f
theorem ordC_any (x y : Rw) (W : World) : Calls Tryz.prog 198 #[.agg #[.int .i64 x.f, .int .i32 x.t, .int .i64 x.c], .agg #[.int .i64 y.f, .int .i32 y.t, .int .i64 y.c]] W fun e w' => e = .returned (.int .i64 (cmpR x y)) ∧ ∃ q os', w' = grow (W.drewN q) os' := by
  have HC := Lib.hid (fun W' => compare_any x.f y.f W')
  unfold cmpR
  generalize cmp3 x.f y.f = r at *
  go_enter Tryz.func198, Tryz.ntmps198
  go_wp2_with (go_at_call 199; refine (HC.out _).mono ?_; rintro e w' ⟨rfl, rfl⟩)
  go_ret
  exact ⟨rfl, 0, _, by rw [alloc_eq_grow, alloc_eq_grow, grow_grow]; rfl⟩
theorem lt_cmpR (x y : Rw) : ltOf cmpR x y = decide (x.f < y.f) := by
  unfold ltOf cmpR cmp3
  by_cases h1 : x.f < y.f
  · simp [h1]
  · by_cases h2 : y.f < x.f <;> simp [h1, h2]
theorem swo_cmpR : SWO (ltOf cmpR) where
  irrefl x := by rw [lt_cmpR]; simp
  trans x y z h1 h2 := by rw [lt_cmpR] at *; simp at *; omega
  ntrans x y z h1 h2 := by rw [lt_cmpR] at *; simp at *; omega
theorem F1.grown {w w' : World} {X : Nat} {x : Value} {g : Option Nat} (hf : F1 w X x) (hg : w.grownBy w' g) (hne : g ≠ some X) : F1 w' X x := by
  have e := hg.block X hf.lt (fun h => hne h.symm)
  exact ⟨Nat.lt_of_lt_of_le hf.lt hg.size, (World.cell?_of_block (w := w) (a := ⟨X, 0, none⟩) e).trans hf.c0, (World.frozen?_of_block (w := w) (a := ⟨X, 0, none⟩) e).trans hf.f0⟩
theorem sorted_grown (w : World) (g q : Nat) (d : Array Rw) (os : Array Obj) : w.grownBy (sortWorldK rcell 3 w g 0 q d os) (some g) := by
  refine ⟨rfl, rfl, rfl, ?_, fun k hk hne => ?_⟩
  · unfold sortWorldK; rw [size_grow, size_putRowK]; show w.heap.size ≤ w.heap.size + _; omega
  · unfold sortWorldK putRowK
    rw [heap_grow_old _ os (by simpa [putRow, mapBlock, Sort.ahead] using hk)]
    have h : g ≠ k := fun h => hne (by rw [h])
    simp [putRow, mapBlock, Sort.ahead, Array.getElem?_modify, h]
set_option maxRecDepth 100000 in
set_option maxHeartbeats 1000000 in
theorem sort_any (v : Value) (l : List Rw) (B : Nat) (w : World) (h : RO w B v l) (hne : l ≠ []) (hs : l.length ≤ 1000000000) :
    Calls Tryz.prog 197 #[v, .func (.func 198) #[] #[]] w fun e w' => e = .returned (.tuple #[]) ∧ ∃ m : List Rw, m.length = l.length ∧ m.Perm l ∧ m.Pairwise (fun a b => a.f ≤ b.f) ∧ RO w' B v m ∧ w.grownBy w' v.ownBlock := by
  have eg : ∀ args w, (callFunc 198 args).run Tryz.prog w = .ok (.enter 198 args) w := enters_of Tryz.func198 (by kernel_rfl) rfl
  have hv : v ≠ .slice none 0 0 := by
    rintro rfl
    rcases h.form with ⟨_, h0⟩ | ⟨g, cap, h0, _⟩
    · exact hne h0
    · cases h0
  obtain ⟨g, cap, rfl, b1, b2, b3, b4, hH⟩ := holds_rows h hv
  have hcon := AnyQ.slices_SortFunc Tryz.sortRows 3 Tryz.isAgg145 Tryz.sizeOf145 rcell (fun _ => rfl) (fun x v hv => by simp [rcell] at hv; rcases hv with rfl | rfl | rfl <;> rfl) cmpR swo_cmpR 198 #[] g 0 cap l.toArray w eg (fun _ _ _ _ x y => ordC_any x y _) hH b2 (by simp; omega)
  have e : (fun a b : Rw => decide (a.f < b.f)) = ltOf cmpR := by funext a b; rw [lt_cmpR]
  rw [List.size_toArray] at hcon
  refine hcon.mono ?_
  rintro e1 w' ⟨rfl, d', n, os, hp, hs2, rfl⟩
  have hx := sorted_arr (d := l.toArray) (d' := d') (by simpa using hp) (by rw [e]; simpa using hs2)
  have hl : d'.toList.length = l.length := by have := hx.1; simpa using this
  refine ⟨rfl, d'.toList, hl, by simpa using hx.2.1, hx.2.2, ?_, sorted_grown w g n d' os⟩
  unfold RO
  rw [hl]
  exact own_sorted h d' os (by have := hx.1; simpa using this)
set_option maxRecDepth 100000 in
set_option maxHeartbeats 2000000 in
theorem ins_none (p : Option Addr) (c : Nat) (fv : Value) (w : World) : Calls Tryz.prog 220 #[.slice p 0 c, .int .i64 0, .int .i64 0, fv] w fun e w' => e = .returned (.tuple #[]) ∧ w' = w := by
  go_enter Tryz.func220, Tryz.ntmps220
  go_wp2
  refine wp_loop_rounds 1 ?_
  rw [rounds_succ]
  go_wp2
  go_end0
  exact ⟨rfl, rfl⟩
set_option maxRecDepth 100000 in
set_option maxHeartbeats 2000000 in
theorem pdq_none (p : Option Addr) (c : Nat) (lim : Int) (fv : Value) (w : World) : Calls Tryz.prog 216 #[.slice p 0 c, .int .i64 0, .int .i64 0, .int .i64 lim, fv] w fun e w' => e = .returned (.tuple #[]) ∧ w' = w := by
  have hi := Lib.hid (fun W => ins_none p c fv W)
  go_enter Tryz.func216, Tryz.ntmps216
  go_wp2
  refine wp_loop_rounds 1 ?_
  rw [rounds_succ]
  go_wp2_with (go_at_call 220; refine (hi.out _).mono ?_; rintro e w' ⟨rfl, rfl⟩)
  (try simp only [Exit.inBlock, Exit.then]); refine bodyPost_ret (results_none rfl _ _ _) rfl ?_
  exact ⟨rfl, rfl⟩
set_option maxRecDepth 100000 in
set_option maxHeartbeats 2000000 in
theorem sort_none (p : Option Addr) (c : Nat) (fv : Value) (w : World) : Calls Tryz.prog 197 #[.slice p 0 c, fv] w fun e w' => e = .returned (.tuple #[]) ∧ w' = w := by
  have hp := Lib.hid (fun lim W => pdq_none p c lim fv W)
  have hl : ∀ W, Calls Tryz.prog 217 #[.int .u64 0] W fun e w' => e = .returned (.int .i64 (Lib.bitLen 0 : Nat)) ∧ w' = W := fun W =>
    Any.bits_Len (SlLaysF0.n15.bits (P := Tryz.prog) (ρ := Tryz.sortRows_ren) { Tryz.sortRows with }) 0 W (by omega) (by omega)
  have HL := Lib.hid hl
  clear hl
  go_enter Tryz.func197, Tryz.ntmps197
  go_wp2_with (first | (go_at_call 217; refine (HL.out _).mono ?_; rintro e w' ⟨rfl, rfl⟩) | (go_at_call 216; refine (hp.out _ _).mono ?_; rintro e w' ⟨rfl, rfl⟩))
  go_end0
  exact ⟨rfl, rfl⟩
set_option maxRecDepth 100000 in
set_option maxHeartbeats 2000000 in
/-- Rows apart, put in order: a table. -/
theorem ordered_any (v : Value) (l : List Rw) (B : Nat) (w : World) (h : RO w B v l) (hB : B ≤ w.heap.size) (hs : l.length ≤ 1000000000) (ha : l.Pairwise Apart) (ho : ∀ r ∈ l, r.ok) :
    Calls Tryz.prog 155 #[v] w fun e w' => e = .returned (.agg #[v]) ∧ ∃ m : List Rw, m.Perm l ∧ Dis m ∧ (∀ r ∈ m, r.ok) ∧ (∀ q, q ∈ rps m ↔ q ∈ rps l) ∧ RO w' B v m ∧ Below B w w' := by
  have HS : Hid (∀ w1, RO w1 B v l → Calls Tryz.prog 197 #[v, .func (.func 198) #[] #[]] w1 fun e w' => e = .returned (.tuple #[]) ∧ ∃ m : List Rw, m.Perm l ∧ Dis m ∧ (∀ r ∈ m, r.ok) ∧ (∀ q, q ∈ rps m ↔ q ∈ rps l) ∧ RO w' B v m ∧ w1.grownBy w' v.ownBlock) := Lib.hid (fun w1 h1 => by
    by_cases hne : l = []
    · subst hne
      obtain ⟨A, c, rfl⟩ := h1.slice
      refine (sort_none A c _ w1).mono ?_
      rintro e w' ⟨rfl, rfl⟩
      exact ⟨rfl, [], List.Perm.refl _, List.Pairwise.nil, fun _ h => (by cases h), fun q => Iff.rfl, h1, ⟨rfl, rfl, rfl, Nat.le_refl _, fun _ _ _ => rfl⟩⟩
    · refine (sort_any v l B w1 h1 hne hs).mono ?_
      rintro e w' ⟨rfl, m, h2, h3, h4, h5, h6⟩
      obtain ⟨d1, d2, d3⟩ := sorted_dis h3 ha ho h4
      exact ⟨rfl, m, h3, d1, d2, d3, h5, h6⟩)
  have H := Lib.hid h; have HB := Lib.hid hB
  have hlt := h.lt
  have HLT : Hid (v.ownBlock ≠ some w.heap.size) := Lib.hid (fun h0 => by have := (hlt _ h0).2; omega)
  have hone := h.one
  obtain ⟨A, c, rfl⟩ := h.slice
  clear h hB ha ho hlt hone
  go_enter Tryz.func155, Tryz.ntmps155
  go_wp2_with (go_at_call 197; refine (HS.out _ (H.out.below (by repeat (first | (with_reducible exact Below.refl _ _) | (with_reducible refine Below.setCell ?_ (by simp) _) | (with_reducible refine Below.alloc ?_ (by simp) _))))).mono ?_; rintro e1 w1 ⟨rfl, m, h1, h2, h3, h4, h5, h6⟩; have HM := Lib.hid (And.intro h1 (And.intro h2 (And.intro h3 h4))); have HR := Lib.hid h5; have HB1 := Lib.hid (below_own (((Below.refl B w).alloc HB.out (.cells #[.slice none 0 0] 74))) (by have := HB.out; simp; omega) (H.out.below (by repeat (first | (with_reducible exact Below.refl _ _) | (with_reducible refine Below.setCell ?_ (by simp) _) | (with_reducible refine Below.alloc ?_ (by simp) _)))) h6); have hc0 := (f1_new w (.slice none 0 0) 74).grown h6 HLT.out; obtain ⟨g0, g1, g2⟩ := hc0; clear h1 h2 h3 h4 h5 h6)
  refine bodyPost_ret (v := .agg #[.slice A l.length c]) (by simp [results, Tryz.results155, go_sem, g1]) rfl ⟨rfl, m, HM.out.1, HM.out.2.1, HM.out.2.2.1, HM.out.2.2.2, ownsRow_setCell_other HR.out HLT.out _, HB1.out.setCell (p := ⟨w.heap.size, 0, none⟩) HB.out _⟩
end Go.Proofs.YtiigknimfibdpaaGreatDoor.tb
