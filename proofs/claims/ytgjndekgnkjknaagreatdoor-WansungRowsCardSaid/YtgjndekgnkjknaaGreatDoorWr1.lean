/- Rows of pairs of the call's own: sorted, appended, joined: contracts of slices.SortFunc, Grow, Concat at pairs. -/
import Derived.Test.YtgjndekgnkjknaaGreatDoorTsH
namespace Go.Proofs.YtgjndekgnkjknaaGreatDoor.wr
open Go.RowKit Go.Lib Go.Sort
open Go.Proofs.YtgjndekgnkjknaaGreatDoor.tb
set_option linter.unusedVariables false
/-- A pair's cells. -/
def pcl (q : Int × Int) : List Value := [.int .i64 q.1, .int .i32 q.2]
theorem pc_pcl (l : List (Int × Int)) : pc l = l.flatMap pcl := rfl
theorem pc_ones (l : List (Int × Int)) : ∀ u ∈ pc l, u.oneCell' = true := by
  intro u hu
  unfold pc at hu
  obtain ⟨q, _, hq⟩ := List.mem_flatMap.1 hu
  simp at hq
  rcases hq with rfl | rfl <;> rfl
def PO (w : World) (B : Nat) (v : Value) (l : List (Int × Int)) : Prop := w.ownsRow B 26 2 v l.length (pc l)
theorem flat_pc (d : Array (Int × Int)) : flatK pcl 2 d = (pc d.toList).toArray := by
  refine ext_get! (by simp [pc_len]) fun t ht => ?_
  have ht' : t < d.size * 2 := by simpa using ht
  rw [get_flatK _ _ _ t ht']
  have hd : t / 2 < d.size := by omega
  have hl : t / 2 < d.toList.length := by simpa using hd
  obtain ⟨a, b⟩ := pc_get d.toList (t / 2) hl
  have hg : d[t / 2]! = d.toList.getD (t / 2) (0, 0) := by
    rw [getElem!_pos d _ hd]; simp [List.getD, hd]
  rw [hg]
  have hlen : t < (pc d.toList).length := by rw [pc_len]; simpa using ht'
  have hx : (pc d.toList).toArray[t]! = (pc d.toList)[t] := by rw [getElem!_pos _ t (by simpa using hlen)]; simp
  rw [hx]
  have key : ∀ v : Value, (pc d.toList)[t]? = some v → (pc d.toList)[t] = v := fun v h => by
    rw [List.getElem?_eq_getElem hlen] at h; injection h
  have h2 : t % 2 = 0 ∨ t % 2 = 1 := by omega
  rcases h2 with h2 | h2
  · rw [h2]; symm; apply key; rw [show t = t / 2 * 2 by omega]; rw [show t / 2 * 2 / 2 = t / 2 by omega]; exact a
  · rw [h2]; symm; apply key; rw [show t = t / 2 * 2 + 1 by omega]; rw [show (t / 2 * 2 + 1) / 2 = t / 2 by omega]; exact b
theorem own_sortedP {w : World} {base : Nat} {e : TypeId} {g n cap q : Nat} {l : List (Int × Int)} (h : w.ownsRow base e 2 (.slice (some ⟨g, 0, none⟩) n cap) n (pc l)) (d : Array (Int × Int)) (os : Array Obj) (hd : d.size = n) :
    (sortWorldK pcl 2 w g 0 q d os).ownsRow base e 2 (.slice (some ⟨g, 0, none⟩) n cap) n (pc d.toList) := by
  unfold sortWorldK putRowK
  refine own_grow ?_ os
  have := own_put (q := q) h (flatK pcl 2 d) (by simp [hd])
  rw [show (flatK pcl 2 d).toList = pc d.toList by rw [flat_pc]] at this
  exact this
theorem sortedP_grown (w : World) (g q : Nat) (d : Array (Int × Int)) (os : Array Obj) : w.grownBy (sortWorldK pcl 2 w g 0 q d os) (some g) := by
  refine ⟨rfl, rfl, rfl, ?_, fun k hk hne => ?_⟩
  · unfold sortWorldK; rw [size_grow, size_putRowK]; show w.heap.size ≤ w.heap.size + _; omega
  · unfold sortWorldK putRowK
    rw [heap_grow_old _ os (by simpa [putRow, mapBlock, Sort.ahead] using hk)]
    have h : g ≠ k := fun h => hne (by rw [h])
    simp [putRow, mapBlock, Sort.ahead, Array.getElem?_modify, h]
theorem holds_pairs {w : World} {base : Nat} {e : TypeId} {v : Value} {n : Nat} {l : List (Int × Int)} (h : w.ownsRow base e 2 v n (pc l)) (hv : v ≠ .slice none 0 0) :
    ∃ g cap, v = .slice (some ⟨g, 0, none⟩) n cap ∧ base ≤ g ∧ g < w.heap.size ∧ n ≤ cap ∧ cap ≤ maxLen ∧ HoldsK pcl 2 w g 0 l.toArray := by
  obtain ⟨g, cap, h1, h2, h3, h4, h5, h6⟩ := own_flat h hv
  refine ⟨g, cap, h1, h2, h3, h4, h5, ?_⟩
  unfold HoldsK
  rw [flat_pc]
  simpa using h6
/-- Which of two pairs stands ahead. -/
def cmpP (a b : Int × Int) : Int := cmp3 a.1 b.1
theorem rowsC_any (x y : Int × Int) (W : World) : Calls Tryz.prog 12 #[.agg #[.int .i64 x.1, .int .i32 x.2], .agg #[.int .i64 y.1, .int .i32 y.2]] W fun e w' => e = .returned (.int .i64 (cmpP x y)) ∧ ∃ q os', w' = grow (W.drewN q) os' := by
  have HC := Lib.hid (fun W' => compare_any x.1 y.1 W')
  unfold cmpP
  generalize cmp3 x.1 y.1 = r at *
  go_enter Tryz.func12, Tryz.ntmps12
  go_wp2_with (go_at_call 13; refine (HC.out _).mono ?_; rintro e w' ⟨rfl, rfl⟩)
  go_ret
  exact ⟨rfl, 0, _, by rw [alloc_eq_grow, alloc_eq_grow, grow_grow]; rfl⟩
theorem lt_cmpP (x y : Int × Int) : ltOf cmpP x y = decide (x.1 < y.1) := by
  unfold ltOf cmpP cmp3
  by_cases h1 : x.1 < y.1
  · simp [h1]
  · by_cases h2 : y.1 < x.1 <;> simp [h1, h2]
theorem swo_cmpP : SWO (ltOf cmpP) where
  irrefl x := by rw [lt_cmpP]; simp
  trans x y z h1 h2 := by rw [lt_cmpP] at *; simp at *; omega
  ntrans x y z h1 h2 := by rw [lt_cmpP] at *; simp at *; omega
theorem sortedP_arr {d d' : Array (Int × Int)} (hp : Go.Sort.PermIn 0 d.size d d') (hs : Go.Sort.SortedIn (fun a b : Int × Int => decide (a.1 < b.1)) 0 d.size d') :
    d'.size = d.size ∧ d'.toList.Perm d.toList ∧ d'.toList.Pairwise (fun a b => a.1 ≤ b.1) := by
  obtain ⟨h1, _, h3⟩ := hp
  have e1 : d.extract 0 d.size = d := by simp
  have e2 : d'.extract 0 d.size = d' := by rw [← h1]; simp
  rw [e1, e2] at h3
  refine ⟨h1, h3, ?_⟩
  rw [List.pairwise_iff_getElem]
  intro i j hi hj hij
  simp at hi hj
  have := hs i j (Nat.zero_le _) hij (by omega)
  rw [getElem!_pos d' i hi, getElem!_pos d' j hj] at this
  simp at this
  simpa using this
theorem po_form {w : World} {B : Nat} {v : Value} {l : List (Int × Int)} (h : PO w B v l) (hne : l ≠ []) : v ≠ .slice none 0 0 := by
  rintro rfl
  obtain ⟨h1, ⟨_, h0⟩ | ⟨g, cap, cur, h0, _⟩⟩ := h
  · exact hne (List.length_eq_zero_iff.1 h0)
  · cases h0
set_option maxRecDepth 100000 in
set_option maxHeartbeats 1000000 in
theorem sortP_any (v : Value) (l : List (Int × Int)) (B : Nat) (w : World) (h : PO w B v l) (hne : l ≠ []) (hs : l.length ≤ 1000000000) :
    Calls Tryz.prog 11 #[v, .func (.func 12) #[] #[]] w fun e w' => e = .returned (.tuple #[]) ∧ ∃ m : List (Int × Int), m.length = l.length ∧ m.Perm l ∧ m.Pairwise (fun a b => a.1 ≤ b.1) ∧ PO w' B v m ∧ w.grownBy w' v.ownBlock := by
  have eg : ∀ args w, (callFunc 12 args).run Tryz.prog w = .ok (.enter 12 args) w := enters_of Tryz.func12 (by kernel_rfl) rfl
  obtain ⟨g, cap, rfl, b1, b2, b3, b4, hH⟩ := holds_pairs h (po_form h hne)
  have hcon := AnyQ.slices_SortFunc Tryz.sortPairs 2 Tryz.isAgg26 Tryz.sizeOf26 pcl (fun _ => rfl) (fun x v hv => by simp [pcl] at hv; rcases hv with rfl | rfl <;> rfl) cmpP swo_cmpP 12 #[] g 0 cap l.toArray w eg (fun _ _ _ _ x y => rowsC_any x y _) hH b2 (by simp; omega)
  have e : (fun a b : Int × Int => decide (a.1 < b.1)) = ltOf cmpP := by funext a b; rw [lt_cmpP]
  rw [List.size_toArray] at hcon
  refine hcon.mono ?_
  rintro e1 w' ⟨rfl, d', n, os, hp, hs2, rfl⟩
  have hx := sortedP_arr (d := l.toArray) (d' := d') (by simpa using hp) (by rw [e]; simpa using hs2)
  have hl : d'.toList.length = l.length := by have := hx.1; simpa using this
  refine ⟨rfl, d'.toList, hl, by simpa using hx.2.1, hx.2.2, ?_, sortedP_grown w g n d' os⟩
  unfold PO
  rw [hl]
  exact own_sortedP h d' os (by have := hx.1; simpa using this)
theorem RowP.cells {w : World} {a : Addr} {n c : Nat} {l : List (Int × Int)} (h : RowP w (some a) n c l) : ∀ j u, (pc l)[j]? = some u → w.cell? (a.add j) = some u := by
  intro j u hu
  have hj : j < l.length * 2 := by rw [← pc_len]; exact (List.getElem?_eq_some_iff.1 hu).1
  have hl := h.len
  obtain ⟨a', he, _, _, k0, k1⟩ := h.at (j / 2) (by omega)
  cases he
  obtain ⟨x, y⟩ := pc_get l (j / 2) (by omega)
  rw [add_of] at k1
  have h2 : j % 2 = 0 ∨ j % 2 = 1 := by omega
  rcases h2 with h2 | h2
  · rw [show j / 2 * 2 = j by omega] at x k0
    rw [← hu, x]; exact k0
  · rw [show j / 2 * 2 + 1 = j by omega] at y k1
    rw [← hu, y]; exact k1
theorem append_pairs {ops : Array Oper} {rest : List Oper} {o : Oper} {a : Act} {Q : Exit → Act → World → Prop} {w : World} (hgd : o.guard = none) (s x : Operand)
    (ho : o.op = .call { callee := .builtin .append, args := #[s, x], argTypes := #[22, 22] }) (B : Nat) (v : Value) (l : List (Int × Int)) (hs : a.eval s = v) (hown : PO w B v l)
    (A : Option Addr) (c n : Nat) (m : List (Int × Int)) (hx : a.eval x = .slice A n c) (hm : RowP w A n c m) (hlen : l.length + n ≤ 1000000000) (hB : B ≤ w.heap.size)
    (h : ∀ v' w', PO w' B v' (l ++ m) → w.grownBy w' v.ownBlock → wpList Tryz.prog ops Q rest (a.put o.dst v') w') : wpList Tryz.prog ops Q (o :: rest) a w := by
  obtain ⟨i0, hi0, hzz⟩ := Option.map_eq_some_iff.1 rpair_info
  simp only [Prod.mk.injEq] at hzz
  obtain ⟨hz, hsi, hby⟩ := hzz
  have hl := hm.len
  subst hl
  cases A with
  | none =>
    rcases hm with ⟨_, h0, rfl, rfl⟩ | ⟨g, h0, _⟩
    · exact wpList_append_own_none hgd s x 22 ho B 26 i0 2 Tryz.underlying22 hi0 v _ _ hs hown hx (h v w (by simpa using hown) (World.grownBy.refl _ _))
    · cases h0
  | some ad =>
    refine wpList_append_own w hgd s x 22 ho B 26 i0 _ 2 16 Tryz.underlying22 hi0 hz hsi hby rfl (by decide) v _ _ hs hown ad m.length c (pc m) hx (pc_len m) (RowP.cells hm) (pc_ones m) (by unfold maxLen; omega) (by omega) hB ?_
    intro v' w' h1 h2 _
    refine h v' w' ?_ h2
    unfold PO
    rw [pc_app, List.length_append]
    exact h1
set_option maxRecDepth 100000 in
set_option maxHeartbeats 2000000 in
/-- Room for n pairs. -/
theorem grow_any (n : Nat) (w : World) (h0 : 0 < n) (h1 : n ≤ 100000000) : Calls Tryz.prog 17 #[.slice none 0 0, .int .i64 n] w fun e w' => ∃ v, e = .returned v ∧ PO w' w.heap.size v [] ∧ Below w.heap.size w w' := by
  obtain ⟨i0, hi0, hzz⟩ := Option.map_eq_some_iff.1 rpair_info
  simp only [Prod.mk.injEq] at hzz
  obtain ⟨hz, hsi, hby⟩ := hzz
  have happ := run_append_nil_zeros (P := Tryz.prog) w 22 3 22 26 i0 _ .i64 .i64 Tryz.underlying22 Tryz.underlying3 hi0 hz n h0 (by omega) (by omega) (by rw [hby]; omega)
  have hge := grownCap_ge w n 0 26
  have hcm : grownCap w n 0 26 ≤ maxLen := grownCap_le_maxLen w n 0 26 (by unfold maxLen; omega)
  generalize hC : grownCap w n 0 26 = C at *
  clear hC
  generalize hZ : (Builtin.zeroCells (Value.cells (.agg #[.int .i64 0, .int .i32 0])) n ++ Builtin.zeroCells (Value.cells (.agg #[.int .i64 0, .int .i32 0])) (C - n)) = Z at happ
  have hZs : Z.size = C * 2 := by rw [← hZ]; simp [size_zeroCells, Value.cells]; omega
  clear hZ
  have hown : PO (w.drew.alloc (.cells Z 26)) w.heap.size (.slice (some ⟨w.heap.size, 0, none⟩) 0 C) [] := World.ownsRow_made w.drew Z C (Nat.le_refl _) hcm hZs
  have HOW := Lib.hid hown
  have HAP := Lib.hid happ
  have g0 : (0 : Int) < (n : Int) := by omega
  have g1 : (n : Int) ≤ 100000000 := by omega
  have gn : ¬ ((n : Int) < 0) := by omega
  unfold maxLen at hcm
  clear happ hown hZs hz hsi hby hi0
  go_enter Tryz.func17, Tryz.ntmps17
  go_wp2_with (at_builtin; refine Lib.wpList_append_run _ rfl _ _ _ _ rfl _ _ rfl rfl _ _ HAP.out ?_)
  go_ret
  exact ⟨_, rfl, HOW.out, ((Below.refl _ w).drew).alloc (Nat.le_refl _) _⟩
end Go.Proofs.YtgjndekgnkjknaaGreatDoor.wr
