/- find, Forward, Reverse, Size, Pairs of the landed table: contracts. -/
import Derived.Test.YtmpddibdggdngaaDoorTsB
import Derived.Test.YtmpddibdggdngaaDoorTb9
import Derived.Test.YtmpddibdggdngaaDoorShelf2
namespace Go.Proofs.YtmpddibdggdngaaDoor.tb
open Go.RowKit Go.Lib
set_option linter.unusedVariables false
theorem side_cases (r : Rw) (x : Int) (h : 1 ≤ r.c) : (x < r.f ∧ side r x = -1) ∨ (has r x ∧ side r x = 0) ∨ (r.f + r.c ≤ x ∧ side r x = 1) := by
  unfold side has
  by_cases h1 : x < r.f
  · rw [if_pos h1]; exact .inl ⟨h1, rfl⟩
  · rw [if_neg h1]
    by_cases h2 : r.f + r.c ≤ x
    · rw [if_pos h2]; exact .inr (.inr ⟨h2, rfl⟩)
    · rw [if_neg h2]; exact .inr (.inl ⟨by omega, rfl⟩)
theorem getD_get (l : List Rw) (i : Nat) (h : i < l.length) : l.getD i default = l[i] := by simp [List.getD, List.getElem?_eq_getElem h]
/-- What find answers. -/
structure FindP (l : List Rw) (x : Int) (i : Nat) : Prop where
  le : i ≤ l.length
  lo : ∀ j (h : j < l.length), j < i → l[j].f + l[j].c ≤ x
  hi : ∀ j (h : j < l.length), i ≤ j → x < l[j].f + l[j].c
theorem find_lk {l : List Rw} {x : Int} {i : Nat} (h : FindP l x i) (hd : Dis l) (hok : ∀ r ∈ l, r.ok) :
    (∃ hi : i < l.length, side (l.getD i default) x = 0 ∧ has l[i] x ∧ lk (rps l) x = some (l[i].t + (x - l[i].f))) ∨ (¬ (i < l.length ∧ side (l.getD i default) x = 0) ∧ lk (rps l) x = none) := by
  by_cases hi : i < l.length
  · have c1 := (hok _ (List.getElem_mem hi)).c1
    have k := side_cases l[i] x c1
    have h2 := h.hi i hi (Nat.le_refl _)
    rw [getD_get l i hi]
    rcases k with ⟨k1, k2⟩ | ⟨k1, k2⟩ | ⟨k1, k2⟩
    · right
      refine ⟨by rw [k2]; simp, lk_no fun r hr hh => ?_⟩
      obtain ⟨j, hj, rfl⟩ := List.getElem_of_mem hr
      unfold has at hh
      by_cases hji : j < i
      · have := h.lo j hj hji; omega
      · by_cases e : j = i
        · subst e; omega
        · have := List.pairwise_iff_getElem.1 hd i j hi hj (by omega); omega
    · exact .inl ⟨hi, k2, k1, lk_some hd (List.getElem_mem hi) k1⟩
    · omega
  · right
    refine ⟨fun h => hi h.1, lk_no fun r hr hh => ?_⟩
    obtain ⟨j, hj, rfl⟩ := List.getElem_of_mem hr
    unfold has at hh
    have := h.lo j hj (by omega)
    omega
end Go.Proofs.YtmpddibdggdngaaDoor.tb
namespace Go.Proofs.YtmpddibdggdngaaDoor.tb
open Go.RowKit Go.Lib
set_option linter.unusedVariables false
theorem idx_rev (p : Int) : ∀ (l : List Rw) (i : Nat), (∀ r ∈ l, r.ok) →
    (idxByFrom (fun (_ y : Rw) => tel y p) default l i = -1 ∧ rev (rps l) p = -1) ∨ ∃ k, k < l.length ∧ idxByFrom (fun (_ y : Rw) => tel y p) default l i = ((i + k : Nat) : Int) ∧ tel (l.getD k default) p = true ∧ rev (rps l) p = (l.getD k default).f + (p - (l.getD k default).t)
  | [], i, _ => .inl ⟨rfl, rfl⟩
  | r :: l, i, hok => by
    rw [rev_rps, List.find?_cons]
    unfold idxByFrom
    cases h : tel r p with
    | true => exact .inr ⟨0, by simp, by simp, by simpa using h, by simp⟩
    | false =>
      have ih := idx_rev p l (i + 1) (fun s hs => hok s (List.mem_cons_of_mem _ hs))
      rw [rev_rps] at ih
      rcases ih with ⟨h1, h2⟩ | ⟨k, h1, h2, h3, h4⟩
      · exact .inl ⟨by simpa using h1, h2⟩
      · exact .inr ⟨k + 1, by simp; omega, by simp only [Bool.false_eq_true, if_false]; rw [h2]; congr 1; omega, by simpa using h3, by simpa using h4⟩
/-- A row as the code holds it. -/
def OkR : Type := {r : Rw // r.ok}
instance : Inhabited OkR := ⟨⟨⟨0, 0, 1⟩, ⟨by simp, by simp, by simp, by simp, by simp⟩⟩⟩
def okl (l : List Rw) (h : ∀ r ∈ l, r.ok) : List OkR := l.pmap (fun r h => (⟨r, h⟩ : OkR)) h
theorem okl_len (l : List Rw) (h : ∀ r ∈ l, r.ok) : (okl l h).length = l.length := by
  unfold okl
  exact List.length_pmap
theorem okl_at (l : List Rw) (h : ∀ r ∈ l, r.ok) (j : Nat) (hj : j < l.length) : ((okl l h)[j]!).1 = l.getD j default := by
  rw [getElem!_pos (okl l h) j (by rw [okl_len]; exact hj)]
  unfold okl
  rw [getD_get l j hj]
  exact congrArg Subtype.val (List.getElem_pmap (fun r h => (⟨r, h⟩ : OkR)) h (by simpa using hj))
theorem okl_idx (p : Int) : ∀ (l : List Rw) (h : ∀ r ∈ l, r.ok) (i : Nat), idxByFrom (fun (_ y : OkR) => tel y.1 p) default (okl l h) i = idxByFrom (fun (_ y : Rw) => tel y p) default l i
  | [], _, _ => rfl
  | r :: l, h, i => by
    have ih := okl_idx p l (fun s hs => h s (List.mem_cons_of_mem _ hs)) (i + 1)
    show (if tel r p then (i : Int) else idxByFrom (fun (_ y : OkR) => tel y.1 p) default (okl l _) (i + 1)) = (if tel r p then (i : Int) else idxByFrom (fun (_ y : Rw) => tel y p) default l (i + 1))
    rw [ih]
end Go.Proofs.YtmpddibdggdngaaDoor.tb
namespace Go.Proofs.YtmpddibdggdngaaDoor.tb
open Go.RowKit Go.Lib
set_option linter.unusedVariables false
theorem take_siz (l : List Rw) (i : Nat) (hi : i < l.length) : siz (l.take (i + 1)) = siz (l.take i) + (l.getD i default).c := by
  rw [getD_get l i hi, List.take_add_one, List.getElem?_eq_getElem hi, siz_app]
  simp [siz]
theorem siz_take : ∀ (l : List Rw) (i : Nat), (∀ r ∈ l, r.ok) → 0 ≤ siz (l.take i) ∧ siz (l.take i) ≤ siz l
  | [], i, _ => by simp [siz]
  | r :: l, 0, h => by
    have := (siz_take l 0 (fun s hs => h s (List.mem_cons_of_mem _ hs))).2
    have c1 := (h r (List.mem_cons_self ..)).c1
    simp [siz] at this ⊢
    omega
  | r :: l, i + 1, h => by
    have := siz_take l i (fun s hs => h s (List.mem_cons_of_mem _ hs))
    have c1 := (h r (List.mem_cons_self ..)).c1
    simp [siz] at this ⊢
    omega
set_option maxRecDepth 100000 in
set_option maxHeartbeats 2000000 in
theorem size_any (A : Option Addr) (n c : Nat) (l : List Rw) (w : World) (h : RowRw w A c l) (hn : n = l.length) (hok : ∀ r ∈ l, r.ok) (hs : n ≤ 100000000) (hz : siz l ≤ 1000000000) :
    Calls Tryd.prog 57 #[.agg #[.slice A n c]] w fun e w' => e = .returned (.int .i64 (siz l)) ∧ Below w.heap.size w w' := by
  have H := Lib.hid h; have HN := Lib.hid hn; have HO := Lib.hid hok
  obtain ⟨Z, hZ⟩ : ∃ Z, Z = siz l := ⟨_, rfl⟩
  have HZ := Lib.hid hZ
  rw [← hZ] at hz ⊢
  clear h hn hok hZ
  go_enter Tryd.func57, Tryd.ntmps57
  go_wp2
  go_loopw [3, 9] (fun z i wr => ∃ j : Nat, j ≤ n ∧ i = .int .i64 j ∧ z = .int .i64 (siz (l.take j)) ∧ Below w.heap.size w wr) (fun _ i _ => n - (RowKit.intOf i).toNat)
  case atStart => exact ⟨0, Nat.zero_le _, rfl, rfl, by repeat (first | (with_reducible exact Below.refl _ _) | (with_reducible refine Below.setCell ?_ (by simp) _) | (with_reducible refine Below.alloc ?_ (by simp) _))⟩
  case round =>
    obtain ⟨j, hj, rfl, rfl, hB⟩ := hrel
    have HB := Lib.hid hB
    clear hB
    by_cases hlt : j < n
    · have hjl : j < l.length := by have := HN.out; omega
      obtain ⟨g, o, rfl, a1, a2, a3, k0, k1, k2, hmem⟩ := (H.out.below HB.out).at j hjl
      rw [← HN.out] at a1
      unfold maxLen at a2
      obtain ⟨f0, c1, f1, t0, t1⟩ := HO.out _ hmem
      have b1 := siz_take l j HO.out
      have b2 := siz_take l (j + 1) HO.out
      have hT := take_siz l j hjl
      rw [← HZ.out] at b1 b2
      have hw : IntKind.i64.wrap (siz (l.take j) + (l.getD j default).c) = siz (l.take (j + 1)) := by rw [← hT]; exact wrap64 (by omega) (by omega)
      have b3 := b2.1; have b4 := b2.2
      clear hmem hT b1 b2 hjl
      generalize hS2 : siz (l.take (j + 1)) = S2 at *
      have HS2 := Lib.hid hS2
      clear hS2
      generalize siz (l.take j) = S1 at *
      generalize l.getD j default = r at *
      go_wp2_with fail
      go_roundw
      case rel => exact ⟨j + 1, by omega, by go_num, by rw [HS2.out], HB.out.alloc HB.out.size _⟩
      case measure => simp [RowKit.intOf]; omega
    · obtain rfl : j = n := by omega
      have e : siz (l.take j) = Z := by rw [HZ.out, show l.take j = l by rw [HN.out]; exact List.take_length]
      rw [e]
      clear e
      go_wp2_with fail
      go_ret
      exact ⟨rfl, HB.out⟩
theorem rowP_ofE {B n : Nat} {e : TypeId} {v : Value} {l : List (Int × Int)} {w : World} (h : w.ownsRow B e 2 v n (pc l)) : ∃ A c, v = .slice A n c ∧ RowP w A n c l := by
  have hn : l.length = n := by have := h.1; rw [pc_len] at this; omega
  obtain ⟨hl, ⟨rfl, h0⟩ | ⟨g, cap, cur, rfl, hB, hg, h1, h2, h3, h4⟩⟩ := h
  · refine ⟨none, 0, by rw [h0], .inl ⟨rfl, h0, rfl, List.length_eq_zero_iff.1 (by omega)⟩⟩
  · refine ⟨_, _, rfl, .inr ⟨_, rfl, h1, h2, hn, fun i hi => ?_⟩⟩
    have hx := pc_get l i (by omega)
    have hc : ∀ k, k < n * 2 → w.cell? ((⟨g, 0, none⟩ : Addr).add k) = (pc l)[k]? := fun k hk => by
      have e : (⟨g, 0, none⟩ : Addr).add k = ⟨g, k, none⟩ := by unfold Addr.add; by_cases h : k = 0 <;> simp [h]
      rw [e, ← h4, List.getElem?_take_of_lt hk, Array.getElem?_toList]
      simp [World.cell?, hg]
    rw [add_of, hc _ (by omega), hc _ (by omega)]
    exact hx
theorem rpair_info : (Tryd.prog.info? 41).map (fun i => (i.zero, i.size, i.bytes)) = some (some (.agg #[.int .i64 0, .int .i32 0]), 2, 16) := by kernel_rfl
theorem mk_rpairs (n : Nat) (h : n ≤ 1000000000) (w : World) : (Instr.makeSlice 37 (.int .i64 0) (.int .i64 (n : Int))).run Tryd.prog w = .ok (.slice (some ⟨w.heap.size, 0, none⟩) 0 n) (w.alloc (.cells (madeCells #[.int .i64 0, .int .i32 0] (n * 2)) 41)) := by
  obtain ⟨i, hi, hzz⟩ := Option.map_eq_some_iff.1 rpair_info
  simp only [Prod.mk.injEq] at hzz
  obtain ⟨hz, hs, hb⟩ := hzz
  have hr := run_make (P := Tryd.prog) w 37 41 i (.agg #[.int .i64 0, .int .i32 0]) Tryd.underlying37 hi hz .i64 .i64 0 (n : Int) (Int.le_refl _) (by omega) (by rw [hb]; omega) (by omega)
  simp only [Int.toNat_natCast, hs] at hr
  exact hr
theorem kind_ne {w : World} {B : Nat} {e e2 : TypeId} {k n X : Nat} {v : Value} {xs : List Value} {cs : Array Value} {fz : Nat × Nat} (h : w.ownsRow B e k v n xs) (hX : w.heap[X]? = some (.cells cs e2 fz)) (hne : e ≠ e2) : v.ownBlock ≠ some X := by
  obtain ⟨_, ⟨rfl, _⟩ | ⟨g, cap, cur, rfl, _, hg, _⟩⟩ := h
  · simp [Value.ownBlock]
  · intro hx
    simp [Value.ownBlock] at hx
    subst hx
    rw [hX] at hg
    injection hg with hg
    injection hg with _ h2
    exact hne h2.symm
/-- A row in a block of its own, as the loops hold it. -/
structure RB (w : World) (X : Nat) (r : Rw) : Prop where
  b : ∃ cs fz, w.heap[X]? = some (.cells cs 102 fz)
  f : F3 w X (.int .i64 r.f) (.int .i32 r.t) (.int .i64 r.c)
theorem RB.new (w : World) (r : Rw) : RB (w.alloc (.cells #[.int .i64 r.f, .int .i32 r.t, .int .i64 r.c] 102)) w.heap.size r :=
  ⟨⟨_, _, heap_alloc_new w _⟩, f3_new w _ _ _ _⟩
theorem RB.below {w w' : World} {X B : Nat} {r : Rw} (h : RB w X r) (hb : Below B w w') (hB : X < B) : RB w' X r := by
  obtain ⟨⟨cs, fz, hx⟩, hf⟩ := h
  exact ⟨⟨cs, fz, by rw [hb.block X hB]; exact hx⟩, hf.below hb hB⟩
theorem RB.grown {w w' : World} {X : Nat} {r : Rw} {g : Option Nat} (h : RB w X r) (hg : w.grownBy w' g) (hne : g ≠ some X) : RB w' X r := by
  obtain ⟨⟨cs, fz, hx⟩, hf⟩ := h
  have hlt := hf.lt
  have e := hg.block X hlt (fun h => hne h.symm)
  have hc : ∀ i, w'.cell? ⟨X, i, none⟩ = w.cell? ⟨X, i, none⟩ := fun i => World.cell?_of_block (w := w) (a := ⟨X, i, none⟩) e
  have hfz : ∀ i, w'.frozen? ⟨X, i, none⟩ = w.frozen? ⟨X, i, none⟩ := fun i => World.frozen?_of_block (w := w) (a := ⟨X, i, none⟩) e
  exact ⟨⟨cs, fz, by rw [e]; exact hx⟩, ⟨Nat.lt_of_lt_of_le hlt hg.size, (hc 0).trans hf.c0, (hc 1).trans hf.c1, (hc 2).trans hf.c2, fun i => (hfz i).trans (hf.fr i)⟩⟩
theorem take_rps (l : List Rw) (i : Nat) (hi : i < l.length) : rps (l.take (i + 1)) = rps (l.take i) ++ sqp (l.getD i default).f (l.getD i default).t (l.getD i default).c.toNat := by
  rw [getD_get l i hi, List.take_add_one, List.getElem?_eq_getElem hi, rps_app]
  simp [rps, rp]
theorem rps_take_len (l : List Rw) (i : Nat) : (rps (l.take i)).length ≤ (rps l).length := by
  have : rps l = rps (l.take i) ++ rps (l.drop i) := by rw [← rps_app, List.take_append_drop]
  rw [this, List.length_append]; omega
set_option maxRecDepth 100000 in
set_option maxHeartbeats 4000000 in
theorem pairs_own (A : Option Addr) (n c : Nat) (l : List Rw) (N : Nat) (w : World) (h : RowRw w A c l) (hn : n = l.length) (hok : ∀ r ∈ l, r.ok) (hN : N = (rps l).length) (hs : N ≤ 100000000) :
    Calls Tryd.prog 43 #[.agg #[.slice A n c]] w fun e w' => ∃ A c, e = .returned (.slice A N c) ∧ w'.ownsRow w.heap.size 41 2 (.slice A N c) N (pc (rps l)) ∧ Below w.heap.size w w' := by
  obtain ⟨i0, hi0, hzz⟩ := Option.map_eq_some_iff.1 rpair_info
  simp only [Prod.mk.injEq] at hzz
  obtain ⟨hz, hsi, hby⟩ := hzz
  have hmk := fun w2 => mk_rpairs N (by omega) w2
  have hls := len_siz l hok
  have hns := siz_len l hok
  have hn0 : n ≤ 100000000 := by omega
  have hS := fun w2 h2 => size_any A n c l w2 h2 hn hok hn0 (by omega)
  rw [← hns, ← hN] at hS
  have HS := Lib.hid hS
  have H := Lib.hid h; have HN := Lib.hid hn; have HO := Lib.hid hok; have HNN := Lib.hid hN
  clear h hn hok hS hls hns hN
  go_enter Tryd.func43, Tryd.ntmps43
  go_wp2_with (go_at_call 57; refine (HS.out _ (H.out.below (by repeat (first | (with_reducible exact Below.refl _ _) | (with_reducible refine Below.setCell ?_ (by simp) _) | (with_reducible refine Below.alloc ?_ (by simp) _))))).mono ?_; rintro e1 w1 ⟨rfl, hb1⟩; have G1 := Lib.hid ((f1_new w (.slice A n c) 82).below hb1 (by simp)); obtain ⟨_, b0, _⟩ := G1.out; have HB1 := Lib.hid (((Below.refl w.heap.size w).alloc (Nat.le_refl _) (.cells #[.slice A n c] 82)).trans (hb1.mono (by simp))); clear hb1)
  go_loopw [3, 13] (fun v i wr => ∃ j : Nat, j ≤ n ∧ i = .int .i64 j ∧ wr.ownsRow w.heap.size 41 2 v (rps (l.take j)).length (pc (rps (l.take j))) ∧ Below w.heap.size w wr) (fun _ i _ => n - (RowKit.intOf i).toNat)
  case atStart => exact ⟨0, Nat.zero_le _, rfl, World.ownsRow_made w1 _ N HB1.out.size (by unfold maxLen; omega) (by simp [madeCells]), HB1.out.alloc HB1.out.size _⟩
  case round =>
    obtain ⟨j, hj, rfl, hown, hB⟩ := hrel
    have HOW := Lib.hid hown; have HB := Lib.hid hB; have hz1 := hB.size
    clear hown hB
    by_cases hlt : j < n
    · have hjl : j < l.length := by have := HN.out; omega
      obtain ⟨g, o, rfl, a1, a2, a3, k0, k1, k2, hmem⟩ := (H.out.below HB.out).at j hjl
      rw [← HN.out] at a1
      unfold maxLen at a2
      obtain ⟨f0, c1, f1, t0, t1⟩ := HO.out _ hmem
      have HT := Lib.hid (take_rps l j hjl)
      have HL2 := Lib.hid (rps_take_len l (j + 1))
      clear hmem hjl
      generalize l.getD j default = r at *
      generalize hR0 : rps (l.take j) = R0 at *
      clear hR0
      have HE := Lib.hid (fun w => end_any r.f r.t r.c w (by omega) (by omega))
      go_wp2_with fail
      obtain ⟨X, hX⟩ : ∃ X, X = wr.heap.size := ⟨_, rfl⟩
      have HX := Lib.hid hX
      have hXw : w.heap.size ≤ X := by omega
      have HO1 := Lib.hid (HOW.out.alloc (.cells #[.int .i64 r.f, .int .i32 r.t, .int .i64 r.c] 102))
      have HR1 := Lib.hid (RB.new wr r)
      have HB2 := Lib.hid (HB.out.alloc hz1 (.cells #[.int .i64 r.f, .int .i32 r.t, .int .i64 r.c] 102))
      rw [← hX] at *
      clear hX
      go_loopw [3, 6] (fun v x wr2 => ∃ k : Nat, (k : Int) ≤ r.c ∧ x = .int .i64 (r.f + k) ∧ wr2.ownsRow w.heap.size 41 2 v (R0.length + k) (pc (R0 ++ sqp r.f r.t k)) ∧ RB wr2 X r ∧ Below w.heap.size w wr2) (fun _ x _ => (r.f + r.c - RowKit.intOf x).toNat)
      case atStart => exact ⟨0, by omega, by simp, by simpa [sqp] using HO1.out, HR1.out, HB2.out⟩
      case round =>
        obtain ⟨k, hk, rfl, hown, hrb, hB⟩ := hrel
        have HOK := Lib.hid hown; have HRB := Lib.hid hrb; have HBK := Lib.hid hB; have hz2 := hB.size
        obtain ⟨lt3, x0, x1, x2, x3⟩ := hrb.f
        clear hown hrb hB
        by_cases hkc : (k : Int) < r.c
        · have hle : R0.length + (k + 1) ≤ N := by
            have h1 := HL2.out
            rw [HT.out, List.length_append, sqp_len, ← HNN.out] at h1
            omega
          have HSG : Hid (∀ w, Calls Tryd.prog 59 #[.agg #[.int .i64 r.f, .int .i32 r.t, .int .i64 r.c], .int .i64 (r.f + (k : Int))] w fun e w' => e = .returned (.int .i32 (r.t + (k : Int))) ∧ Below w.heap.size w w') := Lib.hid (fun w => (sign_any r.f r.t r.c (r.f + k) w (by omega) (by omega) (by omega) (by omega) (by omega) (by omega)).mono fun e w' h => ⟨by rw [h.1]; congr 2; omega, h.2⟩)
          have hw1 : IntKind.i64.wrap (r.f + (k : Int) + 1) = r.f + (k : Int) + 1 := wrap64 (by omega) (by omega)
          have HC1 := Lib.hid c1
          go_wp2_with (first
            | (go_at_call 58; refine (HE.out _).mono ?_; rintro e1 w3 ⟨rfl, hb3⟩; have R3 := Lib.hid (HRB.out.below hb3 lt3); obtain ⟨y3, y0, y1, y2, y4⟩ := R3.out.f; have O3 := Lib.hid (owns_below2 HOK.out hb3 (Nat.le_refl _)); have B3 := Lib.hid (HBK.out.trans (hb3.mono hz2)); have z3 : w.heap.size ≤ w3.heap.size := Nat.le_trans hz2 hb3.size; clear hb3)
            | (go_at_call 59; refine (HSG.out _).mono ?_; rintro e1 w4 ⟨rfl, hb4⟩; have R4 := Lib.hid (R3.out.below hb4 y3); obtain ⟨v3, v0, v1, v2, v4⟩ := R4.out.f; have O4 := Lib.hid (owns_below2 O3.out hb4 (Nat.le_refl _)); have B4 := Lib.hid (B3.out.trans (hb4.mono z3)); have z4 : w.heap.size ≤ w4.heap.size := Nat.le_trans z3 hb4.size; clear hb4)
            | (at_builtin; refine wpList_append_own _ rfl _ _ 37 rfl w.heap.size 41 i0 _ 2 16 Tryd.underlying37 hi0 hz hsi hby rfl (by decide) _ _ _ rfl (O4.out.alloc _) ⟨w4.heap.size, 0, none⟩ 1 1 [.int .i64 (r.f + (k : Int)), .int .i32 (r.t + (k : Int))] rfl rfl (new_cells w4 _ _ _) (fun u hu => by simp at hu; rcases hu with rfl | rfl <;> rfl) (by unfold maxLen; omega) (by omega) (by first | omega | (simp; omega)) ?_; intro v5 w5 hown5 hgrow _; have HO5 := Lib.hid hown5; have HB5 := Lib.hid (below_own (B4.out.alloc z4 (.cells #[.int .i64 (r.f + (k : Int)), .int .i32 (r.t + (k : Int))] 41)) (by first | omega | (simp; omega)) (O4.out.alloc _) hgrow); have HR5 := Lib.hid ((R4.out.below ((Below.refl _ w4).alloc (Nat.le_refl _) (.cells #[.int .i64 (r.f + (k : Int)), .int .i32 (r.t + (k : Int))] 41)) v3).grown hgrow (kind_ne (O4.out.alloc _) (R4.out.below ((Below.refl _ w4).alloc (Nat.le_refl _) (.cells #[.int .i64 (r.f + (k : Int)), .int .i32 (r.t + (k : Int))] 41)) v3).b.choose_spec.choose_spec (by decide))); clear hown5 hgrow))
          go_roundw
          case rel => exact ⟨k + 1, by omega, by go_num, by rw [sqp, ← List.append_assoc, pc_app, pc_one]; exact HO5.out, HR5.out, HB5.out⟩
          case measure => simp [RowKit.intOf]; omega
        · have hkk : r.c.toNat = k := by omega
          have HF : Hid (wr.ownsRow w.heap.size 41 2 u3 (rps (l.take (j + 1))).length (pc (rps (l.take (j + 1))))) := Lib.hid (by
            have hH := HT.out
            rw [hkk] at hH
            rw [hH, List.length_append, sqp_len]
            exact HOK.out)
          have hge : ¬ r.f + (k : Int) < r.f + r.c := by omega
          clear hkk
          go_wp2_with (go_at_call 58; refine (HE.out _).mono ?_; rintro e1 w3 ⟨rfl, hb3⟩; have O3 := Lib.hid (owns_below2 HF.out hb3 (Nat.le_refl _)); have B3 := Lib.hid (HBK.out.trans (hb3.mono hz2)); clear hb3)
          go_roundw
          case rel => exact ⟨j + 1, by omega, by go_num, O3.out, B3.out⟩
          case measure => simp [RowKit.intOf]; omega
    · obtain rfl : j = n := by omega
      have e : l.take j = l := by rw [HN.out]; exact List.take_length
      rw [e] at HOW
      have e2 := HNN.out
      rw [← e2] at HOW
      obtain ⟨A2, c2, rfl, hrow⟩ := rowP_ofE HOW.out
      clear hrow hlt e e2 HNN
      go_wp2_with fail
      go_ret
      exact ⟨A2, c2, rfl, HOW.out, HB.out⟩
theorem pairs_any (A : Option Addr) (n c : Nat) (l : List Rw) (N : Nat) (w : World) (h : RowRw w A c l) (hn : n = l.length) (hok : ∀ r ∈ l, r.ok) (hN : N = (rps l).length) (hs : N ≤ 100000000) :
    Calls Tryd.prog 43 #[.agg #[.slice A n c]] w fun e w' => ∃ A c, e = .returned (.slice A N c) ∧ RowP w' A N c (rps l) ∧ Below w.heap.size w w' := by
  refine (pairs_own A n c l N w h hn hok hN hs).mono ?_
  rintro e w' ⟨A2, c2, rfl, h1, h2⟩
  obtain ⟨A3, c3, h3, h4⟩ := rowP_ofE h1
  injection h3 with h5 _ h6
  subst h5; subst h6
  exact ⟨A2, c2, rfl, h4, h2⟩
end Go.Proofs.YtmpddibdggdngaaDoor.tb
