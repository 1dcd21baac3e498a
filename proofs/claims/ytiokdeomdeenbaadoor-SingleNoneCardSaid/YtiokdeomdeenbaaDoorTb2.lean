/- Rows of pairs of layer 4; the document's answer: Put: a contract. -/
import Derived.Test.YtiokdeomdeenbaaDoorTb1
import Derived.Laws.MakeOwn
import Derived.OwnWalk
import Derived.Deep.LoopGhost
namespace Go.Proofs.YtiokdeomdeenbaaDoor.tb
open Go.RowKit Go.Lib
set_option linter.unusedVariables false
theorem pair_info : (Tryd.prog.info? 42).map (fun i => (i.zero, i.size, i.bytes)) = some (some (.agg #[.int .i64 0, .int .i32 0]), 2, 16) := by kernel_rfl
/-- Pairs as cells. -/
def pc (l : List (Int × Int)) : List Value := l.flatMap fun q => [.int .i64 q.1, .int .i32 q.2]
theorem pc_len (l : List (Int × Int)) : (pc l).length = l.length * 2 := by
  unfold pc
  induction l with
  | nil => rfl
  | cons q l ih => rw [List.flatMap_cons, List.length_append, ih, List.length_cons]; simp; omega
theorem pc_app (l m : List (Int × Int)) : pc (l ++ m) = pc l ++ pc m := by simp [pc]
theorem pc_one (q : Int × Int) : pc [q] = [.int .i64 q.1, .int .i32 q.2] := rfl
theorem pc_get : ∀ (l : List (Int × Int)) (i : Nat), i < l.length → (pc l)[i * 2]? = some (.int .i64 (l.getD i (0, 0)).1) ∧ (pc l)[i * 2 + 1]? = some (.int .i32 (l.getD i (0, 0)).2)
  | [], i, h => by simp at h
  | q :: l, 0, _ => by simp [pc]
  | q :: l, i + 1, h => by
    have ih := pc_get l i (by simpa using h)
    have e : pc (q :: l) = .int .i64 q.1 :: .int .i32 q.2 :: pc l := rfl
    rw [e, show (i + 1) * 2 = i * 2 + 1 + 1 by omega]
    simpa using ih
theorem rowP_of {B n : Nat} {v : Value} {l : List (Int × Int)} {w : World} (h : w.ownsRow B 42 2 v n (pc l)) : ∃ A c, v = .slice A n c ∧ RowP w A n c l := by
  have hn : l.length = n := by have := h.1; rw [pc_len] at this; omega
  obtain ⟨hl, ⟨rfl, h0⟩ | ⟨g, cap, cur, rfl, hB, hg, h1, h2, h3, h4⟩⟩ := h
  · refine ⟨none, 0, by rw [h0], .inl ⟨rfl, h0, rfl, List.length_eq_zero_iff.1 (by omega)⟩⟩
  · refine ⟨_, _, rfl, .inr ⟨_, rfl, h1, h2, hn, fun i hi => ?_⟩⟩
    have hx := pc_get l i (by omega)
    have hc : ∀ k, k < n * 2 → w.cell? ((⟨g, 0, none⟩ : Addr).add k) = (pc l)[k]? := fun k hk => by
      have e : (⟨g, 0, none⟩ : Addr).add k = ⟨g, k, none⟩ := by unfold Addr.add; by_cases h : k = 0 <;> simp [h]
      rw [e, ← h4, List.getElem?_take_of_lt hk, Array.getElem?_toList]
      simp [World.cell?, hg]
    rw [add_of, hc _ (by omega), hc _ (by omega)]
    exact hx
theorem owns_below2 {B B' : Nat} {e : TypeId} {v : Value} {k n : Nat} {xs : List Value} {wr w1 : World} (h : wr.ownsRow B e k v n xs) (hb : Below B' wr w1) (hB : wr.heap.size ≤ B') : w1.ownsRow B e k v n xs := by
  obtain ⟨hl, h | ⟨g, cap, cur, rfl, hB2, hg, h1, h2, h3, h4⟩⟩ := h
  · exact ⟨hl, .inl h⟩
  · have hlt : g < wr.heap.size := (Array.getElem?_eq_some_iff.1 hg).1
    exact ⟨hl, .inr ⟨g, cap, cur, rfl, hB2, (hb.block g (by omega)).trans hg, h1, h2, h3, h4⟩⟩
theorem below_own {B : Nat} {w wr w' : World} {e : TypeId} {k : Nat} {v : Value} {n : Nat} {xs : List Value} (hb : Below B w wr) (hB : B ≤ wr.heap.size) (ho : wr.ownsRow B e k v n xs) (hg : wr.grownBy w' v.ownBlock) : Below B w w' := by
  refine ⟨hg.os.trans hb.os, hg.tape.trans hb.tape, hg.output.trans hb.output, Nat.le_trans hb.size hg.size, fun i hi => ?_⟩
  rw [hg.block i (by omega) (fun e => by have := ho.lt i e.symm; omega)]
  exact hb.block i hi
theorem own_base {B B' : Nat} {e : TypeId} {k n : Nat} {v : Value} {xs : List Value} {w : World} (h : w.ownsRow B e k v n xs) (hB : B' ≤ B) : w.ownsRow B' e k v n xs := by
  obtain ⟨hl, h | ⟨g, cap, cur, rfl, hB2, hg, h1, h2, h3, h4⟩⟩ := h
  · exact ⟨hl, .inl h⟩
  · exact ⟨hl, .inr ⟨g, cap, cur, rfl, by omega, hg, h1, h2, h3, h4⟩⟩
theorem own_drewN {B : Nat} {e : TypeId} {k n m : Nat} {v : Value} {xs : List Value} {w : World} (h : w.ownsRow B e k v n xs) : (w.drewN m).ownsRow B e k v n xs := h
theorem new_cells (w : World) (x y : Value) (t : TypeId) : ∀ j u, ([x, y] : List Value)[j]? = some u → (w.alloc (.cells #[x, y] t)).cell? ((⟨w.heap.size, 0, none⟩ : Addr).add j) = some u := by
  intro j u hj
  have e : (⟨w.heap.size, 0, none⟩ : Addr).add j = ⟨w.heap.size, j, none⟩ := by unfold Addr.add; by_cases h : j = 0 <;> simp [h]
  rw [e, World.cell?_alloc_mark]
  match j, hj with
  | 0, hj => simpa using hj
  | 1, hj => simpa using hj
  | (j + 2), hj => simp at hj
/-- What is put, as it is built. -/
def upto (d : Bool) (out rest : List (Int × Int)) (p : Int × Int) : List (Int × Int) := if d then out ++ rest else out ++ put rest p
theorem upto_skip {out r : List (Int × Int)} {c p x y : Int} (h : ¬ c < x) : upto false (out ++ [(x, y)]) r (c, p) = upto false out ((x, y) :: r) (c, p) := by
  have e : put ((x, y) :: r) (c, p) = (x, y) :: put r (c, p) := by conv => lhs; unfold put
                                                                   rw [if_neg (show ¬ (c, p).1 < (x, y).1 from h)]
  unfold upto
  rw [e]
  simp
/-- A slice of the call's own that has these pairs. -/
def OwnP (B : Nat) (w : World) (l : List (Int × Int)) (e : Ending) (w' : World) : Prop := ∃ v, e = .returned v ∧ w'.ownsRow B 42 2 v l.length (pc l) ∧ Below B w w'
set_option maxRecDepth 100000 in
set_option maxHeartbeats 2000000 in
theorem refPut_any (A : Option Addr) (n cp : Nat) (l : List (Int × Int)) (c p : Int) (w : World) (h : RowP w A n cp l) (hn : n ≤ 100000) :
    Calls Tryd.prog 48 #[.slice A n cp, .agg #[.int .i64 c, .int .i32 p]] w (OwnP w.heap.size w (put l (c, p))) := by
  obtain ⟨i0, hi0, hzz⟩ := Option.map_eq_some_iff.1 pair_info
  simp only [Prod.mk.injEq] at hzz
  obtain ⟨hz, hsi, hby⟩ := hzz
  obtain ⟨R, hR⟩ : ∃ R, R = put l (c, p) := ⟨_, rfl⟩
  rw [← hR]
  have HR := Lib.hid hR; have H := Lib.hid h; have HL := Lib.hid h.len
  clear hR h
  go_enter Tryd.func48, Tryd.ntmps48
  go_wp2_with fail
  go_loopw [5, 6, 7] (fun v dv i wr => ∃ (j : Nat) (d : Bool) (out : List (Int × Int)), j ≤ n ∧ i = .int .i64 j ∧ dv = .bool d ∧ out.length = j + (if d then 1 else 0) ∧ upto d out (l.drop j) (c, p) = R ∧ wr.ownsRow (w.heap.size + 1) 42 2 v out.length (pc out) ∧ w.heap.size + 1 ≤ wr.heap.size ∧ Below (w.heap.size + 1) (w.alloc (.cells #[.int .i64 c, .int .i32 p] 42)) wr) (fun _ _ i _ => n - (RowKit.intOf i).toNat)
  case atStart => exact ⟨0, false, [], Nat.zero_le _, rfl, rfl, by simp, HR.out.symm, World.ownsRow_nil _ _ _ _, by simp, Below.refl _ _⟩
  case round =>
    obtain ⟨j, d, out, hj, rfl, rfl, hol, hup, hown, hz1, hB⟩ := hrel
    have hol2 : out.length ≤ j + 1 := by rw [hol]; split <;> omega
    have HOL := Lib.hid hol
    clear hol
    have HUP := Lib.hid hup; have HOW := Lib.hid hown; have HB := Lib.hid hB
    clear hup hown hB
    have b0 : wr.cell? ⟨w.heap.size, 0, none⟩ = some (.int .i64 c) := by
      rw [HB.out.cell (p := ⟨w.heap.size, 0, none⟩) (by simp), World.cell?_alloc_mark]; rfl
    have b1 : wr.cell? ⟨w.heap.size, 1, none⟩ = some (.int .i32 p) := by
      rw [HB.out.cell (p := ⟨w.heap.size, 1, none⟩) (by simp), World.cell?_alloc_mark]; rfl
    have HW : Hid (Below w.heap.size w wr) := Lib.hid (((Below.refl w.heap.size w).alloc (Nat.le_refl _) _).trans (HB.out.mono (by omega)))
    by_cases hlt : j < n
    · obtain ⟨a, rfl, a1, a2, c0, c1⟩ := (H.out.below HW.out).at j hlt
      unfold maxLen at a2
      have hd : Hid (l.drop j = l.getD j (0, 0) :: l.drop (j + 1)) := Lib.hid (by
        have hjl : j < l.length := by have := HL.out; omega
        rw [List.drop_eq_getElem_cons hjl]; simp [List.getD, List.getElem?_eq_getElem hjl])
      have HQ : Hid (∀ w2, Below w.heap.size w w2 → w2.cell? (a.add (j * 2)) = some (.int .i64 (l.getD j (0, 0)).1) ∧ w2.cell? ⟨(a.add (j * 2)).block, (a.add (j * 2)).off + 1, none⟩ = some (.int .i32 (l.getD j (0, 0)).2)) := Lib.hid (fun w2 h2 => by
        obtain ⟨a', ha', _, _, k0, k1⟩ := (H.out.below h2).at j hlt
        cases ha'
        exact ⟨k0, by rw [← k1]; rfl⟩)
      generalize l.getD j (0, 0) = q at *
      obtain ⟨x, y⟩ := q
      simp only at c0 c1
      have c2 : wr.cell? ⟨(a.add (j * 2)).block, (a.add (j * 2)).off + 1, none⟩ = some (.int .i32 y) := by rw [← c1]; rfl
      cases d with
      | true =>
        go_wp2_with fail
        go_quiet (fail)
        go_wp2_with (at_builtin; refine wpList_append_own _ rfl _ _ 33 rfl (w.heap.size + 1) 42 i0 _ 2 16 Tryd.underlying33 hi0 hz hsi hby rfl (by decide) _ _ _ rfl ((own_drewN HOW.out).alloc _) ⟨wr.heap.size, 0, none⟩ 1 1 [.int .i64 x, .int .i32 y] rfl rfl (new_cells (wr.drewN nq) _ _ _) (fun u hu => by simp at hu; rcases hu with rfl | rfl <;> rfl) (by unfold maxLen; omega) (by omega) (by first | omega | (simp; omega)) ?_; intro vw5 w5 hown5 hgrow _; have HO5 := Lib.hid hown5; have HB5 := Lib.hid (below_own ((below_drewN HB.out nq).alloc (by first | omega | (simp; omega)) _) (by first | omega | (simp; omega)) ((own_drewN HOW.out).alloc _) hgrow); clear hown5 hgrow; have qw5 : w.heap.size + 1 ≤ w5.heap.size := (by have := HB5.out.size; simp at this; omega))
        go_roundw
        case rel => exact ⟨j + 1, true, out ++ [(x, y)], by omega, by go_num, rfl, by have := HOL.out; simp at this ⊢; omega, by have := HUP.out; rw [hd.out] at this; unfold upto at this ⊢; simpa using this, by rw [pc_app, pc_one, List.length_append]; exact HO5.out, qw5, HB5.out⟩
        case measure => simp [RowKit.intOf]; omega
      | false =>
        by_cases hcx : c < x
        · go_wp2_with fail
          go_quiet (fail)
          go_wp2_with (first | (at_builtin; refine wpList_append_own _ rfl _ _ 33 rfl (w.heap.size + 1) 42 i0 _ 2 16 Tryd.underlying33 hi0 hz hsi hby rfl (by decide) _ _ _ rfl (HO5.out.alloc _) ⟨w5.heap.size, 0, none⟩ 1 1 [.int .i64 x, .int .i32 y] rfl rfl (new_cells w5 _ _ _) (fun u hu => by simp at hu; rcases hu with rfl | rfl <;> rfl) (by unfold maxLen; omega) (by omega) (by first | omega | (simp; omega)) ?_; intro vw6 w6 hown5 hgrow _; have HO6 := Lib.hid hown5; have HB6 := Lib.hid (below_own (HB5.out.alloc (by first | omega | (simp; omega)) _) (by first | omega | (simp; omega)) (HO5.out.alloc _) hgrow); clear hown5 hgrow; have qw6 : w.heap.size + 1 ≤ w6.heap.size := (by have := HB6.out.size; simp at this; omega)) | (at_builtin; refine wpList_append_own _ rfl _ _ 33 rfl (w.heap.size + 1) 42 i0 _ 2 16 Tryd.underlying33 hi0 hz hsi hby rfl (by decide) _ _ _ rfl ((own_drewN HOW.out).alloc _) ⟨wr.heap.size, 0, none⟩ 1 1 [.int .i64 c, .int .i32 p] rfl rfl (new_cells (wr.drewN nq) _ _ _) (fun u hu => by simp at hu; rcases hu with rfl | rfl <;> rfl) (by unfold maxLen; omega) (by omega) (by first | omega | (simp; omega)) ?_; intro vw5 w5 hown5 hgrow _; have HO5 := Lib.hid hown5; have HB5 := Lib.hid (below_own ((below_drewN HB.out nq).alloc (by first | omega | (simp; omega)) _) (by first | omega | (simp; omega)) ((own_drewN HOW.out).alloc _) hgrow); clear hown5 hgrow; have qw5 : w.heap.size + 1 ≤ w5.heap.size := (by have := HB5.out.size; simp at this; omega); have HW5 : Hid (Below w.heap.size w w5) := Lib.hid (((Below.refl w.heap.size w).alloc (Nat.le_refl _) _).trans (HB5.out.mono (by omega))); obtain ⟨k0, k1⟩ := HQ.out w5 HW5.out))
          go_roundw
          case rel => exact ⟨j + 1, true, out ++ [(c, p)] ++ [(x, y)], by omega, by go_num, rfl, by have := HOL.out; simp at this ⊢; omega, by have := HUP.out; rw [hd.out] at this; unfold upto put at this; unfold upto; simpa [hcx] using this, by rw [pc_app, pc_app, pc_one, pc_one, List.length_append, List.length_append]; exact HO6.out, qw6, HB6.out⟩
          case measure => simp [RowKit.intOf]; omega
        · have hcx' : ¬ c < x := hcx
          go_wp2_with fail
          go_quiet (fail)
          go_wp2_with (at_builtin; refine wpList_append_own _ rfl _ _ 33 rfl (w.heap.size + 1) 42 i0 _ 2 16 Tryd.underlying33 hi0 hz hsi hby rfl (by decide) _ _ _ rfl ((own_drewN HOW.out).alloc _) ⟨wr.heap.size, 0, none⟩ 1 1 [.int .i64 x, .int .i32 y] rfl rfl (new_cells (wr.drewN nq) _ _ _) (fun u hu => by simp at hu; rcases hu with rfl | rfl <;> rfl) (by unfold maxLen; omega) (by omega) (by first | omega | (simp; omega)) ?_; intro vw5 w5 hown5 hgrow _; have HO5 := Lib.hid hown5; have HB5 := Lib.hid (below_own ((below_drewN HB.out nq).alloc (by first | omega | (simp; omega)) _) (by first | omega | (simp; omega)) ((own_drewN HOW.out).alloc _) hgrow); clear hown5 hgrow; have qw5 : w.heap.size + 1 ≤ w5.heap.size := (by have := HB5.out.size; simp at this; omega))
          go_roundw
          case rel => exact ⟨j + 1, false, out ++ [(x, y)], by omega, by go_num, rfl, by have := HOL.out; simp at this ⊢; omega, by rw [← HUP.out, hd.out]; exact upto_skip (by omega), by rw [pc_app, pc_one, List.length_append]; exact HO5.out, qw5, HB5.out⟩
          case measure => simp [RowKit.intOf]; omega
    · obtain rfl : j = n := by omega
      have hdn : l.drop j = [] := List.drop_of_length_le (by have := HL.out; omega)
      rw [hdn] at HUP
      clear hdn hlt
      cases d with
      | true =>
        have hRo : Hid (R = out) := Lib.hid (by have := HUP.out; unfold upto at this; simpa using this.symm)
        go_wp2_with fail
        go_ret
        exact ⟨_, rfl, by rw [hRo.out]; exact own_base HOW.out (by omega), HW.out⟩
      | false =>
        have hRo : Hid (R = out ++ [(c, p)]) := Lib.hid (by have := HUP.out; unfold upto put at this; simpa using this.symm)
        go_wp2_with (at_builtin; refine wpList_append_own _ rfl _ _ 33 rfl (w.heap.size + 1) 42 i0 _ 2 16 Tryd.underlying33 hi0 hz hsi hby rfl (by decide) _ _ _ rfl (HOW.out.alloc _) ⟨wr.heap.size, 0, none⟩ 1 1 [.int .i64 c, .int .i32 p] rfl rfl (new_cells wr _ _ _) (fun u hu => by simp at hu; rcases hu with rfl | rfl <;> rfl) (by unfold maxLen; omega) (by omega) (by first | omega | (simp; omega)) ?_; intro vw5 w5 hown5 hgrow _; have HO5 := Lib.hid hown5; have HB5 := Lib.hid (below_own (HB.out.alloc (by first | omega | (simp; omega)) _) (by first | omega | (simp; omega)) (HOW.out.alloc _) hgrow); clear hown5 hgrow; have qw5 : w.heap.size + 1 ≤ w5.heap.size := (by have := HB5.out.size; simp at this; omega); have HW5 : Hid (Below w.heap.size w w5) := Lib.hid (((Below.refl w.heap.size w).alloc (Nat.le_refl _) _).trans (HB5.out.mono (by omega))))
        go_ret
        exact ⟨_, rfl, by rw [hRo.out, pc_app, pc_one, List.length_append]; exact own_base HO5.out (by omega), HW5.out⟩
end Go.Proofs.YtiokdeomdeenbaaDoor.tb
