/- The landed big5: pairsOfRow, Pairs: contracts. -/
import Derived.Test.YtmpddibdggdngaaDoorBp1
import Derived.Test.YtmpddibdggdngaaDoorTsH
import Derived.Test.YtmpddibdggdngaaDoorBg4
import Derived.Deep.AppendLies
namespace Go.Proofs.YtmpddibdggdngaaDoor.bp
open Go.RowKit Go.Lib
open Go.Proofs.YtmpddibdggdngaaDoor.tb
open Go.Proofs.YtmpddibdggdngaaDoor.bg (cell cellB one sgC ldL ldx rInt prs pr)
set_option linter.unusedVariables false
/-- A row's pairs by cells, and by codes. -/
def rowR (l : Nat) : List (Int × Int) := (List.range 157).filterMap fun c => if sgC l c = 0 then none else some ((c : Int), ((sgC l c : Nat) : Int))
def fcd (l : Nat) (q : Int × Int) : Int × Int := (((l * 256 + cellB q.1.toNat : Nat) : Int), q.2)
def rowS (l : Nat) : List (Int × Int) := (rowR l).map (fcd l)
def allR (k : Nat) : List (Int × Int) := (ldL.take k).flatMap rowS
theorem made_row : (ldL.all fun l => decide ((made (rowP l)).1 = some (rowR l))) = true := by decide +kernel
theorem rowR_ok : (ldL.all fun l => decide (0 < (rowR l).length) && (rowR l).all fun q => decide (0 ≤ q.1 ∧ q.1 < 157)) = true := by decide +kernel
theorem rowR_le (l : Nat) : (rowR l).length ≤ 157 := by
  have := List.length_filterMap_le (fun c => if sgC l c = 0 then none else some ((c : Int), ((sgC l c : Nat) : Int))) (List.range 157)
  rw [List.length_range] at this
  exact this
/-- A row of pairs, some of whose first parts are changed already. -/
def updP (f : Int × Int → Int × Int) : Nat → List (Int × Int) → List (Int × Int)
  | 0, R => R
  | _ + 1, [] => []
  | j + 1, q :: R => f q :: updP f j R
theorem upd_len (f : Int × Int → Int × Int) : ∀ (j : Nat) (R : List (Int × Int)), (updP f j R).length = R.length
  | 0, _ => rfl
  | _ + 1, [] => rfl
  | j + 1, q :: R => by unfold updP; rw [List.length_cons, List.length_cons, upd_len f j R]
theorem upd_all (f : Int × Int → Int × Int) : ∀ (R : List (Int × Int)), updP f R.length R = R.map f
  | [] => rfl
  | q :: R => by rw [List.length_cons]; unfold updP; rw [upd_all f R]; rfl
theorem upd_get (f : Int × Int → Int × Int) : ∀ (j : Nat) (R : List (Int × Int)), (updP f j R).getD j (0, 0) = R.getD j (0, 0)
  | 0, _ => rfl
  | _ + 1, [] => rfl
  | j + 1, q :: R => by unfold updP; simpa using upd_get f j R
theorem pc_upd (f : Int × Int → Int × Int) (hf : ∀ q, (f q).2 = q.2) : ∀ (j : Nat) (R : List (Int × Int)), j < R.length → (pc (updP f j R)).set (j * 2) (.int .i64 (f (R.getD j (0, 0))).1) = pc (updP f (j + 1) R)
  | _, [], h => by simp at h
  | 0, q :: R, _ => by
    have e : pc (updP f 1 (q :: R)) = .int .i64 (f q).1 :: .int .i32 (f q).2 :: pc R := rfl
    rw [e, hf]; rfl
  | j + 1, q :: R, h => by
    have ih := pc_upd f hf j R (by simpa using h)
    have e : pc (updP f (j + 1 + 1) (q :: R)) = .int .i64 (f q).1 :: .int .i32 (f q).2 :: pc (updP f (j + 1) R) := rfl
    have e2 : pc (updP f (j + 1) (q :: R)) = .int .i64 (f q).1 :: .int .i32 (f q).2 :: pc (updP f j R) := rfl
    rw [e, e2, ← ih, show (j + 1) * 2 = j * 2 + 1 + 1 by omega]
    rfl
theorem own_set {w : World} {B : Nat} {e : TypeId} {k g n cap : Nat} {xs : List Value} (h : w.ownsRow B e k (.slice (some ⟨g, 0, none⟩) n cap) n xs) (i : Nat) (v : Value) : (w.setCell ⟨g, i, none⟩ v).ownsRow B e k (.slice (some ⟨g, 0, none⟩) n cap) n (xs.set i v) := by
  obtain ⟨hl, ⟨h0, _⟩ | ⟨g', cap', cur, hv, hB, hg, h1, h2, h3, h4⟩⟩ := h
  · cases h0
  · cases hv
    refine ⟨by simpa using hl, .inr ⟨g, cap, cur.setIfInBounds i v, rfl, hB, heap_setCell_same w g i cur e v hg, h1, h2, by simpa using h3, ?_⟩⟩
    rw [← h4, Array.toList_setIfInBounds, List.take_set]
theorem own_cell {w : World} {B : Nat} {e : TypeId} {k g n cap : Nat} {xs : List Value} (h : w.ownsRow B e k (.slice (some ⟨g, 0, none⟩) n cap) n xs) (i : Nat) (hi : i < n * k) : w.cell? ⟨g, i, none⟩ = xs[i]? ∧ w.frozen? ⟨g, i, none⟩ = false := by
  obtain ⟨hl, ⟨h0, _⟩ | ⟨g', cap', cur, hv, hB, hg, h1, h2, h3, h4⟩⟩ := h
  · cases h0
  · cases hv
    refine ⟨?_, ?_⟩
    · rw [← h4, List.getElem?_take_of_lt hi, Array.getElem?_toList]
      simp [World.cell?, hg]
    · simp [World.frozen?, hg]
set_option maxRecDepth 100000 in
theorem second_any (c : Nat) (w : World) (hc : c < 157) : Calls Tryd.prog 51 #[.int .i64 c] w fun e w' => e = .returned (.int .i64 ((cellB c : Nat) : Int)) ∧ w = w' := by
  obtain ⟨V, hV⟩ : ∃ V : Int, V = ((cellB c : Nat) : Int) := ⟨_, rfl⟩
  rw [← hV]
  unfold bg.cellB at hV
  by_cases h : c < 63
  · rw [if_pos h] at hV
    obtain rfl : V = 64 + (c : Int) := by omega
    have g0 : (c : Int) < 63 := by omega
    have e1 : IntKind.i64.wrap (64 + (c : Int)) = 64 + (c : Int) := wrap64 (by omega) (by omega)
    clear hV hc h
    go_enter Tryd.func51, Tryd.ntmps51
    go_wp2
    go_ret
    exact ⟨rfl, rfl⟩
  · rw [if_neg h] at hV
    obtain rfl : V = 161 + (c : Int) - 63 := by omega
    have g0 : ¬ (c : Int) < 63 := by omega
    have e1 : IntKind.i64.wrap (161 + (c : Int)) = 161 + (c : Int) := wrap64 (by omega) (by omega)
    have e2 : IntKind.i64.wrap (161 + (c : Int) - 63) = 161 + (c : Int) - 63 := wrap64 (by omega) (by omega)
    clear hV hc h
    go_enter Tryd.func51, Tryd.ntmps51
    go_wp2
    go_ret
    exact ⟨rfl, rfl⟩
theorem cellB_le {c : Nat} (h : c < 157) : cellB c ≤ 254 := by unfold bg.cellB; split <;> omega
set_option maxRecDepth 100000 in
theorem codeC_any (l c : Nat) (w : World) (hl : l < 256) (hc : c < 157) : Calls Tryd.prog 40 #[.int .u8 l, .int .i64 c] w fun e w' => e = .returned (.int .i64 ((l * 256 + cellB c : Nat) : Int)) ∧ w = w' := by
  have HS := Lib.hid (fun W => second_any c W hc)
  have hb := cellB_le hc
  rw [show ((l * 256 + cellB c : Nat) : Int) = (l : Int) * 256 + ((cellB c : Nat) : Int) by omega]
  generalize hB : ((cellB c : Nat) : Int) = B at *
  generalize hL : (l : Int) = L
  generalize (c : Int) = C at *
  have o := or_int (L * 256) B 8 (by omega) (by omega) (by omega) (by omega) (by omega) (by omega)
  have e0 : IntKind.i64.wrap (L * 256) = L * 256 := wrap64 (by omega) (by omega)
  have e8 : IntKind.i64.wrap L = L := wrap64 (by omega) (by omega)
  clear hL hB hl hc hb
  go_enter Tryd.func40, Tryd.ntmps40
  go_wp2_with (go_at_call 51; refine (HS.out _).mono ?_; rintro e1 w1 ⟨rfl, rfl⟩)
  go_ret
  exact ⟨rfl, rfl⟩
theorem new_yes (A : Option Addr) (n c : Nat) (l : List Pce) (r : List (Int × Int)) (w : World) (h : RowC w A n c l) (hn : n ≤ 100) (hs : ∀ p ∈ l, p.s.size ≤ 4000000) (hT : pt.Tabs w) (hm : (made l).1 = some r) :
    Calls Tryd.prog 42 #[.slice A n c] w fun e w' => Below w.heap.size w w' ∧ ∃ X, e = .returned (.tuple #[.agg #[X], .agg #[.int .i64 0, .int .i64 0]]) ∧ TBr w' w.heap.size X r := by
  refine (new_any A n c l w h hn hs hT).mono ?_
  rintro e w' ⟨hb, ⟨h1, h2⟩ | ⟨X, S, r', h1, h2, h3, h4, h5, h6⟩⟩
  · rw [hm] at h1; cases h1
  · rw [hm] at h1
    injection h1 with h1
    subst h1
    exact ⟨hb, X, h2, S, h3, h4, h5, h6.symm⟩
theorem prs_seg (n : Nat) : ∀ m, prs (n + m) = prs n ++ (List.range m).flatMap fun k => pr (33024 + (n + k))
  | 0 => by simp
  | m + 1 => by
    rw [← Nat.add_assoc, List.range_succ, List.flatMap_append, ← List.append_assoc, ← prs_seg n m]
    simp [bg.prs]
theorem one_far {l b : Nat} (h : ¬ (l = 136 ∨ l = 161 ∨ l = 163 ∨ l = 164 ∨ l = 165)) : bg.one l b = 0 := by
  unfold bg.one
  cases cell b with
  | none => rfl
  | some c => exact bg.sgC_none h c
theorem prs_skip (n : Nat) : ∀ m, (∀ k, k < m → bg.one ((33024 + (n + k)) / 256) ((33024 + (n + k)) % 256) = 0) → prs (n + m) = prs n
  | 0, _ => rfl
  | m + 1, h => by
    rw [← Nat.add_assoc, show prs (n + m + 1) = prs (n + m) ++ pr (33024 + (n + m)) from rfl, prs_skip n m (fun k hk => h k (by omega))]
    unfold bg.pr
    rw [if_pos (h m (by omega)), List.append_nil]
theorem seg_is : (ldL.all fun l => decide (((List.range 256).flatMap fun k => pr (l * 256 + k)) = rowS l)) = true := by decide +kernel
theorem seg_at (l n : Nat) (hl : l ∈ ldL) (hn : l * 256 = 33024 + n) : prs (n + 256) = prs n ++ rowS l := by
  rw [prs_seg, ← of_decide_eq_true (List.all_eq_true.1 seg_is l hl)]
  congr 2
  funext k
  rw [hn]; congr 1; omega
theorem prs_all : prs 32256 = allR 5 := by
  have e1 : prs 1792 = prs 0 := prs_skip 0 1792 (fun k hk => one_far (by omega))
  have e2 : prs 2048 = prs 1792 ++ rowS 136 := seg_at 136 1792 (by decide) rfl
  have e3 : prs 8192 = prs 2048 := prs_skip 2048 6144 (fun k hk => one_far (by omega))
  have e4 : prs 8448 = prs 8192 ++ rowS 161 := seg_at 161 8192 (by decide) rfl
  have e5 : prs 8704 = prs 8448 := prs_skip 8448 256 (fun k hk => one_far (by omega))
  have e6 : prs 8960 = prs 8704 ++ rowS 163 := seg_at 163 8704 (by decide) rfl
  have e7 : prs 9216 = prs 8960 ++ rowS 164 := seg_at 164 8960 (by decide) rfl
  have e8 : prs 9472 = prs 9216 ++ rowS 165 := seg_at 165 9216 (by decide) rfl
  have e9 : prs 32256 = prs 9472 := prs_skip 9472 22784 (fun k hk => one_far (by omega))
  have e0 : prs 0 = [] := rfl
  rw [e9, e8, e7, e6, e5, e4, e3, e2, e1, e0]
  unfold allR
  rw [show ldL.take 5 = [136, 161, 163, 164, 165] from rfl]
  simp only [List.flatMap_cons, List.flatMap_nil, List.append_nil, List.nil_append, List.append_assoc]
theorem allR_step : ∀ k, k < 5 → allR (k + 1) = allR k ++ rowS (ldx k) := by
  intro k hk
  have h : k = 0 ∨ k = 1 ∨ k = 2 ∨ k = 3 ∨ k = 4 := by omega
  unfold allR
  rcases h with rfl | rfl | rfl | rfl | rfl <;> simp [bg.ldL, bg.ldx]
theorem rowS_len (l : Nat) : (rowS l).length = (rowR l).length := by unfold rowS; rw [List.length_map]
theorem rowS_pos {l : Nat} (hl : l ∈ ldL) : 0 < (rowR l).length := by
  have hq := List.all_eq_true.1 rowR_ok l hl
  rw [Bool.and_eq_true, decide_eq_true_eq] at hq
  exact hq.1
theorem allR_len : (allR 5).length = 610 := by decide +kernel
theorem allR_le : ∀ k, k < 6 → (allR k).length ≤ 1000 := by
  intro k hk
  have h : ∀ k, (allR k).length ≤ (allR 5).length ∨ 5 < k := by
    intro k
    by_cases h5 : 5 < k
    · exact .inr h5
    · left
      have e : allR 5 = allR k ++ (ldL.drop k).flatMap rowS := by
        unfold allR; rw [← List.flatMap_append, List.take_append_drop]; rfl
      rw [e, List.length_append]; omega
  have := h k
  have := allR_len
  omega
theorem pc_ones (l : List (Int × Int)) : ∀ u ∈ pc l, u.oneCell' = true := by
  intro u hu
  unfold pc at hu
  obtain ⟨q, _, hq⟩ := List.mem_flatMap.1 hu
  simp at hq
  rcases hq with rfl | rfl <;> rfl
theorem rowP_cells {w : World} {a : Addr} {n c : Nat} {l : List (Int × Int)} (h : RowP w (some a) n c l) : ∀ j u, (pc l)[j]? = some u → w.cell? (a.add j) = some u := by
  intro j u hu
  have hj : j < l.length * 2 := by rw [← pc_len]; exact (List.getElem?_eq_some_iff.1 hu).1
  have hl := h.len
  obtain ⟨a', he, _, _, k0, k1⟩ := h.at (j / 2) (by omega)
  cases he
  obtain ⟨x, y⟩ := pc_get l (j / 2) (by omega)
  rw [add_of] at k1
  have h2 : j % 2 = 0 ∨ j % 2 = 1 := by omega
  rcases h2 with h2 | h2
  · rw [show j / 2 * 2 = j by omega] at x k0
    rw [← hu, x]; exact k0
  · rw [show j / 2 * 2 + 1 = j by omega] at y k1
    rw [← hu, y]; exact k1
end Go.Proofs.YtmpddibdggdngaaDoor.bp
