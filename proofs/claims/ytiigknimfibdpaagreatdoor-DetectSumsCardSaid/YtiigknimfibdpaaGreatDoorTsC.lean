/- find, Forward, Reverse, Size, Pairs of the landed table: contracts. -/
import Derived.Test.YtiigknimfibdpaaGreatDoorTsB
import Derived.Test.YtiigknimfibdpaaGreatDoorZ24
import Derived.Test.YtiigknimfibdpaaGreatDoorShelf2
namespace Go.Proofs.YtiigknimfibdpaaGreatDoor.tb
open Go.RowKit Go.Lib
set_option linter.unusedVariables false
theorem side_cases (r : Rw) (x : Int) (h : 1 ≤ r.c) : (x < r.f ∧ side r x = -1) ∨ (has r x ∧ side r x = 0) ∨ (r.f + r.c ≤ x ∧ side r x = 1) := by
  unfold side has
  by_cases h1 : x < r.f
  · rw [if_pos h1]; exact .inl ⟨h1, rfl⟩
  · rw [if_neg h1]
    by_cases h2 : r.f + r.c ≤ x
    · rw [if_pos h2]; exact .inr (.inr ⟨h2, rfl⟩)
    · rw [if_neg h2]; exact .inr (.inl ⟨by omega, rfl⟩)
theorem getD_get (l : List Rw) (i : Nat) (h : i < l.length) : l.getD i default = l[i] := by simp [List.getD, List.getElem?_eq_getElem h]
/-- What find answers. -/
structure FindP (l : List Rw) (x : Int) (i : Nat) : Prop where
  le : i ≤ l.length
  lo : ∀ j (h : j < l.length), j < i → l[j].f + l[j].c ≤ x
  hi : ∀ j (h : j < l.length), i ≤ j → x < l[j].f + l[j].c
set_option maxRecDepth 100000 in
set_option maxHeartbeats 2000000 in
theorem find_any (A : Option Addr) (n c : Nat) (l : List Rw) (x : Int) (w : World) (h : RowRw w A c l) (hn : n = l.length) (hok : ∀ r ∈ l, r.ok) (hd : Dis l) (hs : n ≤ 100000000) :
    Calls Tryz.prog 117 #[.agg #[.slice A n c], .int .i64 x] w fun e w' => ∃ (i : Nat) (D : Bool), FindP l x i ∧ D = decide (i < n ∧ side (l.getD i default) x = 0) ∧ e = .returned (.tuple #[.int .i64 i, .bool D]) ∧ Below w.heap.size w w' := by
  have eg : ∀ args w, (callFunc 157 args).run Tryz.prog w = .ok (.enter 157 args) w := enters_of Tryz.func157 (by kernel_rfl) rfl
  obtain ⟨W0, hW0⟩ : ∃ W0, W0 = (w.alloc (.cells #[.slice A n c] 74)).alloc (.cells #[.int .i64 x] 3) := ⟨_, rfl⟩
  have hs0 : W0.heap.size = w.heap.size + 1 + 1 := by rw [hW0]; simp
  have hB0 : Below w.heap.size w W0 := by rw [hW0]; exact ((Below.refl _ w).alloc (Nat.le_refl _) _).alloc (by simp) _
  have ct : W0.cell? ⟨w.heap.size, 0, none⟩ = some (.slice A n c) := by rw [hW0]; simp
  have cc : W0.cell? ⟨w.heap.size + 1, 0, none⟩ = some (.int .i64 x) := by rw [hW0]; simp
  have hcon := sortFind_any 157 #[.pointer (some ⟨w.heap.size, 0, none⟩), .pointer (some ⟨w.heap.size + 1, 0, none⟩)] (fun i => side (l.getD i default) x) n W0 (by omega) eg
    (fun W hW i hi => (findC_any A n c l x w.heap.size (w.heap.size + 1) i W ((h.below hB0).below hW) hn hok hi ((hW.cell (p := ⟨w.heap.size, 0, none⟩) (by show w.heap.size < _; omega)).trans ct) ((hW.cell (p := ⟨w.heap.size + 1, 0, none⟩) (by show w.heap.size + 1 < _; omega)).trans cc) (by have := hW.size; omega) (by have := hW.size; omega)).mono fun e w' h => ⟨h.1, hW.trans (h.2.mono hW.size)⟩)
    (fun i j hij hj hi => by
      by_cases he : i = j
      · rw [← he]; exact hi
      · have h1 : l[i]'(by omega) ∈ l := List.getElem_mem _
        have h2 : l[j]'(by omega) ∈ l := List.getElem_mem _
        have h3 := List.pairwise_iff_getElem.1 hd i j (by omega) (by omega) (by omega)
        have c1 := (hok _ h1).c1
        have c2 := (hok _ h2).c1
        rw [getD_get l i (by omega)] at hi
        rw [getD_get l j (by omega)]
        have k1 := side_cases _ x c1
        have k2 := side_cases _ x c2
        unfold has at k1 k2
        omega)
  have HCON : Hid (Calls Tryz.prog 156 #[.int .i64 n, .func (.func 157) #[] #[.pointer (some ⟨w.heap.size, 0, none⟩), .pointer (some ⟨w.heap.size + 1, 0, none⟩)]] ((w.alloc (.cells #[.slice A n c] 74)).alloc (.cells #[.int .i64 x] 3)) fun e w' => ∃ (i : Nat) (D : Bool), FindP l x i ∧ D = decide (i < n ∧ side (l.getD i default) x = 0) ∧ e = .returned (.tuple #[.int .i64 i, .bool D]) ∧ Below w.heap.size w w') := Lib.hid (by
    rw [← hW0]
    refine hcon.mono ?_
    rintro e w' ⟨i, h1, h2, h3, h4, h5⟩
    refine ⟨i, _, ⟨by omega, fun j hj hji => ?_, fun j hj hij => ?_⟩, rfl, h4, hB0.trans (h5.mono (by omega))⟩
    · have this : 0 < side (l.getD j default) x := h2 j hji
      rw [getD_get l j hj] at this
      have c1 := (hok _ (List.getElem_mem hj)).c1
      have k1 := side_cases _ x c1
      unfold has at k1
      omega
    · have this : side (l.getD j default) x ≤ 0 := h3 j hij (by omega)
      rw [getD_get l j hj] at this
      have c1 := (hok _ (List.getElem_mem hj)).c1
      have k1 := side_cases _ x c1
      unfold has at k1
      omega)
  clear hcon ct cc hB0 hs0 hW0 h hok hd eg
  go_enter Tryz.func117, Tryz.ntmps117
  have HN := Lib.hid hn; clear hn
  go_wp2_with (go_at_call 156; refine HCON.out.mono ?_; rintro e1 w1 ⟨i, D, hi, hD, rfl, hb1⟩; have HD := Lib.hid hD; clear hD)
  go_ret2
  exact ⟨i, D, hi, HD.out, rfl, hb1⟩
theorem find_lk {l : List Rw} {x : Int} {i : Nat} (h : FindP l x i) (hd : Dis l) (hok : ∀ r ∈ l, r.ok) :
    (∃ hi : i < l.length, side (l.getD i default) x = 0 ∧ has l[i] x ∧ lk (rps l) x = some (l[i].t + (x - l[i].f))) ∨ (¬ (i < l.length ∧ side (l.getD i default) x = 0) ∧ lk (rps l) x = none) := by
  by_cases hi : i < l.length
  · have c1 := (hok _ (List.getElem_mem hi)).c1
    have k := side_cases l[i] x c1
    have h2 := h.hi i hi (Nat.le_refl _)
    rw [getD_get l i hi]
    rcases k with ⟨k1, k2⟩ | ⟨k1, k2⟩ | ⟨k1, k2⟩
    · right
      refine ⟨by rw [k2]; simp, lk_no fun r hr hh => ?_⟩
      obtain ⟨j, hj, rfl⟩ := List.getElem_of_mem hr
      unfold has at hh
      by_cases hji : j < i
      · have := h.lo j hj hji; omega
      · by_cases e : j = i
        · subst e; omega
        · have := List.pairwise_iff_getElem.1 hd i j hi hj (by omega); omega
    · exact .inl ⟨hi, k2, k1, lk_some hd (List.getElem_mem hi) k1⟩
    · omega
  · right
    refine ⟨fun h => hi h.1, lk_no fun r hr hh => ?_⟩
    obtain ⟨j, hj, rfl⟩ := List.getElem_of_mem hr
    unfold has at hh
    have := h.lo j hj (by omega)
    omega
set_option maxRecDepth 100000 in
set_option maxHeartbeats 2000000 in
theorem forward_any (A : Option Addr) (n c : Nat) (l : List Rw) (x : Int) (w : World) (h : RowRw w A c l) (hn : n = l.length) (hok : ∀ r ∈ l, r.ok) (hd : Dis l) (hs : n ≤ 100000000) :
    Calls Tryz.prog 72 #[.agg #[.slice A n c], .int .i64 x] w fun e w' => e = .returned (.tuple #[.int .i32 ((lk (rps l) x).getD 0), .bool (lk (rps l) x).isSome]) ∧ Below w.heap.size w w' := by
  have H := Lib.hid h; have HN := Lib.hid hn; have HO := Lib.hid hok
  cases hlk : lk (rps l) x with
  | none =>
    have HF : Hid (∀ w, RowRw w A c l → Calls Tryz.prog 117 #[.agg #[.slice A n c], .int .i64 x] w fun e w' => ∃ i : Nat, e = .returned (.tuple #[.int .i64 i, .bool false]) ∧ Below w.heap.size w w') := Lib.hid (fun w h => (find_any A n c l x w h hn hok hd hs).mono fun e w' ⟨i, D, h1, h2, h3, h4⟩ => by
      rcases find_lk h1 hd hok with ⟨_, _, _, h5⟩ | ⟨h5, _⟩
      · rw [hlk] at h5; cases h5
      · rw [← hn] at h5
        rw [h2, decide_eq_false h5] at h3
        exact ⟨i, h3, h4⟩)
    clear h hn hok hd hlk
    go_enter Tryz.func72, Tryz.ntmps72
    go_wp2_with (go_at_call 117; refine (HF.out _ (H.out.below (by repeat (first | (with_reducible exact Below.refl _ _) | (with_reducible refine Below.setCell ?_ (by simp) _) | (with_reducible refine Below.alloc ?_ (by simp) _))))).mono ?_; rintro e1 w1 ⟨i, rfl, hb1⟩; have HB := Lib.hid (((Below.refl w.heap.size w).alloc (Nat.le_refl _) (.cells #[.slice A n c] 74)).trans (hb1.mono (by simp))); clear hb1)
    go_ret2
    exact ⟨rfl, HB.out⟩
  | some p =>
    have HF : Hid (∀ w, RowRw w A c l → Calls Tryz.prog 117 #[.agg #[.slice A n c], .int .i64 x] w fun e w' => ∃ i : Nat, i < n ∧ has (l.getD i default) x ∧ p = (l.getD i default).t + (x - (l.getD i default).f) ∧ e = .returned (.tuple #[.int .i64 i, .bool true]) ∧ Below w.heap.size w w') := Lib.hid (fun w h => (find_any A n c l x w h hn hok hd hs).mono fun e w' ⟨i, D, h1, h2, h3, h4⟩ => by
      rcases find_lk h1 hd hok with ⟨hi, h5, h6, h7⟩ | ⟨_, h5⟩
      · rw [h2, decide_eq_true (show _ ∧ _ from ⟨by omega, h5⟩)] at h3
        rw [hlk] at h7
        injection h7 with h7
        refine ⟨i, by omega, ?_, ?_, h3, h4⟩
        · rw [getD_get l i hi]; exact h6
        · rw [getD_get l i hi]; exact h7
      · rw [hlk] at h5; cases h5)
    clear h hn hok hd hlk
    go_enter Tryz.func72, Tryz.ntmps72
    go_wp2_with (first | (go_at_call 117; refine (HF.out _ (H.out.below (by repeat (first | (with_reducible exact Below.refl _ _) | (with_reducible refine Below.setCell ?_ (by simp) _) | (with_reducible refine Below.alloc ?_ (by simp) _))))).mono ?_; rintro e1 w1 ⟨i, hi, hh, hp, rfl, hb1⟩; have F1 := Lib.hid ((f1_new w (.slice A n c) 74).below hb1 (by simp)); obtain ⟨_, b0, _⟩ := F1.out; have HB := Lib.hid (((Below.refl w.heap.size w).alloc (Nat.le_refl _) (.cells #[.slice A n c] 74)).trans (hb1.mono (by simp))); obtain ⟨g, o, rfl, a1, a2, a3, k0, k1, k2, hmem⟩ := (H.out.below HB.out).at i (by rw [← HN.out]; exact hi); obtain ⟨f0, c1, f1, t0, t1⟩ := HO.out _ hmem; unfold has at hh; rw [← HN.out] at a1; unfold maxLen at a2; have HS := Lib.hid (fun w => sign_any (l.getD i default).f (l.getD i default).t (l.getD i default).c x w (by omega) (by omega) (by omega) (by omega) (by omega) (by omega)); rw [← hp] at HS; clear hb1 hp hh f0 c1 f1 t0 t1 hmem; generalize l.getD i default = r at *) | (go_at_call 118; refine (HS.out _).mono ?_; rintro e2 w2 ⟨rfl, hb2⟩; have HB2 := Lib.hid (HB.out.trans (hb2.mono HB.out.size)); clear hb2))
    go_ret2
    exact ⟨rfl, HB2.out⟩
end Go.Proofs.YtiigknimfibdpaaGreatDoor.tb
namespace Go.Proofs.YtiigknimfibdpaaGreatDoor.tb
open Go.RowKit Go.Lib
set_option linter.unusedVariables false
theorem idx_rev (p : Int) : ∀ (l : List Rw) (i : Nat), (∀ r ∈ l, r.ok) →
    (idxByFrom (fun (_ y : Rw) => tel y p) default l i = -1 ∧ rev (rps l) p = -1) ∨ ∃ k, k < l.length ∧ idxByFrom (fun (_ y : Rw) => tel y p) default l i = ((i + k : Nat) : Int) ∧ tel (l.getD k default) p = true ∧ rev (rps l) p = (l.getD k default).f + (p - (l.getD k default).t)
  | [], i, _ => .inl ⟨rfl, rfl⟩
  | r :: l, i, hok => by
    rw [rev_rps, List.find?_cons]
    unfold idxByFrom
    cases h : tel r p with
    | true => exact .inr ⟨0, by simp, by simp, by simpa using h, by simp⟩
    | false =>
      have ih := idx_rev p l (i + 1) (fun s hs => hok s (List.mem_cons_of_mem _ hs))
      rw [rev_rps] at ih
      rcases ih with ⟨h1, h2⟩ | ⟨k, h1, h2, h3, h4⟩
      · exact .inl ⟨by simpa using h1, h2⟩
      · exact .inr ⟨k + 1, by simp; omega, by simp only [Bool.false_eq_true, if_false]; rw [h2]; congr 1; omega, by simpa using h3, by simpa using h4⟩
set_option maxRecDepth 100000 in
theorem revC_any (p : Int) (r : Rw) (B : Nat) (w W : World) (hr : r.ok) (hb : Below w.heap.size w W) (hB : B < w.heap.size) (hc : w.cell? ⟨B, 0, none⟩ = some (.int .i32 p)) :
    Calls Tryz.prog 166 #[.agg #[.int .i64 r.f, .int .i32 r.t, .int .i64 r.c], .pointer (some ⟨B, 0, none⟩)] W fun e w' => e = .returned (.bool (tel r p)) ∧ Below w.heap.size w w' := by
  have hc' := (hb.cell (p := ⟨B, 0, none⟩) hB).trans hc
  have hBW : B < W.heap.size := Nat.lt_of_lt_of_le hB hb.size
  have hne : B ≠ W.heap.size := by omega
  have HT := Lib.hid (fun w => tells_any r p w hr)
  have HB := Lib.hid hb
  clear hb hc
  generalize tel r p = D at *
  go_enter Tryz.func166, Tryz.ntmps166
  go_wp2_with (go_at_call 167; refine (HT.out _).mono ?_; rintro e1 w1 ⟨rfl, hb1⟩; have HB1 := Lib.hid ((HB.out.alloc HB.out.size (.cells #[.int .i64 r.f, .int .i32 r.t, .int .i64 r.c] 145)).trans (hb1.mono (by have := HB.out.size; simp; omega))); clear hb1)
  go_ret
  exact ⟨rfl, HB1.out⟩
/-- A row as the code holds it. -/
def OkR : Type := {r : Rw // r.ok}
instance : Inhabited OkR := ⟨⟨⟨0, 0, 1⟩, ⟨by simp, by simp, by simp, by simp, by simp⟩⟩⟩
def okl (l : List Rw) (h : ∀ r ∈ l, r.ok) : List OkR := l.pmap (fun r h => (⟨r, h⟩ : OkR)) h
theorem okl_len (l : List Rw) (h : ∀ r ∈ l, r.ok) : (okl l h).length = l.length := by
  unfold okl
  exact List.length_pmap
theorem okl_at (l : List Rw) (h : ∀ r ∈ l, r.ok) (j : Nat) (hj : j < l.length) : ((okl l h)[j]!).1 = l.getD j default := by
  rw [getElem!_pos (okl l h) j (by rw [okl_len]; exact hj)]
  unfold okl
  rw [getD_get l j hj]
  exact congrArg Subtype.val (List.getElem_pmap (fun r h => (⟨r, h⟩ : OkR)) h (by simpa using hj))
theorem okl_idx (p : Int) : ∀ (l : List Rw) (h : ∀ r ∈ l, r.ok) (i : Nat), idxByFrom (fun (_ y : OkR) => tel y.1 p) default (okl l h) i = idxByFrom (fun (_ y : Rw) => tel y p) default l i
  | [], _, _ => rfl
  | r :: l, h, i => by
    have ih := okl_idx p l (fun s hs => h s (List.mem_cons_of_mem _ hs)) (i + 1)
    show (if tel r p then (i : Int) else idxByFrom (fun (_ y : OkR) => tel y.1 p) default (okl l _) (i + 1)) = (if tel r p then (i : Int) else idxByFrom (fun (_ y : Rw) => tel y p) default l (i + 1))
    rw [ih]
set_option maxRecDepth 100000 in
theorem index_any (A : Option Addr) (n c : Nat) (l : List Rw) (p : Int) (B : Nat) (w : World) (h : RowRw w A c l) (hn : n = l.length) (hok : ∀ r ∈ l, r.ok) (hs : n ≤ 100000000) (hB : B < w.heap.size) (hc : w.cell? ⟨B, 0, none⟩ = some (.int .i32 p)) :
    Calls Tryz.prog 165 #[.slice A n c, .func (.func 166) #[] #[.pointer (some ⟨B, 0, none⟩)]] w fun e w' => e = .returned (.int .i64 (idxByFrom (fun (_ y : Rw) => tel y p) default l 0)) ∧ Below w.heap.size w w' := by
  have eg : ∀ args w, (callFunc 166 args).run Tryz.prog w = .ok (.enter 166 args) w := enters_of Tryz.func166 (by kernel_rfl) rfl
  rcases h with ⟨rfl, rfl, rfl⟩ | ⟨g, o, rfl, a1, a2, a3, h⟩
  · simp at hn
    subst hn
    go_enter Tryz.func165, Tryz.ntmps165
    go_wp2
    go_loopw [8] (fun i wr => i = .int .i64 0 ∧ wr = w) (fun _ _ => 0)
    case atStart => exact ⟨rfl, rfl⟩
    case round =>
      obtain ⟨rfl, rfl⟩ := hrel
      go_wp2_with fail
      go_ret
      exact ⟨rfl, Below.refl _ _⟩
  · have hcon := AnyQ.slices_IndexFunc Tryz.idxRows 3 Tryz.isAgg145 Tryz.sizeOf145 (fun r : OkR => rcell r.1) (fun _ => rfl) (fun r : OkR => tel r.1 p) 166 #[.pointer (some ⟨B, 0, none⟩)] eg g o n c (okl l hok) w
      (fun W x hb => revC_any p x.1 B w W x.2 hb hB hc) (by rw [okl_len]; omega) (by omega) a3 (fun j hj i v hi => by
        rw [okl_len] at hj
        obtain ⟨k0, k1, k2⟩ := h j hj
        rw [okl_at l hok j hj] at hi
        match i, hi with
        | 0, hi => simp [rcell] at hi; rw [← hi]; exact k0
        | 1, hi => simp [rcell] at hi; rw [← hi]; exact k1
        | 2, hi => simp [rcell] at hi; rw [← hi]; exact k2
        | i + 3, hi => simp [rcell] at hi)
    have e : Lib.idxBy (fun (_ y : OkR) => tel y.1 p) ((okl l hok).take n) default = idxByFrom (fun (_ y : Rw) => tel y p) default l 0 := by
      rw [show (okl l hok).take n = okl l hok by rw [hn, ← okl_len l hok]; exact List.take_length]
      exact okl_idx p l hok 0
    rw [e] at hcon
    exact hcon
set_option maxRecDepth 100000 in
set_option maxHeartbeats 2000000 in
theorem reverse_any (A : Option Addr) (n c : Nat) (l : List Rw) (p : Int) (w : World) (h : RowRw w A c l) (hn : n = l.length) (hok : ∀ r ∈ l, r.ok) (hs : n ≤ 100000000) :
    Calls Tryz.prog 126 #[.agg #[.slice A n c], .int .i32 p] w fun e w' => e = .returned (.tuple #[.int .i64 (if rev (rps l) p < 0 then 0 else rev (rps l) p), .bool (!decide (rev (rps l) p < 0))]) ∧ Below w.heap.size w w' := by
  have HC := Lib.hid (fun w2 h2 h3 h4 => index_any A n c l p (w.heap.size + 1) w2 h2 hn hok hs h3 h4)
  have H := Lib.hid h; have HN := Lib.hid hn
  rcases idx_rev p l 0 hok with ⟨h1, h2⟩ | ⟨k, h1, h2, h3, h4⟩
  · rw [h2]
    rw [h1] at HC
    clear h hn hok h1 h2
    go_enter Tryz.func126, Tryz.ntmps126
    go_wp2_with (go_at_call 165; refine (HC.out _ (H.out.below (by repeat (first | (with_reducible exact Below.refl _ _) | (with_reducible refine Below.setCell ?_ (by simp) _) | (with_reducible refine Below.alloc ?_ (by simp) _)))) (by simp) (by simp)).mono ?_; rintro e1 w1 ⟨rfl, hb1⟩; have HB := Lib.hid ((((Below.refl w.heap.size w).alloc (Nat.le_refl _) (.cells #[.slice A n c] 74)).alloc (by simp) (.cells #[.int .i32 p] 21)).trans (hb1.mono (by simp; omega))); clear hb1)
    go_ret2
    exact ⟨rfl, HB.out⟩
  · rw [h2] at HC
    rw [Nat.zero_add] at HC
    have hm : l.getD k default ∈ l := by rw [getD_get l k h1]; exact List.getElem_mem _
    obtain ⟨f0, c1, f1, t0, t1⟩ := hok _ hm
    have ht := (tel_iff _ _).1 h3
    have HS := Lib.hid (fun w => code_any (l.getD k default).f (l.getD k default).t (l.getD k default).c p w (by omega) (by omega) (by omega) (by omega) (by omega) (by omega))
    rw [← h4] at HS
    have hr0 : ¬ rev (rps l) p < 0 := by omega
    rw [if_neg hr0, decide_eq_false hr0]
    generalize rev (rps l) p = R at *
    have HK := Lib.hid h1
    have hkn : k < n := by omega
    clear h hn hok h1 h2 h3 h4 hm ht f0 c1 f1 t0 t1 hr0
    go_enter Tryz.func126, Tryz.ntmps126
    go_wp2_with (go_at_call 165; refine (HC.out _ (H.out.below (by repeat (first | (with_reducible exact Below.refl _ _) | (with_reducible refine Below.setCell ?_ (by simp) _) | (with_reducible refine Below.alloc ?_ (by simp) _)))) (by simp) (by simp)).mono ?_; rintro e1 w1 ⟨rfl, hb1⟩; have G1 := Lib.hid (((f1_new w (.slice A n c) 74).below ((Below.refl (w.heap.size + 1) _).alloc (by simp) (.cells #[.int .i32 p] 21)) (by simp)).below hb1 (by simp; omega)); obtain ⟨_, b0, _⟩ := G1.out; have G2 : Hid (F1 w1 (w.heap.size + 1) (.int .i32 p)) := Lib.hid (by have X := (f1_new (w.alloc (.cells #[.slice A n c] 74)) (.int .i32 p) 21).below hb1 (by simp); rwa [World.size_alloc] at X); obtain ⟨_, b1, _⟩ := G2.out; have HB := Lib.hid ((((Below.refl w.heap.size w).alloc (Nat.le_refl _) (.cells #[.slice A n c] 74)).alloc (by simp) (.cells #[.int .i32 p] 21)).trans (hb1.mono (by simp; omega))); have LT := (show w.heap.size + 1 + 1 ≤ w1.heap.size by have := hb1.size; simpa using this); obtain ⟨g, o, rfl, a1, a2, a3, k0, k1, k2, hmem⟩ := (H.out.below HB.out).at k HK.out; rw [← HN.out] at a1; unfold maxLen at a2; clear hb1 hmem; generalize l.getD k default = r at *)
    go_region_held3 (fun w' => w'.cell? ⟨w.heap.size, 0, none⟩ = some (.slice (some ⟨g, o, none⟩) n c) ∧ w'.cell? ⟨w.heap.size + 1, 0, none⟩ = some (.int .i32 p) ∧ w'.cell? ⟨g, o + k * 3, none⟩ = some (.int .i64 r.f) ∧ w'.cell? ⟨g, o + k * 3 + 1, none⟩ = some (.int .i32 r.t) ∧ w'.cell? ⟨g, o + k * 3 + 2, none⟩ = some (.int .i64 r.c)) (go_keep) (first | (go_at_call 168; refine (HS.out _).mono ?_; rintro e2 w2 ⟨rfl, hb2⟩; have y1 := (hb2.cell (p := ⟨w.heap.size, 0, none⟩) (show w.heap.size < w1.heap.size by omega)).trans b0; have y2 := (hb2.cell (p := ⟨w.heap.size + 1, 0, none⟩) (show w.heap.size + 1 < w1.heap.size by omega)).trans b1; have y3 := (hb2.cell (p := ⟨g, o + k * 3, none⟩) a3).trans k0; have y4 := (hb2.cell (p := ⟨g, o + k * 3 + 1, none⟩) a3).trans k1; have y5 := (hb2.cell (p := ⟨g, o + k * 3 + 2, none⟩) a3).trans k2; have HB2 := Lib.hid (HB.out.drew.trans (hb2.mono HB.out.size)); clear hb2))
    all_goals go_wp2_with fail
    all_goals go_ret2
    all_goals exact ⟨rfl, HB2.out⟩
end Go.Proofs.YtiigknimfibdpaaGreatDoor.tb
namespace Go.Proofs.YtiigknimfibdpaaGreatDoor.tb
open Go.RowKit Go.Lib
set_option linter.unusedVariables false
theorem take_siz (l : List Rw) (i : Nat) (hi : i < l.length) : siz (l.take (i + 1)) = siz (l.take i) + (l.getD i default).c := by
  rw [getD_get l i hi, List.take_add_one, List.getElem?_eq_getElem hi, siz_app]
  simp [siz]
theorem siz_take : ∀ (l : List Rw) (i : Nat), (∀ r ∈ l, r.ok) → 0 ≤ siz (l.take i) ∧ siz (l.take i) ≤ siz l
  | [], i, _ => by simp [siz]
  | r :: l, 0, h => by
    have := (siz_take l 0 (fun s hs => h s (List.mem_cons_of_mem _ hs))).2
    have c1 := (h r (List.mem_cons_self ..)).c1
    simp [siz] at this ⊢
    omega
  | r :: l, i + 1, h => by
    have := siz_take l i (fun s hs => h s (List.mem_cons_of_mem _ hs))
    have c1 := (h r (List.mem_cons_self ..)).c1
    simp [siz] at this ⊢
    omega
set_option maxRecDepth 100000 in
set_option maxHeartbeats 2000000 in
theorem size_any (A : Option Addr) (n c : Nat) (l : List Rw) (w : World) (h : RowRw w A c l) (hn : n = l.length) (hok : ∀ r ∈ l, r.ok) (hs : n ≤ 100000000) (hz : siz l ≤ 1000000000) :
    Calls Tryz.prog 129 #[.agg #[.slice A n c]] w fun e w' => e = .returned (.int .i64 (siz l)) ∧ Below w.heap.size w w' := by
  have H := Lib.hid h; have HN := Lib.hid hn; have HO := Lib.hid hok
  obtain ⟨Z, hZ⟩ : ∃ Z, Z = siz l := ⟨_, rfl⟩
  have HZ := Lib.hid hZ
  rw [← hZ] at hz ⊢
  clear h hn hok hZ
  go_enter Tryz.func129, Tryz.ntmps129
  go_wp2
  go_loopw [3, 9] (fun z i wr => ∃ j : Nat, j ≤ n ∧ i = .int .i64 j ∧ z = .int .i64 (siz (l.take j)) ∧ Below w.heap.size w wr) (fun _ i _ => n - (RowKit.intOf i).toNat)
  case atStart => exact ⟨0, Nat.zero_le _, rfl, rfl, by repeat (first | (with_reducible exact Below.refl _ _) | (with_reducible refine Below.setCell ?_ (by simp) _) | (with_reducible refine Below.alloc ?_ (by simp) _))⟩
  case round =>
    obtain ⟨j, hj, rfl, rfl, hB⟩ := hrel
    have HB := Lib.hid hB
    clear hB
    by_cases hlt : j < n
    · have hjl : j < l.length := by have := HN.out; omega
      obtain ⟨g, o, rfl, a1, a2, a3, k0, k1, k2, hmem⟩ := (H.out.below HB.out).at j hjl
      rw [← HN.out] at a1
      unfold maxLen at a2
      obtain ⟨f0, c1, f1, t0, t1⟩ := HO.out _ hmem
      have b1 := siz_take l j HO.out
      have b2 := siz_take l (j + 1) HO.out
      have hT := take_siz l j hjl
      rw [← HZ.out] at b1 b2
      have hw : IntKind.i64.wrap (siz (l.take j) + (l.getD j default).c) = siz (l.take (j + 1)) := by rw [← hT]; exact wrap64 (by omega) (by omega)
      have b3 := b2.1; have b4 := b2.2
      clear hmem hT b1 b2 hjl
      generalize hS2 : siz (l.take (j + 1)) = S2 at *
      have HS2 := Lib.hid hS2
      clear hS2
      generalize siz (l.take j) = S1 at *
      generalize l.getD j default = r at *
      go_wp2_with fail
      go_roundw
      case rel => exact ⟨j + 1, by omega, by go_num, by rw [HS2.out], HB.out.alloc HB.out.size _⟩
      case measure => simp [RowKit.intOf]; omega
    · obtain rfl : j = n := by omega
      have e : siz (l.take j) = Z := by rw [HZ.out, show l.take j = l by rw [HN.out]; exact List.take_length]
      rw [e]
      clear e
      go_wp2_with fail
      go_ret
      exact ⟨rfl, HB.out⟩
theorem kind_ne {w : World} {B : Nat} {e e2 : TypeId} {k n X : Nat} {v : Value} {xs : List Value} {cs : Array Value} {fz : Nat × Nat} (h : w.ownsRow B e k v n xs) (hX : w.heap[X]? = some (.cells cs e2 fz)) (hne : e ≠ e2) : v.ownBlock ≠ some X := by
  obtain ⟨_, ⟨rfl, _⟩ | ⟨g, cap, cur, rfl, _, hg, _⟩⟩ := h
  · simp [Value.ownBlock]
  · intro hx
    simp [Value.ownBlock] at hx
    subst hx
    rw [hX] at hg
    injection hg with hg
    injection hg with _ h2
    exact hne h2.symm
/-- A row in a block of its own, as the loops hold it. -/
structure RB (w : World) (X : Nat) (r : Rw) : Prop where
  b : ∃ cs fz, w.heap[X]? = some (.cells cs 145 fz)
  f : F3 w X (.int .i64 r.f) (.int .i32 r.t) (.int .i64 r.c)
theorem RB.new (w : World) (r : Rw) : RB (w.alloc (.cells #[.int .i64 r.f, .int .i32 r.t, .int .i64 r.c] 145)) w.heap.size r :=
  ⟨⟨_, _, heap_alloc_new w _⟩, f3_new w _ _ _ _⟩
theorem RB.below {w w' : World} {X B : Nat} {r : Rw} (h : RB w X r) (hb : Below B w w') (hB : X < B) : RB w' X r := by
  obtain ⟨⟨cs, fz, hx⟩, hf⟩ := h
  exact ⟨⟨cs, fz, by rw [hb.block X hB]; exact hx⟩, hf.below hb hB⟩
theorem RB.grown {w w' : World} {X : Nat} {r : Rw} {g : Option Nat} (h : RB w X r) (hg : w.grownBy w' g) (hne : g ≠ some X) : RB w' X r := by
  obtain ⟨⟨cs, fz, hx⟩, hf⟩ := h
  have hlt := hf.lt
  have e := hg.block X hlt (fun h => hne h.symm)
  have hc : ∀ i, w'.cell? ⟨X, i, none⟩ = w.cell? ⟨X, i, none⟩ := fun i => World.cell?_of_block (w := w) (a := ⟨X, i, none⟩) e
  have hfz : ∀ i, w'.frozen? ⟨X, i, none⟩ = w.frozen? ⟨X, i, none⟩ := fun i => World.frozen?_of_block (w := w) (a := ⟨X, i, none⟩) e
  exact ⟨⟨cs, fz, by rw [e]; exact hx⟩, ⟨Nat.lt_of_lt_of_le hlt hg.size, (hc 0).trans hf.c0, (hc 1).trans hf.c1, (hc 2).trans hf.c2, fun i => (hfz i).trans (hf.fr i)⟩⟩
theorem take_rps (l : List Rw) (i : Nat) (hi : i < l.length) : rps (l.take (i + 1)) = rps (l.take i) ++ sqp (l.getD i default).f (l.getD i default).t (l.getD i default).c.toNat := by
  rw [getD_get l i hi, List.take_add_one, List.getElem?_eq_getElem hi, rps_app]
  simp [rps, rp]
end Go.Proofs.YtiigknimfibdpaaGreatDoor.tb
