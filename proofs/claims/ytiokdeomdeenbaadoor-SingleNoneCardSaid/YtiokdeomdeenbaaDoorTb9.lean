/- What the walks of layer 4's laws ask of a table of one word; the law RunTables from it. -/
import Derived.Test.YtiokdeomdeenbaaDoorTb8
import Derived.Test.YtiokdeomdeenbaaDoorPt3
import Derived.Deep.RegionHeld3
import Derived.Deep.DeepCutAuto
namespace Go.Proofs.YtiokdeomdeenbaaDoor.tb
open Go.RowKit Go.Lib
set_option linter.unusedVariables false
/-- The blocks from B on are as they were. -/
def Same (B : Nat) (w w' : World) : Prop := w.heap.size ≤ w'.heap.size ∧ ∀ k, B ≤ k → k < w.heap.size → w'.heap[k]? = w.heap[k]?
theorem Same.of {B : Nat} {w w' : World} (h : Below w.heap.size w w') : Same B w w' := ⟨h.size, fun k _ h2 => h.block k h2⟩
/-- A table's word, wherever its blocks begin. -/
def TE (TB : World → Nat → Value → List (Int × Int) → Prop) (w : World) (X : Value) (l : List (Int × Int)) : Prop := ∃ B, TB w B X l
/-- The answers of a table, TB: a world, where the table's blocks begin, its word, its pairs; K: what holds of the world throughout. -/
structure Tab (K : World → Prop) (TB : World → Nat → Value → List (Int × Int) → Prop) : Prop where
  stay : ∀ w w', K w → Below w.heap.size w w' → K w'
  keep : ∀ w w' B X l, TB w B X l → Same B w w' → TB w' B X l
  one : ∀ w X l, TE TB w X l → X.oneCell' = true
  srt : ∀ w X l, TE TB w X l → Srt l
  awake : ∀ w, K w → Calls Tryd.prog 13 #[] w fun e w' => e = .returned (.bool true) ∧ Below w.heap.size w w'
  pairs : ∀ w X l, TE TB w X l → l.length ≤ 20000 → Calls Tryd.prog 26 #[.agg #[X]] w fun e w' => ∃ A c, e = .returned (.slice A l.length c) ∧ RowP w' A l.length c l ∧ Below w.heap.size w w'
  size : ∀ w X l, TE TB w X l → l.length ≤ 20000 → Calls Tryd.prog 16 #[.agg #[X]] w fun e w' => e = .returned (.int .i64 l.length) ∧ Below w.heap.size w w'
  forward : ∀ w X l c, TE TB w X l → l.length ≤ 20000 → -9223372036854775808 ≤ c → c ≤ 9223372036854775807 → Calls Tryd.prog 19 #[.agg #[X], .int .i64 c] w fun e w' => e = .returned (.tuple #[.int .i32 ((lk l c).getD 0), .bool (lk l c).isSome]) ∧ Below w.heap.size w w'
  reverse : ∀ w X l p, TE TB w X l → l.length ≤ 20000 → -2147483648 ≤ p → p ≤ 2147483647 → Calls Tryd.prog 21 #[.agg #[X], .int .i32 p] w fun e w' => e = .returned (.tuple #[.int .i64 (if rev l p < 0 then 0 else rev l p), .bool (!decide (rev l p < 0))]) ∧ Below w.heap.size w w'
  over : ∀ w X Y l m, TE TB w X l → TE TB w Y m → l.length ≤ 8000 → m.length ≤ 8000 → Calls Tryd.prog 25 #[.agg #[X], .agg #[Y]] w fun e w' => ∃ Z, e = .returned (.agg #[Z]) ∧ TE TB w' Z (over l m) ∧ Below w.heap.size w w'
  new : ∀ w A n c l, K w → RowC w A n c l → light l = true → Calls Tryd.prog 14 #[.slice A n c] w fun e w' => Below w.heap.size w w' ∧
    ((∃ Z, (made l).1 = none ∧ e = .returned (.tuple #[.agg #[Z], .agg #[.int .i64 5, .int .i64 (made l).2]]) ∧ TB w' w.heap.size Z []) ∨ ∃ X r, (made l).1 = some r ∧ e = .returned (.tuple #[.agg #[X], .agg #[.int .i64 0, .int .i64 0]]) ∧ TB w' w.heap.size X r)
variable {K : World → Prop} {TB : World → Nat → Value → List (Int × Int) → Prop}
theorem Tab.keepE (T : Tab K TB) {w w' : World} {X : Value} {l : List (Int × Int)} (h : TE TB w X l) (hb : Below w.heap.size w w') : TE TB w' X l := by
  obtain ⟨B, h⟩ := h
  exact ⟨B, T.keep _ _ _ _ _ h (Same.of hb)⟩
theorem Tab.is (T : Tab K TB) {X : Value} {l : List (Int × Int)} {A : Option Addr} {n c : Nat} {w : World} (hg : TE TB w X l) (h : RowP w A n c l) (hn : n ≤ 20000) :
    Calls Tryd.prog 18 #[.agg #[X], .slice A n c] w fun e w' => e = .returned (.bool true) ∧ Below w.heap.size w w' :=
  is_true (fun w => TE TB w X l) X l ⟨fun w w' h1 h2 => T.keepE h1 h2, fun w h1 => T.pairs w X l h1 (by rw [h.len]; exact hn), fun w h1 => T.size w X l h1 (by rw [h.len]; exact hn)⟩ A n c w hg h (by omega)
/-- What stands once a table is made. -/
structure TSt (K : World → Prop) (TB : World → Nat → Value → List (Int × Int) → Prop) (w : World) (b : Nat) (X : Value) (l : List (Int × Int)) (e f : Int) (W : World) : Prop where
  t : F1 W b X
  f : pt.F2 W (b + 1) e f
  k : K W
  tb : TE TB W X l
  bel : Below w.heap.size w W
theorem TSt.below (T : Tab K TB) {w : World} {b : Nat} {X : Value} {l : List (Int × Int)} {e f : Int} {W W' : World} (h : TSt K TB w b X l e f W) (hb : Below W.heap.size W W') : TSt K TB w b X l e f W' :=
  ⟨h.t.below hb h.t.lt, h.f.below hb h.f.lt, T.stay _ _ h.k hb, T.keepE h.tb hb, h.bel.trans (hb.mono h.bel.size)⟩
theorem TSt.new (T : Tab K TB) {w w1 : World} {X : Value} {l : List (Int × Int)} (e f : Int) (hK : K w) (hb : Below w.heap.size w w1) {B : Nat} (ht : TB w1 B X l) :
    TSt K TB w w1.heap.size X l e f ((w1.alloc (.cells #[X] 27)).alloc (.cells #[.int .i64 e, .int .i64 f] 30)) := by
  have h1 : Below w1.heap.size w1 (w1.alloc (.cells #[X] 27)) := (Below.refl _ _).alloc (Nat.le_refl _) _
  have h2 : Below (w1.alloc (.cells #[X] 27)).heap.size (w1.alloc (.cells #[X] 27)) ((w1.alloc (.cells #[X] 27)).alloc (.cells #[.int .i64 e, .int .i64 f] 30)) := (Below.refl _ _).alloc (Nat.le_refl _) _
  have h3 := h1.trans (h2.mono h1.size)
  have e1 : (w1.alloc (.cells #[X] 27)).heap.size = w1.heap.size + 1 := World.size_alloc _ _
  have h4 := hb.trans (h3.mono hb.size)
  refine ⟨(f1_new w1 X _).below h2 (by rw [e1]; omega), ?_, T.stay _ _ hK h4, T.keepE ⟨_, ht⟩ h3, h4⟩
  have := pt.f2_new (w1.alloc (.cells #[X] 27)) e f 30
  rwa [e1] at this
theorem mk_bad : ∀ (ps : List Pce) (i : Nat) (all : List (Int × Int)), (mk i all ps).1 = none → (i : Int) ≤ (mk i all ps).2
  | [], i, all, h => by cases h
  | p :: ps, i, all, h => by
    have e : mk i all (p :: ps) = (match piece p.f p.t p.c p.s with | none => (none, (i : Int)) | some more => match join all more with | none => (none, (i : Int)) | some r => mk (i + 1) r ps) := rfl
    rw [e] at h ⊢
    cases hp : piece p.f p.t p.c p.s with
    | none => simp
    | some more =>
      rw [hp] at h
      simp only at h ⊢
      cases hj : join all more with
      | none => simp
      | some r =>
        rw [hj] at h
        simp only at h ⊢
        have := mk_bad ps (i + 1) r h
        omega
theorem made_bad {l : List Pce} (h : (made l).1 = none) : 0 ≤ (made l).2 := mk_bad l 0 [] h
set_option maxRecDepth 100000 in
set_option maxHeartbeats 4000000 in
theorem tables_walk (T : Tab K TB) (A : Option Addr) (n c : Nat) (l : List Pce) (w : World) (h : RowC w A n c l) (hn : n ≤ 9223372036854775807) (hK : K w) :
    Calls Tryd.prog 3 #[.slice A n c] w fun e w' => e = .returned (.bool true) ∧ Below w.heap.size w w' := by
  have HLT := Lib.hid (fun w2 h2 => Light_any A n c l w2 h2 hn)
  have HAW := Lib.hid T.awake
  have H := Lib.hid h; have HK := Lib.hid hK; have HT := Lib.hid T
  cases hl : light l with
  | false =>
    rw [hl] at HLT
    clear h hK T hl
    go_enter Tryd.func3, Tryd.ntmps3
    go_wp2_with (first | (go_at_call 12; refine (HLT.out _ H.out).mono ?_; rintro e1 w1 ⟨rfl, hb1⟩) | (go_at_call 13; refine (HAW.out _ (HT.out.stay _ _ HK.out hb1)).mono ?_; rintro e2 w2 ⟨rfl, hb2⟩))
    go_ret
    exact ⟨rfl, hb1.trans (hb2.mono hb1.size)⟩
  | true =>
    rw [hl] at HLT
    have HN := Lib.hid (fun w2 h1 h2 => T.new w2 A n c l h1 h2 hl)
    have HM := Lib.hid (fun w2 h2 => made_any A n c l w2 h2 hl)
    have hbad := @made_bad l
    cases hm : (made l).1 with
    | none =>
      have hm0 := hbad hm
      rw [hm] at HN
      have HN2 : Hid (∀ w2, K w2 → RowC w2 A n c l → Calls Tryd.prog 14 #[.slice A n c] w2 fun e w' => Below w2.heap.size w2 w' ∧ ∃ Z, e = .returned (.tuple #[.agg #[Z], .agg #[.int .i64 5, .int .i64 (made l).2]]) ∧ TB w' w2.heap.size Z []) := Lib.hid (fun w2 h1 h2 => (HN.out w2 h1 h2).mono fun e w' h => ⟨h.1, by
        rcases h.2 with ⟨Z, _, h3, h4⟩ | ⟨_, _, h0, _⟩
        · exact ⟨Z, h3, h4⟩
        · cases h0⟩)
      have HM2 : Hid (∀ w2, RowC w2 A n c l → Calls Tryd.prog 15 #[.slice A n c] w2 fun e w' => e = .returned (.tuple #[.slice none 0 0, .int .i64 (made l).2]) ∧ Below w2.heap.size w2 w') := Lib.hid (fun w2 h2 => (HM.out w2 h2).mono fun e w' h => by
        rcases h with ⟨_, h1, h2⟩ | ⟨_, _, _, h0, _⟩
        · exact ⟨h1, h2⟩
        · rw [hm] at h0; cases h0)
      generalize (made l).2 = I at *
      clear h hK T hl hbad hm HN HM
      go_enter Tryd.func3, Tryd.ntmps3
      go_wp2_with (first | (go_at_call 12; refine (HLT.out _ H.out).mono ?_; rintro e1 w1 ⟨rfl, hb1⟩; have H1 := Lib.hid (H.out.below hb1); have K1 := Lib.hid (HT.out.stay _ _ HK.out hb1)) | (go_at_call 14; refine (HN2.out _ K1.out H1.out).mono ?_; rintro e2 w2 ⟨hb2, Z, rfl, ht2⟩; obtain ⟨_, z0, z1⟩ := (f1_new w2 (.slice none 0 0) 27).below ((Below.refl (w2.alloc (.cells #[.slice none 0 0] 27)).heap.size _).alloc (Nat.le_refl _) (.cells #[.int .i64 0, .int .i64 0] 30)) (by simp); have hst := fun wx (a : Addr) m => run_store (P := Tryd.prog) (w := wx) (a := a) Z m (HT.out.one _ _ _ ⟨_, ht2⟩); have S2 := Lib.hid (TSt.new HT.out 5 I HK.out (hb1.trans (hb2.mono hb1.size)) ht2)) | (go_at_call 15; refine (HM2.out _ (H.out.below S2.out.bel)).mono ?_; rintro e3 w3 ⟨rfl, hb3⟩; have S3 := Lib.hid (S2.out.below HT.out hb3)) | (go_at_call 13; refine (HAW.out _ S3.out.k).mono ?_; rintro e4 w4 ⟨rfl, hb4⟩; have S4 := Lib.hid (S3.out.below HT.out hb4); obtain ⟨_, t0, _⟩ := S4.out.t; obtain ⟨_, f0, f1, _, _⟩ := S4.out.f) | (go_at_call 16; refine (HT.out.size _ _ _ S4.out.tb (by simp)).mono ?_; rintro e5 w5 ⟨rfl, hb5⟩; have S5 := Lib.hid (S4.out.below HT.out hb5)))
      go_ret
      exact ⟨rfl, S5.out.bel⟩
    | some r =>
      rw [hm] at HN
      have HN2 : Hid (∀ w2, K w2 → RowC w2 A n c l → Calls Tryd.prog 14 #[.slice A n c] w2 fun e w' => Below w2.heap.size w2 w' ∧ ∃ X, e = .returned (.tuple #[.agg #[X], .agg #[.int .i64 0, .int .i64 0]]) ∧ TB w' w2.heap.size X r) := Lib.hid (fun w2 h1 h2 => (HN.out w2 h1 h2).mono fun e w' h => ⟨h.1, by
        rcases h.2 with ⟨_, h0, _⟩ | ⟨X, r', h0, h3, h4⟩
        · cases h0
        · cases h0; exact ⟨X, h3, h4⟩⟩)
      have HM2 : Hid (∀ w2, RowC w2 A n c l → Calls Tryd.prog 15 #[.slice A n c] w2 fun e w' => r.length ≤ 3600 ∧ ∃ A c, e = .returned (.tuple #[.slice A r.length c, .int .i64 (-1)]) ∧ RowP w' A r.length c r ∧ Below w2.heap.size w2 w') := Lib.hid (fun w2 h2 => (HM.out w2 h2).mono fun e w' h => by
        rcases h with ⟨h0, _⟩ | ⟨r', A', c', h0, _, h1, h2, h3, h4⟩
        · rw [hm] at h0; cases h0
        · rw [hm] at h0; cases h0; exact ⟨h1, A', c', h2, h3, h4⟩)
      clear h hK T hl hbad hm HN HM
      go_enter Tryd.func3, Tryd.ntmps3
      go_wp2_with (first | (go_at_call 12; refine (HLT.out _ H.out).mono ?_; rintro e1 w1 ⟨rfl, hb1⟩; have H1 := Lib.hid (H.out.below hb1); have K1 := Lib.hid (HT.out.stay _ _ HK.out hb1)) | (go_at_call 14; refine (HN2.out _ K1.out H1.out).mono ?_; rintro e2 w2 ⟨hb2, X, rfl, ht2⟩; obtain ⟨_, z0, z1⟩ := (f1_new w2 (.slice none 0 0) 27).below ((Below.refl (w2.alloc (.cells #[.slice none 0 0] 27)).heap.size _).alloc (Nat.le_refl _) (.cells #[.int .i64 0, .int .i64 0] 30)) (by simp); have hst := fun wx (a : Addr) m => run_store (P := Tryd.prog) (w := wx) (a := a) X m (HT.out.one _ _ _ ⟨_, ht2⟩); have S2 := Lib.hid (TSt.new HT.out 0 0 HK.out (hb1.trans (hb2.mono hb1.size)) ht2)) | (go_at_call 15; refine (HM2.out _ (H.out.below S2.out.bel)).mono ?_; rintro e3 w3 ⟨hr3, A3, c3, rfl, hr, hb3⟩; have S3 := Lib.hid (S2.out.below HT.out hb3)) | (go_at_call 13; refine (HAW.out _ S3.out.k).mono ?_; rintro e4 w4 ⟨rfl, hb4⟩; have S4 := Lib.hid (S3.out.below HT.out hb4); obtain ⟨_, t0, _⟩ := S4.out.t; obtain ⟨_, f0, f1, _, _⟩ := S4.out.f; have R4 := Lib.hid (hr.below hb4)) | (go_at_call 17; refine (pt.bad_any _ _ _).mono ?_; rintro e5 w5 ⟨rfl, hb5⟩; have S5 := Lib.hid (S4.out.below HT.out hb5); obtain ⟨_, t1, _⟩ := S5.out.t; have R5 := Lib.hid (R4.out.below hb5)) | (go_at_call 18; refine (Tab.is HT.out S5.out.tb R5.out (by omega)).mono ?_; rintro e6 w6 ⟨rfl, hb6⟩; have S6 := Lib.hid (S5.out.below HT.out hb6)))
      go_ret
      exact ⟨rfl, S6.out.bel⟩
end Go.Proofs.YtiokdeomdeenbaaDoor.tb
