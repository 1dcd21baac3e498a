/- Several texts in one. -/
import Derived.Test.YtiigknimfibdpaaGreatDoorTsH
import Derived.Deep.Cut
import Derived.Test.YtiigknimfibdpaaGreatDoorZ18
import Derived.Test.YtiigknimfibdpaaGreatDoorZ19
namespace Go.Proofs.YtiigknimfibdpaaGreatDoor.tb
open Go.RowKit Go.Lib
set_option linter.unusedVariables false
/-- A new variable: the word of a table. -/
structure Fr (w : World) (p : Nat) (X : Value) : Prop where
  f : F1 w p X
  k : ∃ cs, w.heap[p]? = some (.cells cs 74)
theorem Fr.below {w w' : World} {p B : Nat} {X : Value} (h : Fr w p X) (hb : Below B w w') (hB : p < B) : Fr w' p X :=
  ⟨h.f.below hb hB, by obtain ⟨cs, h⟩ := h.k; exact ⟨cs, by rw [hb.block p hB]; exact h⟩⟩
theorem fr_new (w : World) (X : Value) : Fr (w.alloc (.cells #[X] 74)) w.heap.size X := ⟨f1_new w X _, ⟨#[X], heap_alloc_new w _⟩⟩
theorem Fr.put {w : World} {p : Nat} {X u : Value} (h : Fr w p X) (hc : (w.setCell ⟨p, 0, none⟩ u).cell? ⟨p, 0, none⟩ = some u) (hz : ∃ cs, (w.setCell ⟨p, 0, none⟩ u).heap[p]? = some (.cells cs 74)) : Fr (w.setCell ⟨p, 0, none⟩ u) p u :=
  ⟨⟨by simpa [World.setCell] using h.f.lt, hc, by simpa using h.f.f0⟩, hz⟩
theorem Fr.put' {w : World} {p : Nat} {X : Value} (h : Fr w p X) (u : Value) : Fr (w.setCell ⟨p, 0, none⟩ u) p u := by
  obtain ⟨cs, hk⟩ := h.k
  have hc := h.f.c0
  have hx : 0 < cs.size := by
    simp only [World.cell?, hk, Option.isSome_none, Bool.false_eq_true, if_false] at hc
    exact (Array.getElem?_eq_some_iff.1 hc).1
  have hp := h.f.lt
  refine h.put ?_ ?_
  · exact World.cell?_setCell_same w ⟨p, 0, none⟩ u (by rw [hc])
  · refine ⟨cs.setIfInBounds 0 u, ?_⟩
    obtain ⟨_, hk2⟩ := Array.getElem?_eq_some_iff.1 hk
    simp only [World.setCell]
    rw [Array.getElem?_eq_getElem (by simpa using hp), Array.getElem_modify, hk2]
    simp
/-- A table's rows don't lie in a variable of a table's word. -/
theorem te_put {w : World} {p : Nat} {X V : Value} {l : List (Int × Int)} (h : TE TBr w V l) (hp : Fr w p X) (u : Value) : TE TBr (w.setCell ⟨p, 0, none⟩ u) V l := by
  obtain ⟨B, S, ⟨h1, h2⟩, h3⟩ := h
  refine ⟨B, S, ⟨h1, ?_⟩, h3⟩
  rcases h2 with h2 | ⟨g, cap, cur, hv, hg, hh, r⟩
  · exact .inl h2
  · refine .inr ⟨g, cap, cur, hv, hg, ?_, r⟩
    have hne : g ≠ p := fun e => by
      subst e
      obtain ⟨cs, hk⟩ := hp.k
      rw [hk] at hh
      injection hh with hh
      injection hh with _ hh
      exact absurd hh (by decide)
    rw [Below.heap_setCell _ _ _ _ hne]; exact hh
variable {wb : World} {x y z : List (Int × Int)} {k : Nat} {A B : Bool} {v1 v2 v3 v4 v5 v6 : Value} {W W' : World}
section
variable {P : Program} {ops : Array Oper} {Q : Exit → Act → World → Prop} {S : World → Prop}
end
end Go.Proofs.YtiigknimfibdpaaGreatDoor.tb
namespace Go.Proofs.YtiigknimfibdpaaGreatDoor.sg
open Go.RowKit Go.Lib
open Go.Proofs.YtiigknimfibdpaaGreatDoor.tb
set_option linter.unusedVariables false
def tbl (c : Int) : List (Int × Int) := (List.range 256).map fun (n : Nat) => ((n : Int), sgn c n)
def joins : List (List (Int × Int)) → List (Int × Int) → Option (List (Int × Int))
  | [], all => some all
  | m :: ms, all => match join all m with
    | none => none
    | some q => joins ms q
theorem mk_joins : ∀ (l : List Pce) (ms : List (List (Int × Int))) (i : Nat) (all r : List (Int × Int)), l.map (fun p => piece p.f p.t p.c p.s) = ms.map some → joins ms all = some r → (mk i all l).1 = some r
  | [], [], i, all, r, _, h2 => h2
  | [], m :: ms, i, all, r, h1, _ => by simp at h1
  | p :: ps, [], i, all, r, h1, _ => by simp at h1
  | p :: ps, m :: ms, i, all, r, h1, h2 => by
    rw [List.map_cons, List.map_cons] at h1
    injection h1 with h1 h3
    unfold mk
    rw [h1]
    unfold joins at h2
    cases hj : join all m with
    | none => rw [hj] at h2; cases h2
    | some q =>
      rw [hj] at h2
      simp only [hj]
      exact mk_joins ps ms (i + 1) q r h3 h2
theorem made_joins {l : List Pce} {ms : List (List (Int × Int))} {r : List (Int × Int)} (h1 : l.map (fun p => piece p.f p.t p.c p.s) = ms.map some) (h2 : joins ms [] = some r) : (made l).1 = some r := mk_joins l ms 0 [] r h1 h2
theorem piece_list {s : ByteArray} {L : List Nat} (f : Int) (hs : pt.scan s = (L, none)) (hz : s.size ≠ 0) (h0 : 0 ≤ f) (h1 : f + L.length ≤ 1048576) : piece f 0 0 s = some (lsp f (L.map Int.ofNat)) := by
  have e : pt.zsOf s = L.map Int.ofNat := by unfold pt.zsOf; rw [hs]
  unfold piece
  rw [if_neg hz, e, hs, if_neg]
  simp
  omega
theorem joins_lat : joins [sqp 0 0 256] [] = some (tbl 0) := by decide +kernel
theorem joins_koi : joins [sqp 0 0 128, lsp 128 (rusL.map Int.ofNat)] [] = some (tbl 1) := by decide +kernel
theorem joins_cp : joins [sqp 0 0 128, sqp 128 1040 48, lsp 176 (fraL.map Int.ofNat), sqp 224 1088 16, lsp 240 (othL.map Int.ofNat)] [] = some (tbl 3) := by decide +kernel
def ukr : List (Int × Int) := [(164, 1108), (166, 1110), (167, 1111), (173, 1169), (180, 1028), (182, 1030), (183, 1031), (189, 1168)]
theorem over_ukr : over ukr (tbl 1) = tbl 2 := by decide +kernel
def pUkr : List Pce := [⟨164, 0, 0, ⟨#[209, 148]⟩⟩, ⟨166, 0, 0, ⟨#[209, 150, 209, 151]⟩⟩, ⟨173, 0, 0, ⟨#[210, 145]⟩⟩, ⟨180, 0, 0, ⟨#[208, 132]⟩⟩, ⟨182, 0, 0, ⟨#[208, 134, 208, 135]⟩⟩, ⟨189, 0, 0, ⟨#[210, 144]⟩⟩]
theorem made_ukr : (made pUkr).1 = some ukr := by kernel_rfl
theorem tbl_len (c : Int) : (tbl c).length = 256 := by simp [tbl]
theorem made_lat : (made [⟨0, 0, 256, ⟨#[]⟩⟩]).1 = some (tbl 0) := made_joins (ms := [sqp 0 0 256]) (by kernel_rfl) joins_lat
theorem made_koi {s : ByteArray} (hs : pt.scan s = (rusL, none)) (hz : s.size ≠ 0) : (made [⟨0, 0, 128, ⟨#[]⟩⟩, ⟨128, 0, 0, s⟩]).1 = some (tbl 1) :=
  made_joins (ms := [sqp 0 0 128, lsp 128 (rusL.map Int.ofNat)]) (by
    have e1 : piece 0 0 128 ⟨#[]⟩ = some (sqp 0 0 128) := by kernel_rfl
    have e2 := piece_list 128 hs hz (by omega) (by rw [show rusL.length = 128 from rfl]; omega)
    simp only [List.map_cons, List.map_nil, e1, e2]) joins_koi
theorem made_cp {s u : ByteArray} (hs : pt.scan s = (fraL, none)) (hz : s.size ≠ 0) (hu : pt.scan u = (othL, none)) (hv : u.size ≠ 0) : (made [⟨0, 0, 128, ⟨#[]⟩⟩, ⟨128, 1040, 48, ⟨#[]⟩⟩, ⟨176, 0, 0, s⟩, ⟨224, 1088, 16, ⟨#[]⟩⟩, ⟨240, 0, 0, u⟩]).1 = some (tbl 3) :=
  made_joins (ms := [sqp 0 0 128, sqp 128 1040 48, lsp 176 (fraL.map Int.ofNat), sqp 224 1088 16, lsp 240 (othL.map Int.ofNat)]) (by
    have e1 : piece 0 0 128 ⟨#[]⟩ = some (sqp 0 0 128) := by kernel_rfl
    have e2 : piece 128 1040 48 ⟨#[]⟩ = some (sqp 128 1040 48) := by kernel_rfl
    have e3 := piece_list 176 hs hz (by omega) (by rw [show fraL.length = 48 from rfl]; omega)
    have e4 : piece 224 1088 16 ⟨#[]⟩ = some (sqp 224 1088 16) := by kernel_rfl
    have e5 := piece_list 240 hu hv (by omega) (by rw [show othL.length = 16 from rfl]; omega)
    simp only [List.map_cons, List.map_nil, e1, e2, e3, e4, e5]) joins_cp
set_option maxRecDepth 100000 in
set_option maxHeartbeats 4000000 in
theorem stable_any (A : Option Addr) (n c : Nat) (l : List Pce) (r : List (Int × Int)) (w : World) (h : RowC w A n c l) (hn : n ≤ 12) (hsz : ∀ p ∈ l, p.s.size ≤ 4000000) (hm : (made l).1 = some r) (hK : pt.Tabs w) :
    Calls Tryz.prog 111 #[.slice A n c] w fun e w' => ∃ X, e = .returned (.agg #[X]) ∧ TE TBr w' X r ∧ Below w.heap.size w w' := by
  have T := tb.tabS
  have HN2 : Hid (∀ w2, pt.Tabs w2 → RowC w2 A n c l → Calls Tryz.prog 127 #[.slice A n c] w2 fun e w' => Below w2.heap.size w2 w' ∧ ∃ X e1 f1, e = .returned (.tuple #[.agg #[X], .agg #[.int .i64 e1, .int .i64 f1]]) ∧ TBr w' w2.heap.size X r) := Lib.hid (fun w2 h1 h2 => (tbr_new w2 A n c l h1 h2 hn hsz).mono fun e w' h => ⟨h.1, by
    rcases h.2 with ⟨Z, h3, h4, h5⟩ | ⟨X, r', h3, h4, h5⟩
    · rw [hm] at h3; cases h3
    · rw [hm] at h3; injection h3 with h3; subst h3; exact ⟨X, 0, 0, h4, h5⟩⟩)
  have H := Lib.hid h; have HK := Lib.hid hK; have HT := Lib.hid T
  clear h hK T hsz hm
  go_enter Tryz.func111, Tryz.ntmps111
  go_wp2_with (go_at_call 127; refine (HN2.out _ (HT.out.stay _ _ HK.out (by repeat (first | (with_reducible exact Below.refl _ _) | (with_reducible refine Below.setCell ?_ (by simp) _) | (with_reducible refine Below.alloc ?_ (by simp) _)))) (H.out.below (by repeat (first | (with_reducible exact Below.refl _ _) | (with_reducible refine Below.setCell ?_ (by simp) _) | (with_reducible refine Below.alloc ?_ (by simp) _))))).mono ?_; rintro e2 w2 ⟨hb2, X, e1, f1, rfl, ht2⟩; obtain ⟨_, z0, z1⟩ := (f1_new w2 (.slice none 0 0) 74).below ((Below.refl (w2.alloc (.cells #[.slice none 0 0] 74)).heap.size _).alloc (Nat.le_refl _) (.cells #[.int .i64 0, .int .i64 0] 54)) (by simp); have hst := fun wx (a : Addr) m => run_store (P := Tryz.prog) (w := wx) (a := a) X m (HT.out.one _ _ _ ⟨_, ht2⟩); have q0 : w.heap.size < w2.heap.size := (by have := hb2.size; simp at this; omega); have hw : Below w2.heap.size w2 (w2.alloc (.cells #[X] 74)) := (Below.refl _ _).alloc (Nat.le_refl _) _; have hw2 : Below (w2.alloc (.cells #[X] 74)).heap.size (w2.alloc (.cells #[X] 74)) ((w2.alloc (.cells #[X] 74)).alloc (.cells #[.int .i64 e1, .int .i64 f1] 54)) := (Below.refl _ _).alloc (Nat.le_refl _) _; have X1 := (f1_new w2 X 74).below hw2 (by simp); have Y0 := (f1_new w (.slice none 0 0) 74).below hb2 (by simp); have Y1 := (Y0.below hw q0).below hw2 (by simp; omega); have n0 : ¬ w.heap.size = w2.heap.size := (by omega); have n1 : ¬ w2.heap.size = w.heap.size := (by omega); have HB2 := Lib.hid hb2; have HT2 := Lib.hid ht2; obtain ⟨_, x0, x1⟩ := X1; obtain ⟨_, y0, y1⟩ := Y1; clear hw hw2 hb2 ht2)
  have e0 : (w.alloc (.cells #[.slice none 0 0] 74)).heap.size = w.heap.size + 1 := World.size_alloc _ _
  have hs : Same (w.heap.size + 1) w2 ((((w2.setCell ⟨w.heap.size, 0, none⟩ X).alloc (.cells #[X] 74)).alloc (.cells #[.int .i64 e1, .int .i64 f1] 54))) := by
    refine ⟨by simp; omega, fun k h1 h2 => ?_⟩
    rw [Below.heap_alloc _ _ _ (by simp; omega), Below.heap_alloc _ _ _ (by simp; omega), Below.heap_setCell _ _ _ _ (by show k ≠ w.heap.size; omega)]
  have hb : Below w.heap.size w ((((w2.setCell ⟨w.heap.size, 0, none⟩ X).alloc (.cells #[X] 74)).alloc (.cells #[.int .i64 e1, .int .i64 f1] 54))) := by
    have h1 : Below w.heap.size w w2 := ((Below.refl _ _).alloc (Nat.le_refl _) (.cells #[.slice none 0 0] 74)).trans (HB2.out.mono (by simp))
    exact ((h1.setCell (Nat.le_refl _) _).alloc (by simp; omega) _).alloc (by simp; omega) _
  have ht := HT2.out
  rw [e0] at ht
  have htb := HT.out.keep _ _ _ _ _ ht hs
  have hc : ((((w2.setCell ⟨w.heap.size, 0, none⟩ X).alloc (.cells #[X] 74)).alloc (.cells #[.int .i64 e1, .int .i64 f1] 54))).cell? ⟨w.heap.size, 0, none⟩ = some X := by
    have h1 : (w2.setCell ⟨w.heap.size, 0, none⟩ X).cell? ⟨w.heap.size, 0, none⟩ = some X := World.cell?_setCell_same _ _ _ Y0.c0
    have h2 : Below (w2.setCell ⟨w.heap.size, 0, none⟩ X).heap.size (w2.setCell ⟨w.heap.size, 0, none⟩ X) ((w2.setCell ⟨w.heap.size, 0, none⟩ X).alloc (.cells #[X] 74)) := (Below.refl _ _).alloc (Nat.le_refl _) _
    have h3 := ((Below.refl ((w2.setCell ⟨w.heap.size, 0, none⟩ X).alloc (.cells #[X] 74)).heap.size _).alloc (Nat.le_refl _) (.cells #[.int .i64 e1, .int .i64 f1] 54)).cell (p := ⟨w.heap.size, 0, none⟩) (by simp; omega)
    exact h3.trans ((h2.cell (p := ⟨w.heap.size, 0, none⟩) (by simp; omega)).trans h1)
  refine bodyPost_ret (v := .agg #[X]) ?_ rfl ⟨X, rfl, ⟨_, htb⟩, hb⟩
  simp [results, Tryz.results111, go_sem, hc]
/-- Of pieces that were just laid. -/
theorem stable_lit (l : List Pce) (r : List (Int × Int)) (n : Nat) (w : World) (hT : pt.Tabs w) (hok : ∀ p ∈ l, p.ok) (hn : l.length = n) (h12 : n ≤ 12) (hs : ∀ p ∈ l, p.s.size ≤ 4000000) (hm : (made l).1 = some r) (t : TypeId) :
    Calls Tryz.prog 111 #[.slice (some ⟨w.heap.size, 0, none⟩) n n] (w.alloc (.cells (l.flatMap pcell).toArray t)) fun e w' => ∃ X, e = .returned (.agg #[X]) ∧ TE TBr w' X r ∧ Below w.heap.size w w' := by
  subst hn
  have hb := (Below.refl w.heap.size w).alloc (Nat.le_refl _) (.cells (l.flatMap pcell).toArray t)
  refine (stable_any _ _ _ l r _ (rowC_new w l hok (by omega) t) h12 hs hm (hT.below hb)).mono ?_
  rintro e w' ⟨X, h1, h2, h3⟩
  exact ⟨X, h1, h2, hb.trans (h3.mono (by simp))⟩
end Go.Proofs.YtiigknimfibdpaaGreatDoor.sg
namespace Go.Proofs.YtiigknimfibdpaaGreatDoor.sg
open Go.RowKit Go.Lib
open Go.Proofs.YtiigknimfibdpaaGreatDoor.tb
set_option linter.unusedVariables false
/-- A block of four words. -/
structure G4 (w : World) (b : Nat) (x y z u : Value) : Prop where
  lt : b < w.heap.size
  c0 : w.cell? ⟨b, 0, none⟩ = some x
  c1 : w.cell? ⟨b, 1, none⟩ = some y
  c2 : w.cell? ⟨b, 2, none⟩ = some z
  c3 : w.cell? ⟨b, 3, none⟩ = some u
  fr : ∀ i, w.frozen? ⟨b, i, none⟩ = false
theorem G4.below {w w' : World} {b B : Nat} {x y z u : Value} (h : G4 w b x y z u) (hb : Below B w w') (hB : b < B) : G4 w' b x y z u :=
  ⟨Nat.lt_of_lt_of_le h.lt hb.size, (hb.cell (p := ⟨b, 0, none⟩) hB).trans h.c0, (hb.cell (p := ⟨b, 1, none⟩) hB).trans h.c1, (hb.cell (p := ⟨b, 2, none⟩) hB).trans h.c2, (hb.cell (p := ⟨b, 3, none⟩) hB).trans h.c3, fun i => (hb.frozen (p := ⟨b, i, none⟩) hB).trans (h.fr i)⟩
theorem g4_new (w : World) (x y z u : Value) (t : Nat) : G4 (w.alloc (.cells #[x, y, z, u] t)) w.heap.size x y z u := by
  refine ⟨by simp, ?_, ?_, ?_, ?_, fun i => by simp⟩ <;> (rw [World.cell?_alloc_mark]; rfl)
set_option maxRecDepth 100000 in
theorem plain_any (w : World) : Calls Tryz.prog 152 #[] w fun e w' => e = .returned (.agg #[.int .i64 0, .int .i32 0, .int .i64 128, .string ⟨#[]⟩]) ∧ Below w.heap.size w w' := by
  go_enter Tryz.func152, Tryz.ntmps152
  go_wp2_with (go_at_call 112; refine (seq_any _ _ _ _).mono ?_; rintro e1 w1 ⟨rfl, hb1⟩; have HB := Lib.hid (((Below.refl w.heap.size w).alloc (Nat.le_refl _) (.cells #[.int .i64 0, .int .i32 0, .int .i64 0, .string ⟨#[]⟩] 139)).trans (hb1.mono (by simp))); obtain ⟨_, g0, g1, g2, g3, g4⟩ := (g4_new w (.int .i64 0) (.int .i32 0) (.int .i64 0) (.string ⟨#[]⟩) 139).below hb1 (by simp); clear hb1)
  refine bodyPost_ret (v := .agg #[.int .i64 0, .int .i32 0, .int .i64 128, .string ⟨#[]⟩]) (by simp [results, Tryz.results152, go_sem, g0, g1, g2, g3]) rfl ⟨rfl, ?_⟩
  exact ((((HB.out.setCell (p := ⟨w.heap.size, 0, none⟩) (by simp) _).setCell (p := ⟨w.heap.size, 1, none⟩) (by simp) _).setCell (p := ⟨w.heap.size, 2, none⟩) (by simp) _).setCell (p := ⟨w.heap.size, 3, none⟩) (by simp) _)
/-- The cell of a result, while it isn't written. -/
structure Gs (w W : World) : Prop where
  f : Fr W w.heap.size (.slice none 0 0)
  b : Below w.heap.size w W
theorem Gs.new (w : World) : Gs w (w.alloc (.cells #[.slice none 0 0] 74)) := ⟨fr_new w _, (Below.refl _ _).alloc (Nat.le_refl _) _⟩
theorem Gs.below {w W W' : World} (h : Gs w W) (hb : Below W.heap.size W W') : Gs w W' := ⟨h.f.below hb h.f.f.lt, h.b.trans (hb.mono h.b.size)⟩
theorem Gs.fin {w W : World} (h : Gs w W) {X : Value} {l : List (Int × Int)} (ht : TE TBr W X l) (u : Value) : TE TBr (W.setCell ⟨w.heap.size, 0, none⟩ u) X l ∧ Below w.heap.size w (W.setCell ⟨w.heap.size, 0, none⟩ u) ∧ (W.setCell ⟨w.heap.size, 0, none⟩ u).cell? ⟨w.heap.size, 0, none⟩ = some u :=
  ⟨te_put ht h.f u, h.b.setCell (p := ⟨w.heap.size, 0, none⟩) (Nat.le_refl _) _, (h.f.put' u).f.c0⟩
theorem okSeq (f t c : Int) (h : -9223372036854775808 ≤ f ∧ f ≤ 9223372036854775807 ∧ -2147483648 ≤ t ∧ t ≤ 2147483647 ∧ -9223372036854775808 ≤ c ∧ c ≤ 9223372036854775807) {s : ByteArray} (hs : s.size ≤ 2000) : (⟨f, t, c, s⟩ : Pce).ok :=
  ⟨h.1, h.2.1, h.2.2.1, h.2.2.2.1, h.2.2.2.2.1, h.2.2.2.2.2, by show s.size ≤ _; omega⟩
theorem lat_lit (W : World) (hW : pt.Tabs W) : Calls Tryz.prog 111 #[.slice (some ⟨W.heap.size, 0, none⟩) 1 1] (W.alloc (.cells #[.int .i64 0, .int .i32 0, .int .i64 256, .string ⟨#[]⟩] 139)) fun e w' => ∃ X, e = .returned (.agg #[X]) ∧ TE TBr w' X (tbl 0) ∧ Below W.heap.size W w' :=
  stable_lit [⟨0, 0, 256, ⟨#[]⟩⟩] (tbl 0) 1 W hW (by intro p hp; simp at hp; subst hp; exact okSeq _ _ _ (by decide) (by decide)) rfl (by decide) (by intro p hp; simp at hp; subst hp; decide) made_lat 139
theorem koi_lit (s : ByteArray) (hs : pt.scan s = (rusL, none)) (hz : s.size ≠ 0) (hz2 : s.size ≤ 2000) (W : World) (hW : pt.Tabs W) : Calls Tryz.prog 111 #[.slice (some ⟨W.heap.size, 0, none⟩) 2 2] (W.alloc (.cells #[.int .i64 0, .int .i32 0, .int .i64 128, .string ⟨#[]⟩, .int .i64 128, .int .i32 0, .int .i64 0, .string s] 139)) fun e w' => ∃ X, e = .returned (.agg #[X]) ∧ TE TBr w' X (tbl 1) ∧ Below W.heap.size W w' :=
  stable_lit [⟨0, 0, 128, ⟨#[]⟩⟩, ⟨128, 0, 0, s⟩] (tbl 1) 2 W hW (by intro p hp; simp at hp; rcases hp with rfl | rfl; exact okSeq _ _ _ (by decide) (by decide); exact okSeq _ _ _ (by decide) hz2) rfl (by decide) (by intro p hp; simp at hp; rcases hp with rfl | rfl; decide; (show s.size ≤ _); omega) (made_koi hs hz) 139
theorem cp_lit (s u : ByteArray) (hs : pt.scan s = (fraL, none)) (hz : s.size ≠ 0) (hz2 : s.size ≤ 2000) (hu : pt.scan u = (othL, none)) (hv : u.size ≠ 0) (hv2 : u.size ≤ 2000) (W : World) (hW : pt.Tabs W) :
    Calls Tryz.prog 111 #[.slice (some ⟨W.heap.size, 0, none⟩) 5 5] (W.alloc (.cells #[.int .i64 0, .int .i32 0, .int .i64 128, .string ⟨#[]⟩, .int .i64 128, .int .i32 1040, .int .i64 48, .string ⟨#[]⟩, .int .i64 176, .int .i32 0, .int .i64 0, .string s, .int .i64 224, .int .i32 1088, .int .i64 16, .string ⟨#[]⟩, .int .i64 240, .int .i32 0, .int .i64 0, .string u] 139)) fun e w' => ∃ X, e = .returned (.agg #[X]) ∧ TE TBr w' X (tbl 3) ∧ Below W.heap.size W w' :=
  stable_lit [⟨0, 0, 128, ⟨#[]⟩⟩, ⟨128, 1040, 48, ⟨#[]⟩⟩, ⟨176, 0, 0, s⟩, ⟨224, 1088, 16, ⟨#[]⟩⟩, ⟨240, 0, 0, u⟩] (tbl 3) 5 W hW (by intro p hp; simp at hp; rcases hp with rfl | rfl | rfl | rfl | rfl; exact okSeq _ _ _ (by decide) (by decide); exact okSeq _ _ _ (by decide) (by decide); exact okSeq _ _ _ (by decide) hz2; exact okSeq _ _ _ (by decide) (by decide); exact okSeq _ _ _ (by decide) hv2) rfl (by decide)
    (by intro p hp; simp at hp; rcases hp with rfl | rfl | rfl | rfl | rfl; decide; decide; (show s.size ≤ _); omega; decide; (show u.size ≤ _); omega) (made_cp hs hz hu hv) 139
theorem ukr_lit (W : World) (hW : pt.Tabs W) :
    Calls Tryz.prog 111 #[.slice (some ⟨W.heap.size, 0, none⟩) 6 6] (W.alloc (.cells #[.int .i64 164, .int .i32 0, .int .i64 0, .string ⟨#[209, 148]⟩, .int .i64 166, .int .i32 0, .int .i64 0, .string ⟨#[209, 150, 209, 151]⟩, .int .i64 173, .int .i32 0, .int .i64 0, .string ⟨#[210, 145]⟩, .int .i64 180, .int .i32 0, .int .i64 0, .string ⟨#[208, 132]⟩, .int .i64 182, .int .i32 0, .int .i64 0, .string ⟨#[208, 134, 208, 135]⟩, .int .i64 189, .int .i32 0, .int .i64 0, .string ⟨#[210, 144]⟩] 139)) fun e w' => ∃ X, e = .returned (.agg #[X]) ∧ TE TBr w' X ukr ∧ Below W.heap.size W w' :=
  stable_lit pUkr ukr 6 W hW (by intro p hp; simp [pUkr] at hp; rcases hp with rfl | rfl | rfl | rfl | rfl | rfl <;> exact okSeq _ _ _ (by decide) (by decide)) rfl (by decide) (by intro p hp; simp [pUkr] at hp; rcases hp with rfl | rfl | rfl | rfl | rfl | rfl <;> decide) made_ukr 139
set_option maxRecDepth 100000 in
set_option maxHeartbeats 2000000 in
theorem koi_any (w : World) (hT : pt.Tabs w) : Calls Tryz.prog 113 #[] w fun e w' => ∃ X, e = .returned (.agg #[X]) ∧ TE TBr w' X (tbl 1) ∧ Below w.heap.size w w' := by
  have HT := Lib.hid hT
  have G0 := Lib.hid (Gs.new w)
  have HTB := Lib.hid koi_lit
  clear hT
  go_enter Tryz.func113, Tryz.ntmps113
  go_wp2_with (first
    | (go_at_call 152; refine (plain_any _).mono ?_; rintro e1 w1 ⟨rfl, hb1⟩; have G1 := Lib.hid (G0.out.below hb1); clear hb1)
    | (go_at_call 128; refine (list_any _ _ _).mono ?_; rintro e2 w2 ⟨rfl, hb2⟩; have G2 := Lib.hid (G1.out.below hb2); clear hb2)
    | (go_at_call 111; refine (HTB.out _ (by decide +kernel) (by decide +kernel) (by decide +kernel) _ (HT.out.below G2.out.b)).mono ?_; rintro e3 w3 ⟨X, rfl, hx, hb3⟩; have G3 := Lib.hid (G2.out.below hb3); have X3 := Lib.hid hx; have hst := (fun wx (a : Addr) m => run_store (P := Tryz.prog) (w := wx) (a := a) X m (TE.one hx)); obtain ⟨⟨_, z0, z1⟩, _⟩ := G3.out.f; clear hx hb3))
  obtain ⟨t1, t2, t3⟩ := G3.out.fin X3.out X
  exact bodyPost_ret (v := .agg #[X]) (by simp [results, Tryz.results113, go_sem, t3]) rfl ⟨X, rfl, t1, t2⟩
set_option maxRecDepth 100000 in
set_option maxHeartbeats 2000000 in
theorem ukr_any (w : World) (hT : pt.Tabs w) : Calls Tryz.prog 114 #[] w fun e w' => ∃ X, e = .returned (.agg #[X]) ∧ TE TBr w' X ukr ∧ Below w.heap.size w w' := by
  have HT := Lib.hid hT
  have G0 := Lib.hid (Gs.new w)
  have HTB := Lib.hid ukr_lit
  clear hT
  go_enter Tryz.func114, Tryz.ntmps114
  go_wp2_with (first
    | (go_at_call 128; refine (list_any _ _ _).mono ?_; rintro e2 w2 ⟨rfl, hb2⟩; have G0 := Lib.hid (G0.out.below hb2); clear hb2)
    | (go_at_call 111; refine (HTB.out _ (HT.out.below G0.out.b)).mono ?_; rintro e3 w3 ⟨X, rfl, hx, hb3⟩; have G3 := Lib.hid (G0.out.below hb3); have X3 := Lib.hid hx; have hst := (fun wx (a : Addr) m => run_store (P := Tryz.prog) (w := wx) (a := a) X m (TE.one hx)); obtain ⟨⟨_, z0, z1⟩, _⟩ := G3.out.f; clear hx hb3))
  obtain ⟨t1, t2, t3⟩ := G3.out.fin X3.out X
  exact bodyPost_ret (v := .agg #[X]) (by simp [results, Tryz.results114, go_sem, t3]) rfl ⟨X, rfl, t1, t2⟩
set_option maxRecDepth 100000 in
set_option maxHeartbeats 2000000 in
theorem cp_any (w : World) (hT : pt.Tabs w) : Calls Tryz.prog 116 #[] w fun e w' => ∃ X, e = .returned (.agg #[X]) ∧ TE TBr w' X (tbl 3) ∧ Below w.heap.size w w' := by
  have HT := Lib.hid hT
  have G0 := Lib.hid (Gs.new w)
  have HTB := Lib.hid cp_lit
  clear hT
  go_enter Tryz.func116, Tryz.ntmps116
  go_wp2_with (first
    | (go_at_call 152; refine (plain_any _).mono ?_; rintro e1 w1 ⟨rfl, hb1⟩; have G0 := Lib.hid (G0.out.below hb1); clear hb1)
    | (go_at_call 112; refine (seq_any _ _ _ _).mono ?_; rintro e1 w1 ⟨rfl, hb1⟩; have G0 := Lib.hid (G0.out.below hb1); clear hb1)
    | (go_at_call 128; refine (list_any _ _ _).mono ?_; rintro e2 w2 ⟨rfl, hb2⟩; have G0 := Lib.hid (G0.out.below hb2); clear hb2)
    | (go_at_call 111; refine (HTB.out _ _ (by decide +kernel) (by decide +kernel) (by decide +kernel) (by decide +kernel) (by decide +kernel) (by decide +kernel) _ (HT.out.below G0.out.b)).mono ?_; rintro e3 w3 ⟨X, rfl, hx, hb3⟩; have G3 := Lib.hid (G0.out.below hb3); have X3 := Lib.hid hx; have hst := (fun wx (a : Addr) m => run_store (P := Tryz.prog) (w := wx) (a := a) X m (TE.one hx)); obtain ⟨⟨_, z0, z1⟩, _⟩ := G3.out.f; clear hx hb3))
  obtain ⟨t1, t2, t3⟩ := G3.out.fin X3.out X
  exact bodyPost_ret (v := .agg #[X]) (by simp [results, Tryz.results116, go_sem, t3]) rfl ⟨X, rfl, t1, t2⟩
end Go.Proofs.YtiigknimfibdpaaGreatDoor.sg
namespace Go.Proofs.YtiigknimfibdpaaGreatDoor.sg
open Go.RowKit Go.Lib
open Go.Proofs.YtiigknimfibdpaaGreatDoor.tb
set_option linter.unusedVariables false
set_option maxRecDepth 100000 in
set_option maxHeartbeats 2000000 in
theorem tof_lat (w : World) (hT : pt.Tabs w) : Calls Tryz.prog 71 #[.int .i64 0] w fun e w' => ∃ X, e = .returned (.tuple #[.agg #[X], .bool true]) ∧ TE TBr w' X (tbl 0) ∧ Below w.heap.size w w' := by
  have HT := Lib.hid hT
  have G0 := Lib.hid (Gs.new w)
  clear hT
  go_enter Tryz.func71, Tryz.ntmps71
  go_wp2_with (first | (go_at_call 112; refine (seq_any _ _ _ _).mono ?_; rintro e1 w1 ⟨rfl, hb1⟩; have G0 := Lib.hid (G0.out.below hb1); clear hb1) | (go_at_call 111; refine (lat_lit _ (HT.out.below G0.out.b)).mono ?_; rintro e3 w3 ⟨X, rfl, hx, hb3⟩; have G3 := Lib.hid (G0.out.below hb3); have X3 := Lib.hid hx; have hst := (fun wx (a : Addr) m => run_store (P := Tryz.prog) (w := wx) (a := a) X m (TE.one hx)); obtain ⟨⟨_, z0, z1⟩, _⟩ := G3.out.f; clear hx hb3))
  obtain ⟨t1, t2, t3⟩ := G3.out.fin X3.out X
  exact bodyPost_ret (v := .tuple #[.agg #[X], .bool true]) (by simp [results, Tryz.results71, go_sem, t3]) rfl ⟨X, rfl, t1, t2⟩
set_option maxRecDepth 100000 in
set_option maxHeartbeats 2000000 in
theorem tof_koi (w : World) (hT : pt.Tabs w) : Calls Tryz.prog 71 #[.int .i64 1] w fun e w' => ∃ X, e = .returned (.tuple #[.agg #[X], .bool true]) ∧ TE TBr w' X (tbl 1) ∧ Below w.heap.size w w' := by
  have HT := Lib.hid hT
  have G0 := Lib.hid (Gs.new w)
  clear hT
  go_enter Tryz.func71, Tryz.ntmps71
  go_wp2_with (first | (go_at_call 113; refine (koi_any _ (HT.out.below G0.out.b)).mono ?_; rintro e3 w3 ⟨X, rfl, hx, hb3⟩; have G3 := Lib.hid (G0.out.below hb3); have X3 := Lib.hid hx; have hst := (fun wx (a : Addr) m => run_store (P := Tryz.prog) (w := wx) (a := a) X m (TE.one hx)); obtain ⟨⟨_, z0, z1⟩, _⟩ := G3.out.f; clear hx hb3))
  obtain ⟨t1, t2, t3⟩ := G3.out.fin X3.out X
  exact bodyPost_ret (v := .tuple #[.agg #[X], .bool true]) (by simp [results, Tryz.results71, go_sem, t3]) rfl ⟨X, rfl, t1, t2⟩
set_option maxRecDepth 100000 in
set_option maxHeartbeats 2000000 in
theorem tof_cp (w : World) (hT : pt.Tabs w) : Calls Tryz.prog 71 #[.int .i64 3] w fun e w' => ∃ X, e = .returned (.tuple #[.agg #[X], .bool true]) ∧ TE TBr w' X (tbl 3) ∧ Below w.heap.size w w' := by
  have HT := Lib.hid hT
  have G0 := Lib.hid (Gs.new w)
  clear hT
  go_enter Tryz.func71, Tryz.ntmps71
  go_wp2_with (first | (go_at_call 116; refine (cp_any _ (HT.out.below G0.out.b)).mono ?_; rintro e3 w3 ⟨X, rfl, hx, hb3⟩; have G3 := Lib.hid (G0.out.below hb3); have X3 := Lib.hid hx; have hst := (fun wx (a : Addr) m => run_store (P := Tryz.prog) (w := wx) (a := a) X m (TE.one hx)); obtain ⟨⟨_, z0, z1⟩, _⟩ := G3.out.f; clear hx hb3))
  obtain ⟨t1, t2, t3⟩ := G3.out.fin X3.out X
  exact bodyPost_ret (v := .tuple #[.agg #[X], .bool true]) (by simp [results, Tryz.results71, go_sem, t3]) rfl ⟨X, rfl, t1, t2⟩
set_option maxRecDepth 100000 in
set_option maxHeartbeats 2000000 in
theorem tof_kou (w : World) (hT : pt.Tabs w) : Calls Tryz.prog 71 #[.int .i64 2] w fun e w' => ∃ X, e = .returned (.tuple #[.agg #[X], .bool true]) ∧ TE TBr w' X (tbl 2) ∧ Below w.heap.size w w' := by
  have HT := Lib.hid hT
  have G0 := Lib.hid (Gs.new w)
  clear hT
  go_enter Tryz.func71, Tryz.ntmps71
  go_wp2_with (first | (go_at_call 114; refine (ukr_any _ (HT.out.below G0.out.b)).mono ?_; rintro e1 w1 ⟨X1, rfl, hx1, hb1⟩; have G0 := Lib.hid (G0.out.below hb1); have Y1 := Lib.hid hx1; clear hb1 hx1) | (go_at_call 113; refine (koi_any _ (HT.out.below G0.out.b)).mono ?_; rintro e2 w2 ⟨X2, rfl, hx2, hb2⟩; have G0 := Lib.hid (G0.out.below hb2); have Y1 := Lib.hid (te_below Y1.out hb2); have Y2 := Lib.hid hx2; clear hb2 hx2) | (go_at_call 115; refine (tbr_over _ X1 X2 _ _ Y1.out Y2.out (by decide) (by rw [tbl_len]; decide)).mono ?_; rw [over_ukr]; rintro e3 w3 ⟨X, rfl, hx, hb3⟩; have G3 := Lib.hid (G0.out.below hb3); have X3 := Lib.hid hx; have hst := (fun wx (a : Addr) m => run_store (P := Tryz.prog) (w := wx) (a := a) X m (TE.one hx)); obtain ⟨⟨_, z0, z1⟩, _⟩ := G3.out.f; clear hx hb3))
  obtain ⟨t1, t2, t3⟩ := G3.out.fin X3.out X
  exact bodyPost_ret (v := .tuple #[.agg #[X], .bool true]) (by simp [results, Tryz.results71, go_sem, t3]) rfl ⟨X, rfl, t1, t2⟩
set_option maxRecDepth 100000 in
set_option maxHeartbeats 2000000 in
theorem tof_none (c : Int) (w : World) (h : c < 0 ∨ 3 < c) : Calls Tryz.prog 71 #[.int .i64 c] w fun e w' => e = .returned (.tuple #[.agg #[.slice none 0 0], .bool false]) ∧ Below w.heap.size w w' := by
  have G0 := Lib.hid (Gs.new w)
  have n0 : ¬ c = 0 := by omega
  have n1 : ¬ c = 1 := by omega
  have n2 : ¬ c = 2 := by omega
  have n3 : ¬ c = 3 := by omega
  clear h
  go_enter Tryz.func71, Tryz.ntmps71
  go_wp2_with fail
  refine bodyPost_ret (v := .tuple #[.agg #[.slice none 0 0], .bool false]) (by simp [results, Tryz.results71, go_sem]) rfl ⟨rfl, ?_⟩
  repeat (first | (with_reducible exact Below.refl _ _) | (with_reducible refine Below.setCell ?_ (by simp) _) | (with_reducible refine Below.alloc ?_ (by simp) _))
theorem tof_any (c : Int) (w : World) (hT : pt.Tabs w) (h0 : 0 ≤ c) (h1 : c ≤ 3) : Calls Tryz.prog 71 #[.int .i64 c] w fun e w' => ∃ X, e = .returned (.tuple #[.agg #[X], .bool true]) ∧ TE TBr w' X (tbl c) ∧ Below w.heap.size w w' := by
  rcases four h0 h1 with rfl | rfl | rfl | rfl
  · exact tof_lat w hT
  · exact tof_koi w hT
  · exact tof_kou w hT
  · exact tof_cp w hT
/-- A block of two words, of a type that is no row's. -/
structure K2 (w : World) (b : Nat) (t : TypeId) (x y : Value) : Prop where
  lt : b < w.heap.size
  c0 : w.cell? ⟨b, 0, none⟩ = some x
  c1 : w.cell? ⟨b, 1, none⟩ = some y
  fr : ∀ i, w.frozen? ⟨b, i, none⟩ = false
  k : ∃ cs, w.heap[b]? = some (.cells cs t)
theorem K2.below {w w' : World} {b B : Nat} {t : TypeId} {x y : Value} (h : K2 w b t x y) (hb : Below B w w') (hB : b < B) : K2 w' b t x y :=
  ⟨Nat.lt_of_lt_of_le h.lt hb.size, (hb.cell (p := ⟨b, 0, none⟩) hB).trans h.c0, (hb.cell (p := ⟨b, 1, none⟩) hB).trans h.c1, fun i => (hb.frozen (p := ⟨b, i, none⟩) hB).trans (h.fr i), by obtain ⟨cs, h⟩ := h.k; exact ⟨cs, by rw [hb.block b hB]; exact h⟩⟩
theorem k2_new (w : World) (t : TypeId) (x y : Value) : K2 (w.alloc (.cells #[x, y] t)) w.heap.size t x y := by
  refine ⟨by simp, ?_, ?_, fun i => by simp, ⟨_, heap_alloc_new w _⟩⟩ <;> (rw [World.cell?_alloc_mark]; rfl)
theorem kind_put {w : World} {p : Nat} {t : TypeId} (h : ∃ cs, w.heap[p]? = some (.cells cs t)) (o : Nat) (u : Value) : ∃ cs, (w.setCell ⟨p, o, none⟩ u).heap[p]? = some (.cells cs t) := by
  obtain ⟨cs, hk⟩ := h
  refine ⟨cs.setIfInBounds o u, ?_⟩
  obtain ⟨hp, hk2⟩ := Array.getElem?_eq_some_iff.1 hk
  simp only [World.setCell]
  rw [Array.getElem?_eq_getElem (by simpa using hp), Array.getElem_modify, hk2]
  simp
theorem te_set {w : World} {p o : Nat} {t : TypeId} {V : Value} {l : List (Int × Int)} (h : TE TBr w V l) (hp : ∃ cs, w.heap[p]? = some (.cells cs t)) (hne : t ≠ 145) (u : Value) : TE TBr (w.setCell ⟨p, o, none⟩ u) V l := by
  obtain ⟨B, S, ⟨h1, h2⟩, h3⟩ := h
  refine ⟨B, S, ⟨h1, ?_⟩, h3⟩
  rcases h2 with h2 | ⟨g, cap, cur, hv, hg, hh, r⟩
  · exact .inl h2
  · refine .inr ⟨g, cap, cur, hv, hg, ?_, r⟩
    have hgp : g ≠ p := fun e => by
      subst e
      obtain ⟨cs, hk⟩ := hp
      rw [hk] at hh
      injection hh with hh
      injection hh with _ hh
      exact hne hh
    rw [Below.heap_setCell _ _ _ _ hgp]; exact hh
set_option maxRecDepth 100000 in
set_option maxHeartbeats 2000000 in
theorem of_any (c : Int) (w : World) (hT : pt.Tabs w) (h0 : 0 ≤ c) (h1 : c ≤ 3) : Calls Tryz.prog 41 #[.int .i64 c] w fun e w' => ∃ X, e = .returned (.tuple #[.agg #[X, .int .i64 c], .bool true]) ∧ TE TBr w' X (tbl c) ∧ Below w.heap.size w w' := by
  have HT := Lib.hid hT
  have HTO := Lib.hid (fun w2 h2 => tof_any c w2 h2 h0 h1)
  have K0 := Lib.hid (k2_new w 76 (.slice none 0 0) (.int .i64 0))
  have B0 : Hid (Below w.heap.size w (w.alloc (.cells #[.slice none 0 0, .int .i64 0] 76))) := Lib.hid ((Below.refl _ _).alloc (Nat.le_refl _) _)
  clear hT h0 h1
  go_enter Tryz.func41, Tryz.ntmps41
  go_wp2_with (go_at_call 71; refine (HTO.out _ (HT.out.below B0.out)).mono ?_; rintro e1 w1 ⟨X, rfl, hx, hb1⟩; have q0 : w.heap.size < w1.heap.size := (by have := hb1.size; simp at this; omega); have B1 := Lib.hid (B0.out.trans (hb1.mono B0.out.size)); have K1 := Lib.hid (K0.out.below hb1 K0.out.lt); have X1 := Lib.hid hx; obtain ⟨_, z0, z1⟩ := f1_new w1 (.slice none 0 0) 74; have hst := (fun wx (a : Addr) m => run_store (P := Tryz.prog) (w := wx) (a := a) X m (TE.one hx)); have n0 : ¬ w1.heap.size = w.heap.size := (by omega); have n1 : ¬ w.heap.size = w1.heap.size := (by omega); obtain ⟨_, k0, k1, k2, _⟩ := K1.out; have hA : Below w1.heap.size w1 (w1.alloc (.cells #[X] 74)) := (Below.refl _ _).alloc (Nat.le_refl _) _; have X2 := Lib.hid (te_below hx hA); have B2 := Lib.hid (B1.out.trans (hA.mono B1.out.size)); have K2' := Lib.hid (K1.out.below hA K1.out.lt); obtain ⟨_, p0, p1, p2, _⟩ := K2'.out; clear hx hb1 hA)
  have k1' := kind_put K1.out.k 0 X
  have t2 := te_set (o := 1) (te_set (o := 0) X1.out K1.out.k (by decide) X) k1' (by decide) (.int .i64 c)
  have t3 := te_below t2 ((Below.refl _ _).alloc (Nat.le_refl _) (.cells #[X] 74))
  refine bodyPost_ret (v := .tuple #[.agg #[X, .int .i64 c], .bool true]) ?_ rfl ⟨X, rfl, t3, ((B1.out.setCell (p := ⟨w.heap.size, 0, none⟩) (Nat.le_refl _) _).setCell (p := ⟨w.heap.size, 1, none⟩) (Nat.le_refl _) _).alloc (by simp; omega) _⟩
  have lt2 : w.heap.size < ((w1.setCell ⟨w.heap.size, 0, none⟩ X).setCell ⟨w.heap.size, 1, none⟩ (.int .i64 c)).heap.size := by simpa using q0
  have hA := (Below.refl ((w1.setCell ⟨w.heap.size, 0, none⟩ X).setCell ⟨w.heap.size, 1, none⟩ (.int .i64 c)).heap.size _).alloc (Nat.le_refl _) (.cells #[X] 74)
  have r0 := hA.cell (p := ⟨w.heap.size, 0, none⟩) lt2
  have r1 := hA.cell (p := ⟨w.heap.size, 1, none⟩) lt2
  simp [results, Tryz.results41, go_sem, k0, k1, r0, r1]
set_option maxRecDepth 100000 in
set_option maxHeartbeats 2000000 in
theorem of_none (c : Int) (w : World) (h : c < 0 ∨ 3 < c) : Calls Tryz.prog 41 #[.int .i64 c] w fun e w' => e = .returned (.tuple #[.agg #[.slice none 0 0, .int .i64 0], .bool false]) ∧ Below w.heap.size w w' := by
  have HTO := Lib.hid (fun w2 => tof_none c w2 h)
  have K0 := Lib.hid (k2_new w 76 (.slice none 0 0) (.int .i64 0))
  have B0 : Hid (Below w.heap.size w (w.alloc (.cells #[.slice none 0 0, .int .i64 0] 76))) := Lib.hid ((Below.refl _ _).alloc (Nat.le_refl _) _)
  clear h
  go_enter Tryz.func41, Tryz.ntmps41
  go_wp2_with (go_at_call 71; refine (HTO.out _).mono ?_; rintro e1 w1 ⟨rfl, hb1⟩; have q0 : w.heap.size < w1.heap.size := (by have := hb1.size; simp at this; omega); have B1 := Lib.hid (B0.out.trans (hb1.mono B0.out.size)); have K1 := Lib.hid (K0.out.below hb1 K0.out.lt); obtain ⟨_, z0, z1⟩ := f1_new w1 (.slice none 0 0) 74; have n0 : ¬ w1.heap.size = w.heap.size := (by omega); have n1 : ¬ w.heap.size = w1.heap.size := (by omega); obtain ⟨_, k0, k1, k2, _⟩ := K1.out; have hA : Below w1.heap.size w1 (w1.alloc (.cells #[.slice none 0 0] 74)) := (Below.refl _ _).alloc (Nat.le_refl _) _; have B2 := Lib.hid (B1.out.trans (hA.mono B1.out.size)); have K2' := Lib.hid (K1.out.below hA K1.out.lt); obtain ⟨_, p0, p1, p2, _⟩ := K2'.out; clear hb1 hA)
  refine bodyPost_ret (v := .tuple #[.agg #[.slice none 0 0, .int .i64 0], .bool false]) ?_ rfl ⟨rfl, ((B1.out.setCell (p := ⟨w.heap.size, 0, none⟩) (Nat.le_refl _) _).setCell (p := ⟨w.heap.size, 1, none⟩) (Nat.le_refl _) _).alloc (by simp; omega) _⟩
  have lt2 : w.heap.size < ((w1.setCell ⟨w.heap.size, 0, none⟩ (.slice none 0 0)).setCell ⟨w.heap.size, 1, none⟩ (.int .i64 0)).heap.size := by simpa using q0
  have hA := (Below.refl ((w1.setCell ⟨w.heap.size, 0, none⟩ (.slice none 0 0)).setCell ⟨w.heap.size, 1, none⟩ (.int .i64 0)).heap.size _).alloc (Nat.le_refl _) (.cells #[.slice none 0 0] 74)
  have r0 := hA.cell (p := ⟨w.heap.size, 0, none⟩) lt2
  have r1 := hA.cell (p := ⟨w.heap.size, 1, none⟩) lt2
  simp [results, Tryz.results41, go_sem, k0, k1, r0, r1]
end Go.Proofs.YtiigknimfibdpaaGreatDoor.sg
namespace Go.Proofs.YtiigknimfibdpaaGreatDoor.sg
open Go.RowKit Go.Lib
open Go.Proofs.YtiigknimfibdpaaGreatDoor.tb
set_option linter.unusedVariables false
theorem lk_tbl {c : Int} (hs : Srt (tbl c)) (n : Nat) (h : n < 256) : lk (tbl c) (n : Int) = some (sgn c n) :=
  (lk_mem hs _ _).2 (List.mem_map.2 ⟨n, List.mem_range.2 h, rfl⟩)
theorem rev_from (c p : Int) : ∀ f k, rev ((List.range' k f).map fun (n : Nat) => ((n : Int), sgn c n)) p = byFrom c p f k
  | 0, k => rfl
  | f + 1, k => by
    rw [List.range'_succ, List.map_cons]
    unfold rev byFrom
    simp only
    rw [rev_from c p f (k + 1)]
theorem rev_tbl (c p : Int) : rev (tbl c) p = byte c p := by
  unfold tbl byte
  rw [List.range_eq_range']
  exact rev_from c p 256 0
theorem mk_runes (n : Nat) (h : n ≤ 4000) (w : World) : (Instr.makeSlice 58 (.int .i64 0) (.int .i64 (n : Int))).run Tryz.prog w = .ok (.slice (some ⟨w.heap.size, 0, none⟩) 0 n) (w.alloc (.cells (madeCells #[.int .i32 0] n) 21)) := by
  obtain ⟨i, hi, hzz⟩ := Option.map_eq_some_iff.1 pt.rune_info
  simp only [Prod.mk.injEq] at hzz
  obtain ⟨hz, hs, hb⟩ := hzz
  have hr := run_make (P := Tryz.prog) w 58 21 i (.int .i32 0) Tryz.underlying58 hi hz .i64 .i64 0 (n : Int) (Int.le_refl _) (by omega) (by rw [hb]; omega) (by omega)
  simp only [Int.toNat_natCast, hs, Nat.mul_one] at hr
  exact hr
def rv (l : List Int) : List Value := l.map (Value.int .i32)
theorem rv_snoc (l : List Int) (p : Int) : rv (l ++ [p]) = rv l ++ [.int .i32 p] := by simp [rv]
/-- A row of signs of the call's own is a row. -/
theorem own_rowI {w : World} {B : Nat} {e : TypeId} {v : Value} {l : List Int} (h : w.ownsRow B e 1 v l.length (rv l)) : ∃ A c, v = .slice A l.length c ∧ pt.RowI w A l.length c l := by
  obtain ⟨h1, ⟨rfl, h3⟩ | ⟨g, cap, cur, rfl, hb, hg, hn, hm, hs, ht⟩⟩ := h
  · rw [h3]; exact ⟨none, 0, rfl, .inl ⟨rfl, rfl, rfl, List.length_eq_zero_iff.1 h3⟩⟩
  · refine ⟨_, cap, rfl, .inr ⟨⟨g, 0, none⟩, rfl, hn, hm, rfl, fun i hi => ?_⟩⟩
    have e : (⟨g, 0, none⟩ : Addr).add i = ⟨g, i, none⟩ := by rw [Addr.add_lit, Nat.zero_add]
    have hu : (rv l)[i]? = some (.int .i32 (l.getD i 0)) := by simp [rv, List.getElem?_eq_getElem hi, List.getD]
    rw [e]
    rw [← ht, List.getElem?_take, if_pos (by omega), Array.getElem?_toList] at hu
    simp only [World.cell?, hg, Option.isSome_none, Bool.false_eq_true, if_false]
    exact hu
/-- The world in which the loop begins. -/
def dcW (w : World) (X : Value) (c : Int) : World := (w.alloc (.cells #[X, .int .i64 c] 76)).alloc (.cells #[.int .i64 0, .int .i64 0] 54)
theorem dcW_size (w : World) (X : Value) (c : Int) : (dcW w X c).heap.size = w.heap.size + 1 + 1 := by simp [dcW]
/-- What stands while a charset's text is made. -/
structure Dc (w : World) (X : Value) (c : Int) (l : List (Int × Int)) (W : World) : Prop where
  k : K2 W w.heap.size 76 X (.int .i64 c)
  f : pt.F2 W (w.heap.size + 1) 0 0
  t : TE TBr W X l
  b : Below w.heap.size w W
  g : Below (w.heap.size + 1 + 1) (dcW w X c) W
theorem Dc.of {w W : World} {X : Value} {c : Int} {l : List (Int × Int)} (h : TE TBr w X l) (g : Below (w.heap.size + 1 + 1) (dcW w X c) W) : Dc w X c l W := by
  have h1 : Below (w.alloc (.cells #[X, .int .i64 c] 76)).heap.size (w.alloc (.cells #[X, .int .i64 c] 76)) (dcW w X c) := (Below.refl _ _).alloc (Nat.le_refl _) _
  have h2 : Below w.heap.size w (dcW w X c) := ((Below.refl _ _).alloc (Nat.le_refl _) _).alloc (by simp) _
  have h3 := h2.trans (g.mono (by omega))
  refine ⟨((k2_new w _ _ _).below h1 (by simp)).below g (by omega), ?_, te_below h h3, h3, g⟩
  have := pt.f2_new (w.alloc (.cells #[X, .int .i64 c] 76)) 0 0 54
  rw [World.size_alloc] at this
  exact pt.F2.below this g (by omega)
theorem Dc.below {w W W' : World} {X : Value} {c : Int} {l : List (Int × Int)} (h : Dc w X c l W) (hb : Below W.heap.size W W') : Dc w X c l W' :=
  ⟨h.k.below hb h.k.lt, h.f.below hb h.f.lt, te_below h.t hb, h.b.trans (hb.mono h.b.size), h.g.trans (hb.mono (by have := h.g.size; rw [dcW_size] at this; exact this))⟩
theorem Dc.new {w : World} {X : Value} {c : Int} {l : List (Int × Int)} (h : TE TBr w X l) : Dc w X c l (dcW w X c) := Dc.of h (Below.refl _ _)
theorem Dc.le {w W : World} {X : Value} {c : Int} {l : List (Int × Int)} (h : Dc w X c l W) : w.heap.size + 1 + 1 ≤ W.heap.size := by have := h.g.size; rw [dcW_size] at this; exact this
set_option maxRecDepth 100000 in
set_option maxHeartbeats 4000000 in
theorem decode_any (c c' : Int) (X : Value) (s : ByteArray) (w : World) (h0 : 0 ≤ c) (h1 : c ≤ 3) (hs : s.size ≤ 4000) (hx : TE TBr w X (tbl c)) :
    Calls Tryz.prog 43 #[.agg #[X, .int .i64 c'], .string s] w fun e w' => e = .returned (.tuple #[.string (pt.txt (sdec c s.data.toList)), .agg #[.int .i64 0, .int .i64 0]]) ∧ Below w.heap.size w w' := by
  have hl : s.data.toList.length = s.size := by rw [Array.length_toList]; rfl
  have hsr := tb.tabS.srt _ _ _ hx
  have h1c := TE.one hx
  have hval := sdec_valid h0 h1 s.data.toList
  obtain ⟨i0, hi0, hzz⟩ := Option.map_eq_some_iff.1 pt.rune_info
  simp only [Prod.mk.injEq] at hzz
  obtain ⟨hz, hsi, hby⟩ := hzz
  have hmk := mk_runes s.size hs
  have HL := Lib.hid hl; have HX := Lib.hid hx; have HSR := Lib.hid hsr; have HVAL := Lib.hid hval
  have D0 : Hid (Dc w X c' (tbl c) (dcW w X c')) := Lib.hid (Dc.new hx)
  have HST : Hid (((dcW w X c').alloc (.cells (madeCells #[.int .i32 0] s.size) 21)).ownsRow (w.heap.size + 1 + 1) 21 1 (.slice (some ⟨w.heap.size + 1 + 1, 0, none⟩) 0 s.size) 0 []) := Lib.hid (by
    have e : (dcW w X c').heap.size = w.heap.size + 1 + 1 := by simp [dcW]
    have h := World.ownsRow_made (base := w.heap.size + 1 + 1) (e := 21) (size := 1) (dcW w X c') (madeCells #[.int .i32 0] s.size) s.size (by omega) (by unfold maxLen; omega) (by simp [madeCells])
    rwa [e] at h)
  clear hl hx hsr hval
  obtain ⟨⟨_, z0, z1, z2, _⟩, ⟨_, z3, z4, z5, z6⟩, _, _⟩ := D0.out
  go_enter Tryz.func43, Tryz.ntmps43
  go_wp2_with fail
  go_loopw [6, 17] (fun v i wr => ∃ j : Nat, j ≤ s.size ∧ i = .int .i64 j ∧ wr.ownsRow (w.heap.size + 1 + 1) 21 1 v j (rv (sdec c (s.data.toList.take j))) ∧ Dc w X c' (tbl c) wr) (fun _ i _ => s.size - (RowKit.intOf i).toNat)
  case atStart => exact ⟨0, Nat.zero_le _, rfl, HST.out, D0.out.below ((Below.refl _ _).alloc (Nat.le_refl _) _)⟩
  case round =>
    obtain ⟨j, hj, rfl, hown, hD⟩ := hrel
    have HOW := Lib.hid hown
    have DA := Lib.hid hD
    have DB := Lib.hid (hD.below (Below.refl _ _).drew)
    clear hown hD
    by_cases hlt : j < s.size
    · have htk : s.data.toList.take (j + 1) = s.data.toList.take j ++ [s[j]] := by
        rw [List.take_add_one, List.getElem?_eq_getElem (by have := HL.out; omega)]; simp; rfl
      have hb := (s[j]).toNat_lt
      have hsn : rv (sdec c (s.data.toList.take (j + 1))) = rv (sdec c (s.data.toList.take j)) ++ [.int .i32 (sgn c (s[j]).toNat)] := by
        rw [htk, sdec_app, ← rv_snoc]; rfl
      have hfw : ∀ W, TE TBr W X (tbl c) → Calls Tryz.prog 72 #[.agg #[X], .int .i64 (IntKind.i64.wrap ((s[j]).toNat : Int))] W fun e w' => e = .returned (.tuple #[.int .i32 (sgn c (s[j]).toNat), .bool true]) ∧ Below W.heap.size W w' := fun W hW => by
        rw [show IntKind.i64.wrap ((s[j]).toNat : Int) = ((s[j]).toNat : Int) from wrap64 (by omega) (by omega)]
        exact (tbr_forward W X _ _ hW (by rw [tbl_len]; decide)).mono fun e w' h => ⟨by rw [h.1, lk_tbl HSR.out _ hb]; rfl, h.2⟩
      generalize sgn c (s[j]).toNat = S at *
      have HSN := Lib.hid hsn; have HFW := Lib.hid hfw
      clear htk hsn hfw
      obtain ⟨⟨_, k0, k1, k2, _⟩, _⟩ := DA.out
      go_wp2_with fail
      go_region_held3 (fun w' => w'.cell? ⟨w.heap.size, 0, none⟩ = some X) (go_keep) (first | (go_at_call 72; refine (HFW.out _ DB.out.t).mono ?_; rintro e1 w1 ⟨rfl, hb1⟩; have DC := Lib.hid (DB.out.below hb1); have OC := Lib.hid (pt.owns_below (pt.owns_below HOW.out (Below.refl _ _).drew) hb1); obtain ⟨⟨_, m0, m1, m2, _⟩, _⟩ := DC.out; clear hb1))
      all_goals go_wp2_with (at_builtin; refine wpList_append_own _ rfl _ _ 58 rfl (w.heap.size + 1 + 1) 21 i0 (.int .i32 0) 1 4 Tryz.underlying58 hi0 hz hsi hby rfl (by decide) _ _ _ rfl (OC.out.alloc _) ⟨w1.heap.size, 0, none⟩ 1 1 [.int .i32 S] rfl rfl ?c1 ?c2 ?c3 ?c4 ?c5 ?_)
      case c1 =>
        intro j u hj
        match j, hj with
        | 0, hj =>
          simp at hj
          subst hj
          have e : (⟨w1.heap.size, 0, none⟩ : Addr).add 0 = ⟨w1.heap.size, 0, none⟩ := by simp [Addr.add]
          rw [e, World.cell?_alloc_mark]; rfl
        | (j + 1), hj => simp at hj
      case c2 => intro u hu; simp at hu; subst hu; rfl
      case c3 => unfold maxLen; omega
      case c4 => omega
      case c5 => have := DC.out.le; simp; omega
      intro v' w2 hown2 hgrow _
      have HO2 := Lib.hid hown2
      have DE := Lib.hid (Dc.of (c := c') HX.out (pt.below_grown DC.out.g DC.out.le OC.out hgrow))
      clear hown2
      go_wp2_with fail
      go_roundw
      case rel => exact ⟨j + 1, by omega, by go_num, by rw [HSN.out]; exact HO2.out, DE.out⟩
      case measure => simp [RowKit.intOf]; omega
    · obtain rfl : j = s.size := by omega
      have htk : s.data.toList.take s.size = s.data.toList := List.take_of_length_le (by have := HL.out; omega)
      rw [htk] at HOW
      have hlen : (sdec c s.data.toList).length = s.size := by rw [sdec_len]; exact HL.out
      rw [← hlen] at HOW
      obtain ⟨A1, c1, rfl, hr⟩ := own_rowI HOW.out
      rw [hlen] at hr
      have hv := HVAL.out
      have htx : ∀ W, Below wr.heap.size wr W → Calls Tryz.prog 73 #[.slice A1 (sdec c s.data.toList).length c1] W fun e w' => e = .returned (.tuple #[.string (pt.txt (sdec c s.data.toList)), .bool true]) ∧ Below W.heap.size W w' := fun W hW => by
        have h := pt.text_row A1 s.size c1 _ W (hr.below hW) (by omega)
        rw [hv, if_pos rfl] at h
        rwa [hlen]
      obtain ⟨T, hT⟩ : ∃ T, T = pt.txt (sdec c s.data.toList) := ⟨_, rfl⟩
      rw [← hT] at htx
      have HT := Lib.hid hT
      rw [hlen] at htx
      rw [hlen]
      have HTX := Lib.hid htx
      clear htk hr hv htx hT
      go_wp2_with (go_at_call 73; refine (HTX.out _ (Below.refl _ _)).mono ?_; rintro e1 w1 ⟨rfl, hb1⟩; have DC := Lib.hid (DA.out.below hb1); obtain ⟨_, ⟨_, f0, f1, f2, f3⟩, _, _⟩ := DC.out)
      refine bodyPost_ret (v := .tuple #[.string T, .agg #[.int .i64 0, .int .i64 0]]) (by simp [results, Tryz.results43, go_sem, f0, f1]) rfl ⟨by rw [HT.out], ?_⟩
      exact (DC.out.b.setCell (p := ⟨w.heap.size + 1, 0, none⟩) (Nat.le_succ _) _).setCell (p := ⟨w.heap.size + 1, 1, none⟩) (Nat.le_succ _) _
end Go.Proofs.YtiigknimfibdpaaGreatDoor.sg
namespace Go.Proofs.YtiigknimfibdpaaGreatDoor.sg
open Go.RowKit Go.Lib
open Go.Proofs.YtiigknimfibdpaaGreatDoor.tb
set_option linter.unusedVariables false
def bv (l : List UInt8) : List Value := l.map fun b => Value.int .u8 (b.toNat : Int)
theorem str_bytes (l : List UInt8) : strOfNums (l.map fun b => (b.toNat : Int)) = ⟨l.toArray⟩ := by
  apply ByteArray.ext
  apply Array.ext'
  show (strOfNums _).data.toList = l
  rw [strOfNums_data, List.map_map]
  conv => rhs; rw [← List.map_id l]
  apply List.map_congr_left
  intro b _
  simp
theorem kind_it {w : World} {B : Nat} {e : TypeId} {k n it : Nat} {v : Value} {xs : List Value} {s : ByteArray} {pos : Nat} (h : w.ownsRow B e k v n xs) (hX : w.heap[it]? = some (.stringIter s pos)) : v.ownBlock ≠ some it := by
  obtain ⟨_, ⟨rfl, _⟩ | ⟨g, cap, cur, rfl, _, hg, _⟩⟩ := h
  · simp [Value.ownBlock]
  · intro hx
    simp [Value.ownBlock] at hx
    subst hx
    rw [hX] at hg
    cases hg
theorem own_iter {w : World} {B : Nat} {e : TypeId} {k n it : Nat} {v : Value} {xs : List Value} {s : ByteArray} {pos : Nat} (h : w.ownsRow B e k v n xs) (hX : w.heap[it]? = some (.stringIter s pos)) (s' : ByteArray) (pos' : Nat) : (w.iterAt it s' pos').ownsRow B e k v n xs := by
  obtain ⟨h1, h2 | ⟨g, cap, cur, rfl, hb, hg, r⟩⟩ := h
  · exact ⟨h1, .inl h2⟩
  · refine ⟨h1, .inr ⟨g, cap, cur, rfl, hb, ?_, r⟩⟩
    rw [iterAt_other _ _ _ _ _ (fun e => by subst e; rw [hX] at hg; cases hg)]
    exact hg
/-- What Encode answers. -/
def SEnc (w : World) (r : List UInt8 × Option Nat) (e : Ending) (w' : World) : Prop :=
  e = .returned (.tuple #[.string (if r.2 = none then ⟨r.1.toArray⟩ else ⟨#[]⟩), .agg #[.int .i64 (if r.2 = none then 0 else 6), .int .i64 (pt.fa r.2)]]) ∧ Below w.heap.size w w'
set_option maxRecDepth 100000 in
set_option maxHeartbeats 4000000 in
theorem encode_good (c c' : Int) (X : Value) (zs : List Int) (w : World) (h0 : 0 ≤ c) (h1 : c ≤ 3) (hs : (pt.txt zs).size ≤ 4000) (hv : zs.all validRune = true) (hx : TE TBr w X (tbl c)) (hT : pt.Tabs w) :
    Calls Tryz.prog 94 #[.agg #[X, .int .i64 c'], .string (pt.txt zs)] w (SEnc w (senc c 0 zs)) := by
  have hsr := tb.tabS.srt _ _ _ hx
  have h1c := TE.one hx
  obtain ⟨R, hR⟩ : ∃ R, R = senc c 0 zs := ⟨_, rfl⟩
  rw [← hR]
  obtain ⟨s, hS⟩ : ∃ s, s = pt.txt zs := ⟨_, rfl⟩
  have hah : pt.Ahead s 0 zs [] := by
    unfold pt.Ahead
    rw [hS, List.drop_zero, List.append_nil]; rfl
  have hchk : ∀ W, pt.Tabs W → Calls Tryz.prog 69 #[.string s] W fun e w' => e = .returned (.agg #[.int .i64 0, .int .i64 0]) ∧ Below W.heap.size W w' := fun W hW => by
    have h := pt.check_any s W (by rw [hS]; omega) hW
    rw [hS, (pt.scan_txt zs hv).1, ← hS] at h
    exact h
  have HBD : Hid (∀ W, Calls Tryz.prog 24 #[.agg #[.int .i64 0, .int .i64 0]] W fun e w' => e = .returned (.bool false) ∧ Below W.heap.size W w') := Lib.hid (fun W => pt.bad_any W 0 0)
  rw [← hS] at hs ⊢
  have hmk := pt.mk_bytes s.size hs
  have HX := Lib.hid hx; have HSR := Lib.hid hsr; have HT := Lib.hid hT; have HR := Lib.hid hR; have HAH := Lib.hid hah; have HCK := Lib.hid hchk; have HV := Lib.hid hv
  have D0 : Hid (Dc w X c' (tbl c) (dcW w X c')) := Lib.hid (Dc.new hx)
  clear hx hsr hT hR hah hchk hv hS
  go_enter Tryz.func94, Tryz.ntmps94
  go_wp2_with (first
    | (go_at_call 69; refine (HCK.out _ (HT.out.below D0.out.b)).mono ?_; rintro e1 w1 ⟨rfl, hb1⟩; have D1 := Lib.hid (D0.out.below hb1); clear hb1; obtain ⟨_, z0, z1, z2, z3⟩ := pt.f2_new w1 0 0 54)
    | (go_at_call 24; refine (HBD.out _).mono ?_; rintro e2 w2 ⟨rfl, hb2⟩; have D2 := Lib.hid ((D1.out.below ((Below.refl _ _).alloc (Nat.le_refl _) (.cells #[.int .i64 0, .int .i64 0] 54))).below hb2); clear hb2))
  have hle := D2.out.le
  have hitle : w.heap.size + 1 + 1 ≤ (w2.heap.size + 1) := by omega
  go_loopw [7] (fun v wr => ∃ (pos : Nat) (zr : List Int) (pre : List UInt8), wr.heap[(w2.heap.size + 1)]? = some (.stringIter s pos) ∧ pos ≤ s.size ∧ pre.length ≤ pos ∧ pt.Ahead s pos zr [] ∧ zr.all validRune = true ∧ R = (pre ++ (senc c pos zr).1, (senc c pos zr).2) ∧ wr.ownsRow (w.heap.size + 1 + 1) 5 1 v pre.length (bv pre) ∧ Dc w X c' (tbl c) wr) (fun _ wr => s.size - wr.iterPos (w2.heap.size + 1))
  case atStart =>
    have h1 : Below w2.heap.size w2 (w2.alloc (.cells (madeCells #[.int .u8 0] s.size) 5)) := (Below.refl _ _).alloc (Nat.le_refl _) _
    have h2 : Below (w2.alloc (.cells (madeCells #[.int .u8 0] s.size) 5)).heap.size (w2.alloc (.cells (madeCells #[.int .u8 0] s.size) 5)) ((w2.alloc (.cells (madeCells #[.int .u8 0] s.size) 5)).iter s 0) := (Below.refl _ _).alloc (Nat.le_refl _) _
    refine ⟨0, zs, [], ?_, Nat.zero_le _, Nat.le_refl _, HAH.out, HV.out, by rw [HR.out]; rfl, ?_, (D2.out.below h1).below h2⟩
    · have := World.iter_heap (w2.alloc (.cells (madeCells #[.int .u8 0] s.size) 5)) s 0
      rw [World.size_alloc] at this
      exact this
    · exact pt.owns_below (World.ownsRow_made w2 _ s.size hle (by unfold maxLen; omega) (by simp [madeCells])) h2
  case round =>
    obtain ⟨pos, zr, pre, hi, hpos, hpl, ha, hvz, hq, hown, hD⟩ := hrel
    have HIT := Lib.hid hi; have HOW := Lib.hid hown; have DA := Lib.hid hD; have HQ := Lib.hid hq
    have hal := pt.ahead_len ha hpos
    cases zr with
    | nil =>
      have hp : ¬ pos < s.size := by simp [pt.nums] at hal; omega
      have hnx : ∀ ty, (Instr.next (.pointer (some ⟨(w2.heap.size + 1), 0, none⟩)) true ty).run Tryz.prog wr = _ := fun ty => run_next_end_at wr (w2.heap.size + 1) s pos ty HIT.out hp
      have hr : R = (pre, none) := by rw [HQ.out]; simp [senc]
      have HRR := Lib.hid hr
      have hcv := pt.conv_row wr (w.heap.size + 1 + 1) _ (pre.map fun b => (b.toNat : Int)) (by rw [List.length_map, List.map_map]; exact HOW.out)
      rw [str_bytes] at hcv
      obtain ⟨T, hTT⟩ : ∃ T, (⟨pre.toArray⟩ : ByteArray) = T := ⟨_, rfl⟩
      rw [hTT] at hcv
      have HTT := Lib.hid hTT
      obtain ⟨_, ⟨_, f0, f1, f2, f3⟩, _, _⟩ := DA.out
      clear hi hown hD hq ha hvz hr hal hTT
      go_wp2_with fail
      refine bodyPost_ret (v := .tuple #[.string T, .agg #[.int .i64 0, .int .i64 0]]) (by simp [results, Tryz.results94, go_sem, f0, f1]) rfl ⟨by rw [HRR.out, ← HTT.out]; rfl, ?_⟩
      exact (DA.out.b.setCell (p := ⟨w.heap.size + 1, 0, none⟩) (Nat.le_succ _) _).setCell (p := ⟨w.heap.size + 1, 1, none⟩) (Nat.le_succ _) _
    | cons x zr =>
      have hvx : validRune x = true := List.all_eq_true.1 hvz x (List.mem_cons_self ..)
      have hvr : zr.all validRune = true := by rw [List.all_cons, Bool.and_eq_true] at hvz; exact hvz.2
      have hdec := pt.decode_ahead ha hpos hvx
      have han := pt.ahead_next ha
      have hl1 := (encodeRuneZ_length x).1
      have hxr := pt.valid_range hvx
      have hp : pos < s.size := by simp [pt.nums] at hal; omega
      have hpe : pos + (encodeRuneZ x).length ≤ s.size := by simp [pt.nums] at hal; omega
      have hnx : ∀ ty, (Instr.next (.pointer (some ⟨(w2.heap.size + 1), 0, none⟩)) true ty).run Tryz.prog wr = _ := fun ty => run_next_any_at wr (w2.heap.size + 1) s pos ty HIT.out hp
      rw [hdec] at hnx
      simp only at hnx
      rw [show ((x.toNat : Nat) : Int) = x by omega] at hnx
      have H1 := Lib.hid (iterAt_heap wr (w2.heap.size + 1) s pos (pos + (encodeRuneZ x).length) HIT.out)
      have O1 := Lib.hid (own_iter HOW.out HIT.out s (pos + (encodeRuneZ x).length))
      have D1' := Lib.hid (Dc.of (c := c') HX.out (below_iterAt DA.out.g hitle s (pos + (encodeRuneZ x).length)))
      have hrv : ∀ W, TE TBr W X (tbl c) → Calls Tryz.prog 126 #[.agg #[X], .int .i32 x] W fun e w' => e = .returned (.tuple #[.int .i64 (if byte c x < 0 then 0 else byte c x), .bool (!decide (byte c x < 0))]) ∧ Below W.heap.size W w' := fun W hW => by
        have h := tbr_reverse W X _ x hW (by rw [tbl_len]; decide)
        rwa [rev_tbl] at h
      have hq := HQ.out
      have HAN := Lib.hid han; have HVR := Lib.hid hvr
      obtain ⟨⟨_, k0, k1, k2, _⟩, ⟨_, f0, f1, f2, f3⟩, _, _⟩ := D1'.out
      have HIB2 : Hid ((w2.heap.size + 1) < wr.heap.size) := Lib.hid (Array.getElem?_eq_some_iff.1 HIT.out).1
      clear hi hown hD ha hvz hvr hal hdec han hvx
      generalize hL : (encodeRuneZ x).length = L at *
      rcases byte_cases c x with ⟨hb, _⟩ | ⟨k, hb, hk, _⟩
      · rw [senc_cons_bad (by omega), List.append_nil] at hq
        rw [hb] at hrv
        have HRR := Lib.hid hq; have HRV := Lib.hid hrv
        clear hq hrv hb hL
        go_wp2_with (go_at_call 126; refine (HRV.out _ D1'.out.t).mono ?_; rintro e3 w3 ⟨rfl, hb3⟩; have D3 := Lib.hid (D1'.out.below hb3); clear hb3; obtain ⟨_, ⟨_, g0, g1, g2, g3⟩, _, _⟩ := D3.out)
        refine bodyPost_ret (v := .tuple #[.string ⟨#[]⟩, .agg #[.int .i64 6, .int .i64 pos]]) (by simp [results, Tryz.results94, go_sem, g0, g1]) rfl ⟨by rw [HRR.out]; rfl, ?_⟩
        exact (D3.out.b.setCell (p := ⟨w.heap.size + 1, 0, none⟩) (Nat.le_succ _) _).setCell (p := ⟨w.heap.size + 1, 1, none⟩) (Nat.le_succ _) _
      · rw [senc_cons_good hb] at hq
        rw [hb] at hrv
        rw [hL] at hq
        have e1 : (if (k : Int) < 0 then (0 : Int) else (k : Int)) = (k : Int) := if_neg (by omega)
        have e2 : (!decide ((k : Int) < 0)) = true := by simp
        rw [e1, e2] at hrv
        have hu8 : IntKind.u8.wrap (k : Int) = (k : Int) := by simp [IntKind.wrap, IntKind.bits, IntKind.signed]; omega
        have hbv : bv (pre ++ [UInt8.ofNat k]) = bv pre ++ [.int .u8 (k : Int)] := by simp [bv, UInt8.toNat_ofNat_of_lt' (show k < UInt8.size by exact hk)]
        have HRR := Lib.hid hq; have HRV := Lib.hid hrv; have HBV := Lib.hid hbv
        clear hq hrv hb hL e1 e2 hbv
        obtain ⟨i0, hi0, hzz⟩ := Option.map_eq_some_iff.1 pt.byte_info
        simp only [Prod.mk.injEq] at hzz
        obtain ⟨hz, hsi, hby⟩ := hzz
        go_wp2_with (first | (go_at_call 126; refine (HRV.out _ D1'.out.t).mono ?_; rintro e3 w3 ⟨rfl, hb3⟩; have D3 := Lib.hid (D1'.out.below hb3); have O3 := Lib.hid (pt.owns_below O1.out hb3); have HB3 := Lib.hid hb3; clear hb3) | (at_builtin; refine wpList_append_own _ rfl _ _ 98 rfl (w.heap.size + 1 + 1) 5 i0 (.int .u8 0) 1 1 Tryz.underlying98 hi0 hz hsi hby rfl (by decide) _ _ _ rfl (O3.out.alloc _) ⟨w3.heap.size, 0, none⟩ 1 1 [.int .u8 (k : Int)] rfl rfl ?c1 ?c2 ?c3 ?c4 ?c5 ?_))
        case c1 =>
          intro j u hj
          match j, hj with
          | 0, hj =>
            simp at hj
            subst hj
            have e : (⟨w3.heap.size, 0, none⟩ : Addr).add 0 = ⟨w3.heap.size, 0, none⟩ := by simp [Addr.add]
            rw [e, World.cell?_alloc_mark]; rfl
          | (j + 1), hj => simp at hj
        case c2 => intro u hu; simp at hu; subst hu; rfl
        case c3 => unfold maxLen; omega
        case c4 => omega
        case c5 => have := D3.out.le; simp; omega
        intro v' w4 hown4 hgrow _
        have HO4 := Lib.hid hown4
        have hsz3 : w2.heap.size + 1 < w3.heap.size := Nat.lt_of_lt_of_le (by rw [iterAt_size]; exact HIB2.out) HB3.out.size
        have i3 : w3.heap[w2.heap.size + 1]? = some (.stringIter s (pos + L)) := (HB3.out.block _ (by rw [iterAt_size]; exact HIB2.out)).trans H1.out
        have i4 : w4.heap[w2.heap.size + 1]? = some (.stringIter s (pos + L)) := by
          rw [hgrow.block _ (by simp; omega) (fun e => kind_it O3.out i3 e.symm), Below.heap_alloc _ _ _ (by omega)]
          exact i3
        have DE := Lib.hid (Dc.of (c := c') HX.out (pt.below_grown D3.out.g D3.out.le O3.out hgrow))
        have HI4 := Lib.hid i4
        clear hown4 i3 i4
        go_wp2_with fail
        go_roundw
        case rel => exact ⟨pos + L, zr, pre ++ [UInt8.ofNat k], HI4.out, hpe, by rw [List.length_append, List.length_singleton]; omega, HAN.out, HVR.out, by rw [HRR.out, List.append_assoc]; rfl, by rw [HBV.out, List.length_append]; exact HO4.out, DE.out⟩
        case measure => rw [iterPos_of HI4.out, iterPos_of HIT.out]; omega
end Go.Proofs.YtiigknimfibdpaaGreatDoor.sg
namespace Go.Proofs.YtiigknimfibdpaaGreatDoor.sg
open Go.RowKit Go.Lib
open Go.Proofs.YtiigknimfibdpaaGreatDoor.tb
set_option linter.unusedVariables false
theorem k2z (w : World) : K2 (w.alloc (.cells #[.slice none 0 0, .int .i64 0] 76)) w.heap.size 76 (.slice none 0 0) (.int .i64 0) := k2_new w _ _ _
set_option maxRecDepth 100000 in
set_option maxHeartbeats 8000000 in
theorem awake_walk (w : World) (hT : pt.Tabs w) : Calls Tryz.prog 61 #[] w fun e w' => e = .returned (.bool true) ∧ Below w.heap.size w w' := by
  have HT := Lib.hid hT
  have HB := Lib.hid (Below.refl w.heap.size w)
  have HD : Hid (∀ W X, TE TBr W X (tbl 1) → Calls Tryz.prog 43 #[.agg #[X, .int .i64 1], .string ⟨#[193, 194]⟩] W fun e w' => e = .returned (.tuple #[.string ⟨#[208, 176, 208, 177]⟩, .agg #[.int .i64 0, .int .i64 0]]) ∧ Below W.heap.size W w') := Lib.hid (fun W X h => (decode_any 1 1 X ⟨#[193, 194]⟩ W (by decide) (by decide) (by decide) h).mono fun e w' hh => ⟨by rw [hh.1, show pt.txt (sdec 1 (⟨#[193, 194]⟩ : ByteArray).data.toList) = ⟨#[208, 176, 208, 177]⟩ from by kernel_rfl], hh.2⟩)
  have HE : Hid (∀ W X, pt.Tabs W → TE TBr W X (tbl 0) → Calls Tryz.prog 94 #[.agg #[X, .int .i64 0], .string ⟨#[208, 132]⟩] W fun e w' => e = .returned (.tuple #[.string ⟨#[]⟩, .agg #[.int .i64 6, .int .i64 0]]) ∧ Below W.heap.size W w') := Lib.hid (fun W X hW h => by
    have hh := encode_good 0 0 X [1028] W (by decide) (by decide) (by decide +kernel) (by decide) h hW
    rw [show pt.txt [1028] = ⟨#[208, 132]⟩ from by kernel_rfl, show senc 0 0 [1028] = ([], some 0) from by kernel_rfl] at hh
    exact hh)
  have HA2 := Lib.hid (fun w2 h2 => pt.Awake_any w2 h2)
  have HA4 := Lib.hid (fun w2 h2 => tb.awake_walk w2 h2)
  have HBD : Hid (∀ W, Calls Tryz.prog 24 #[.agg #[.int .i64 0, .int .i64 0]] W fun e w' => e = .returned (.bool false) ∧ Below W.heap.size W w') := Lib.hid (fun W => pt.bad_any W 0 0)
  clear hT
  go_enter Tryz.func61, Tryz.ntmps61
  go_wp2_with (first
    | (go_at_call 41; (with_reducible refine (of_any 1 _ (HT.out.below HB.out) (by decide) (by decide)).mono ?_); rintro e1 w1 ⟨X, rfl, hx, hb1⟩; have hA : Below w1.heap.size w1 (w1.alloc (.cells #[X, .int .i64 1] 76)) := (Below.refl _ _).alloc (Nat.le_refl _) _; have hst := (fun wx (a : Addr) m => run_store (P := Tryz.prog) (w := wx) (a := a) X m (TE.one hx)); have B1 := Lib.hid ((HB.out.trans (hb1.mono HB.out.size)).trans (hA.mono (Nat.le_trans HB.out.size hb1.size))); have X1 := Lib.hid (te_below hx hA); obtain ⟨_, z0, z1, z2, _⟩ := k2z w1; obtain ⟨_, y0, y1, y2, _⟩ := k2_new w1 76 X (.int .i64 1); clear hx hb1 hA)
    | (go_at_call 43; (with_reducible refine (HD.out _ X X1.out).mono ?_); rintro e2 w2 ⟨rfl, hb2⟩; have hA : Below w2.heap.size w2 (w2.alloc (.cells #[.int .i64 0, .int .i64 0] 54)) := (Below.refl _ _).alloc (Nat.le_refl _) _; have B2 := Lib.hid ((B1.out.trans (hb2.mono B1.out.size)).trans (hA.mono (Nat.le_trans B1.out.size hb2.size))); have F2 := Lib.hid (pt.f2_new w2 0 0 54); obtain ⟨_, v0, v1, v2, v3⟩ := F2.out; clear hb2 hA)
    | (go_at_call 41; (with_reducible refine (of_any 0 _ (HT.out.below B2.out) (by decide) (by decide)).mono ?_); rintro e3 w3 ⟨Y, rfl, hy, hb3⟩; have hA : Below w3.heap.size w3 (w3.alloc (.cells #[Y, .int .i64 0] 76)) := (Below.refl _ _).alloc (Nat.le_refl _) _; have hst2 := (fun wx (a : Addr) m => run_store (P := Tryz.prog) (w := wx) (a := a) Y m (TE.one hy)); have B3 := Lib.hid ((B2.out.trans (hb3.mono B2.out.size)).trans (hA.mono (Nat.le_trans B2.out.size hb3.size))); have F3 := Lib.hid ((F2.out.below hb3 F2.out.lt).below hA (Nat.lt_of_lt_of_le F2.out.lt hb3.size)); have Y1 := Lib.hid (te_below hy hA); obtain ⟨_, p0, p1, p2, _⟩ := k2z w3; obtain ⟨_, q0, q1, q2, _⟩ := k2_new w3 76 Y (.int .i64 0); clear hy hb3 hA)
    | (go_at_call 94; (with_reducible refine (HE.out _ Y (HT.out.below B3.out) Y1.out).mono ?_); rintro e4 w4 ⟨rfl, hb4⟩; have hA : Below w4.heap.size w4 (w4.alloc (.cells #[.int .i64 6, .int .i64 0] 54)) := (Below.refl _ _).alloc (Nat.le_refl _) _; have B4 := Lib.hid ((B3.out.trans (hb4.mono B3.out.size)).trans (hA.mono (Nat.le_trans B3.out.size hb4.size))); have F4 := Lib.hid ((F3.out.below hb4 F3.out.lt).below hA (Nat.lt_of_lt_of_le F3.out.lt hb4.size)); have E4 := Lib.hid (pt.f2_new w4 6 0 54); obtain ⟨_, r0, r1, r2, r3⟩ := pt.f2_new w4 0 0 54; clear hb4 hA)
    | (go_at_call 60; (with_reducible refine (HA2.out _ (HT.out.below B4.out)).mono ?_); rintro e5 w5 ⟨rfl, hb5⟩; have B5 := Lib.hid (B4.out.trans (hb5.mono B4.out.size)); have F5 := Lib.hid (F4.out.below hb5 F4.out.lt); have E5 := Lib.hid (E4.out.below hb5 E4.out.lt); clear hb5)
    | (go_at_call 95; (with_reducible refine (HA4.out _ (HT.out.below B5.out)).mono ?_); rintro e6 w6 ⟨rfl, hb6⟩; have B6 := Lib.hid (B5.out.trans (hb6.mono B5.out.size)); have F6 := Lib.hid (F5.out.below hb6 F5.out.lt); have E6 := Lib.hid (E5.out.below hb6 E5.out.lt); obtain ⟨_, s0, s1, _, _⟩ := F6.out; clear hb6)
    | (go_at_call 24; (with_reducible refine (HBD.out _).mono ?_); rintro e7 w7 ⟨rfl, hb7⟩; have B7 := Lib.hid (B6.out.trans (hb7.mono B6.out.size)); have E7 := Lib.hid (E6.out.below hb7 E6.out.lt); obtain ⟨_, t0, t1, _, _⟩ := E7.out; clear hb7))
  go_ret
  exact ⟨rfl, B7.out⟩
end Go.Proofs.YtiigknimfibdpaaGreatDoor.sg
namespace Go.Proofs.YtiigknimfibdpaaGreatDoor.sg
open Go.RowKit Go.Lib
open Go.Proofs.YtiigknimfibdpaaGreatDoor.tb
set_option linter.unusedVariables false
/-- What stands once a charset is made and laid. -/
structure Lw (w : World) (b : Nat) (X : Value) (c : Int) (l : List (Int × Int)) (W : World) : Prop where
  s : K2 W b 76 X (.int .i64 c)
  t : TE TBr W X l
  b : Below w.heap.size w W
theorem Lw.below {w : World} {b : Nat} {X : Value} {c : Int} {l : List (Int × Int)} {W W' : World} (h : Lw w b X c l W) (hb : Below W.heap.size W W') : Lw w b X c l W' :=
  ⟨h.s.below hb h.s.lt, te_below h.t hb, h.b.trans (hb.mono h.b.size)⟩
theorem Lw.new {w W : World} {X : Value} {c : Int} {l : List (Int × Int)} (hb : Below w.heap.size w W) (ht : TE TBr W X l) : Lw w W.heap.size X c l (W.alloc (.cells #[X, .int .i64 c] 76)) := by
  have hA : Below W.heap.size W (W.alloc (.cells #[X, .int .i64 c] 76)) := (Below.refl _ _).alloc (Nat.le_refl _) _
  exact ⟨k2_new _ _ _ _, te_below ht hA, hb.trans (hA.mono hb.size)⟩
end Go.Proofs.YtiigknimfibdpaaGreatDoor.sg
