/- The tables of the charsets of one byte a sign, plainly; table of the landed single. -/
import Derived.Test.YtiokdeomdeenbaaDoorSg0
import Derived.Test.YtiokdeomdeenbaaDoorTsI
namespace Go.Proofs.YtiokdeomdeenbaaDoor.sg
open Go.RowKit Go.Lib
open Go.Proofs.YtiokdeomdeenbaaDoor.tb
set_option linter.unusedVariables false
def tbl (c : Int) : List (Int × Int) := (List.range 256).map fun (n : Nat) => ((n : Int), sgn c n)
def joins : List (List (Int × Int)) → List (Int × Int) → Option (List (Int × Int))
  | [], all => some all
  | m :: ms, all => match join all m with
    | none => none
    | some q => joins ms q
theorem mk_joins : ∀ (l : List Pce) (ms : List (List (Int × Int))) (i : Nat) (all r : List (Int × Int)), l.map (fun p => piece p.f p.t p.c p.s) = ms.map some → joins ms all = some r → (mk i all l).1 = some r
  | [], [], i, all, r, _, h2 => h2
  | [], m :: ms, i, all, r, h1, _ => by simp at h1
  | p :: ps, [], i, all, r, h1, _ => by simp at h1
  | p :: ps, m :: ms, i, all, r, h1, h2 => by
    rw [List.map_cons, List.map_cons] at h1
    injection h1 with h1 h3
    unfold mk
    rw [h1]
    unfold joins at h2
    cases hj : join all m with
    | none => rw [hj] at h2; cases h2
    | some q =>
      rw [hj] at h2
      simp only [hj]
      exact mk_joins ps ms (i + 1) q r h3 h2
theorem made_joins {l : List Pce} {ms : List (List (Int × Int))} {r : List (Int × Int)} (h1 : l.map (fun p => piece p.f p.t p.c p.s) = ms.map some) (h2 : joins ms [] = some r) : (made l).1 = some r := mk_joins l ms 0 [] r h1 h2
theorem piece_list {s : ByteArray} {L : List Nat} (f : Int) (hs : pt.scan s = (L, none)) (hz : s.size ≠ 0) (h0 : 0 ≤ f) (h1 : f + L.length ≤ 1048576) : piece f 0 0 s = some (lsp f (L.map Int.ofNat)) := by
  have e : pt.zsOf s = L.map Int.ofNat := by unfold pt.zsOf; rw [hs]
  unfold piece
  rw [if_neg hz, e, hs, if_neg]
  simp
  omega
theorem joins_lat : joins [sqp 0 0 256] [] = some (tbl 0) := by decide +kernel
theorem joins_koi : joins [sqp 0 0 128, lsp 128 (rusL.map Int.ofNat)] [] = some (tbl 1) := by decide +kernel
theorem joins_cp : joins [sqp 0 0 128, sqp 128 1040 48, lsp 176 (fraL.map Int.ofNat), sqp 224 1088 16, lsp 240 (othL.map Int.ofNat)] [] = some (tbl 3) := by decide +kernel
def ukr : List (Int × Int) := [(164, 1108), (166, 1110), (167, 1111), (173, 1169), (180, 1028), (182, 1030), (183, 1031), (189, 1168)]
theorem over_ukr : over ukr (tbl 1) = tbl 2 := by decide +kernel
def pUkr : List Pce := [⟨164, 0, 0, ⟨#[209, 148]⟩⟩, ⟨166, 0, 0, ⟨#[209, 150, 209, 151]⟩⟩, ⟨173, 0, 0, ⟨#[210, 145]⟩⟩, ⟨180, 0, 0, ⟨#[208, 132]⟩⟩, ⟨182, 0, 0, ⟨#[208, 134, 208, 135]⟩⟩, ⟨189, 0, 0, ⟨#[210, 144]⟩⟩]
theorem made_ukr : (made pUkr).1 = some ukr := by kernel_rfl
theorem tbl_len (c : Int) : (tbl c).length = 256 := by simp [tbl]
theorem sqp_ok {f t : Int} {n : Nat} {s : ByteArray} (hs : s.size = 0) (c : Int) (h : piece f t c ⟨#[]⟩ = some (sqp f t n)) : piece f t c s = some (sqp f t n) := by
  unfold piece at *
  rw [if_pos hs]
  rwa [if_pos (by rfl)] at h
theorem made_lat : (made [⟨0, 0, 256, ⟨#[]⟩⟩]).1 = some (tbl 0) := made_joins (ms := [sqp 0 0 256]) (by kernel_rfl) joins_lat
theorem made_koi {s : ByteArray} (hs : pt.scan s = (rusL, none)) (hz : s.size ≠ 0) : (made [⟨0, 0, 128, ⟨#[]⟩⟩, ⟨128, 0, 0, s⟩]).1 = some (tbl 1) :=
  made_joins (ms := [sqp 0 0 128, lsp 128 (rusL.map Int.ofNat)]) (by
    have e1 : piece 0 0 128 ⟨#[]⟩ = some (sqp 0 0 128) := by kernel_rfl
    have e2 := piece_list 128 hs hz (by omega) (by rw [show rusL.length = 128 from rfl]; omega)
    simp only [List.map_cons, List.map_nil, e1, e2]) joins_koi
theorem made_cp {s u : ByteArray} (hs : pt.scan s = (fraL, none)) (hz : s.size ≠ 0) (hu : pt.scan u = (othL, none)) (hv : u.size ≠ 0) : (made [⟨0, 0, 128, ⟨#[]⟩⟩, ⟨128, 1040, 48, ⟨#[]⟩⟩, ⟨176, 0, 0, s⟩, ⟨224, 1088, 16, ⟨#[]⟩⟩, ⟨240, 0, 0, u⟩]).1 = some (tbl 3) :=
  made_joins (ms := [sqp 0 0 128, sqp 128 1040 48, lsp 176 (fraL.map Int.ofNat), sqp 224 1088 16, lsp 240 (othL.map Int.ofNat)]) (by
    have e1 : piece 0 0 128 ⟨#[]⟩ = some (sqp 0 0 128) := by kernel_rfl
    have e2 : piece 128 1040 48 ⟨#[]⟩ = some (sqp 128 1040 48) := by kernel_rfl
    have e3 := piece_list 176 hs hz (by omega) (by rw [show fraL.length = 48 from rfl]; omega)
    have e4 : piece 224 1088 16 ⟨#[]⟩ = some (sqp 224 1088 16) := by kernel_rfl
    have e5 := piece_list 240 hu hv (by omega) (by rw [show othL.length = 16 from rfl]; omega)
    simp only [List.map_cons, List.map_nil, e1, e2, e3, e4, e5]) joins_cp
set_option maxRecDepth 100000 in
set_option maxHeartbeats 4000000 in
theorem stable_any (A : Option Addr) (n c : Nat) (l : List Pce) (r : List (Int × Int)) (w : World) (h : RowC w A n c l) (hn : n ≤ 12) (hsz : ∀ p ∈ l, p.s.size ≤ 4000000) (hm : (made l).1 = some r) (hK : pt.Tabs w) :
    Calls Tryd.prog 74 #[.slice A n c] w fun e w' => ∃ X, e = .returned (.agg #[X]) ∧ TE TBr w' X r ∧ Below w.heap.size w w' := by
  have T := tb.tab
  have HN2 : Hid (∀ w2, pt.Tabs w2 → RowC w2 A n c l → Calls Tryd.prog 14 #[.slice A n c] w2 fun e w' => Below w2.heap.size w2 w' ∧ ∃ X e1 f1, e = .returned (.tuple #[.agg #[X], .agg #[.int .i64 e1, .int .i64 f1]]) ∧ TBr w' w2.heap.size X r) := Lib.hid (fun w2 h1 h2 => (tbr_new w2 A n c l h1 h2 hn hsz).mono fun e w' h => ⟨h.1, by
    rcases h.2 with ⟨Z, h3, h4, h5⟩ | ⟨X, r', h3, h4, h5⟩
    · rw [hm] at h3; cases h3
    · rw [hm] at h3; injection h3 with h3; subst h3; exact ⟨X, 0, 0, h4, h5⟩⟩)
  have H := Lib.hid h; have HK := Lib.hid hK; have HT := Lib.hid T
  clear h hK T hsz hm
  go_enter Tryd.func74, Tryd.ntmps74
  go_wp2_with (go_at_call 14; refine (HN2.out _ (HT.out.stay _ _ HK.out (by repeat (first | (with_reducible exact Below.refl _ _) | (with_reducible refine Below.setCell ?_ (by simp) _) | (with_reducible refine Below.alloc ?_ (by simp) _)))) (H.out.below (by repeat (first | (with_reducible exact Below.refl _ _) | (with_reducible refine Below.setCell ?_ (by simp) _) | (with_reducible refine Below.alloc ?_ (by simp) _))))).mono ?_; rintro e2 w2 ⟨hb2, X, e1, f1, rfl, ht2⟩; obtain ⟨_, z0, z1⟩ := (f1_new w2 (.slice none 0 0) 27).below ((Below.refl (w2.alloc (.cells #[.slice none 0 0] 27)).heap.size _).alloc (Nat.le_refl _) (.cells #[.int .i64 0, .int .i64 0] 30)) (by simp); have hst := fun wx (a : Addr) m => run_store (P := Tryd.prog) (w := wx) (a := a) X m (HT.out.one _ _ _ ⟨_, ht2⟩); have q0 : w.heap.size < w2.heap.size := (by have := hb2.size; simp at this; omega); have hw : Below w2.heap.size w2 (w2.alloc (.cells #[X] 27)) := (Below.refl _ _).alloc (Nat.le_refl _) _; have hw2 : Below (w2.alloc (.cells #[X] 27)).heap.size (w2.alloc (.cells #[X] 27)) ((w2.alloc (.cells #[X] 27)).alloc (.cells #[.int .i64 e1, .int .i64 f1] 30)) := (Below.refl _ _).alloc (Nat.le_refl _) _; have X1 := (f1_new w2 X 27).below hw2 (by simp); have Y0 := (f1_new w (.slice none 0 0) 27).below hb2 (by simp); have Y1 := (Y0.below hw q0).below hw2 (by simp; omega); have n0 : ¬ w.heap.size = w2.heap.size := (by omega); have n1 : ¬ w2.heap.size = w.heap.size := (by omega); have HB2 := Lib.hid hb2; have HT2 := Lib.hid ht2; obtain ⟨_, x0, x1⟩ := X1; obtain ⟨_, y0, y1⟩ := Y1; clear hw hw2 hb2 ht2)
  have e0 : (w.alloc (.cells #[.slice none 0 0] 27)).heap.size = w.heap.size + 1 := World.size_alloc _ _
  have hs : Same (w.heap.size + 1) w2 ((((w2.setCell ⟨w.heap.size, 0, none⟩ X).alloc (.cells #[X] 27)).alloc (.cells #[.int .i64 e1, .int .i64 f1] 30))) := by
    refine ⟨by simp; omega, fun k h1 h2 => ?_⟩
    rw [Below.heap_alloc _ _ _ (by simp; omega), Below.heap_alloc _ _ _ (by simp; omega), Below.heap_setCell _ _ _ _ (by show k ≠ w.heap.size; omega)]
  have hb : Below w.heap.size w ((((w2.setCell ⟨w.heap.size, 0, none⟩ X).alloc (.cells #[X] 27)).alloc (.cells #[.int .i64 e1, .int .i64 f1] 30))) := by
    have h1 : Below w.heap.size w w2 := ((Below.refl _ _).alloc (Nat.le_refl _) (.cells #[.slice none 0 0] 27)).trans (HB2.out.mono (by simp))
    exact ((h1.setCell (Nat.le_refl _) _).alloc (by simp; omega) _).alloc (by simp; omega) _
  have ht := HT2.out
  rw [e0] at ht
  have htb := HT.out.keep _ _ _ _ _ ht hs
  have hc : ((((w2.setCell ⟨w.heap.size, 0, none⟩ X).alloc (.cells #[X] 27)).alloc (.cells #[.int .i64 e1, .int .i64 f1] 30))).cell? ⟨w.heap.size, 0, none⟩ = some X := by
    have h1 : (w2.setCell ⟨w.heap.size, 0, none⟩ X).cell? ⟨w.heap.size, 0, none⟩ = some X := World.cell?_setCell_same _ _ _ Y0.c0
    have h2 : Below (w2.setCell ⟨w.heap.size, 0, none⟩ X).heap.size (w2.setCell ⟨w.heap.size, 0, none⟩ X) ((w2.setCell ⟨w.heap.size, 0, none⟩ X).alloc (.cells #[X] 27)) := (Below.refl _ _).alloc (Nat.le_refl _) _
    have h3 := ((Below.refl ((w2.setCell ⟨w.heap.size, 0, none⟩ X).alloc (.cells #[X] 27)).heap.size _).alloc (Nat.le_refl _) (.cells #[.int .i64 e1, .int .i64 f1] 30)).cell (p := ⟨w.heap.size, 0, none⟩) (by simp; omega)
    exact h3.trans ((h2.cell (p := ⟨w.heap.size, 0, none⟩) (by simp; omega)).trans h1)
  refine bodyPost_ret (v := .agg #[X]) ?_ rfl ⟨X, rfl, ⟨_, htb⟩, hb⟩
  simp [results, Tryd.results74, go_sem, hc]
/-- Of pieces that were just laid. -/
theorem stable_lit (l : List Pce) (r : List (Int × Int)) (n : Nat) (w : World) (hT : pt.Tabs w) (hok : ∀ p ∈ l, p.ok) (hn : l.length = n) (h12 : n ≤ 12) (hs : ∀ p ∈ l, p.s.size ≤ 4000000) (hm : (made l).1 = some r) (t : TypeId) :
    Calls Tryd.prog 74 #[.slice (some ⟨w.heap.size, 0, none⟩) n n] (w.alloc (.cells (l.flatMap pcell).toArray t)) fun e w' => ∃ X, e = .returned (.agg #[X]) ∧ TE TBr w' X r ∧ Below w.heap.size w w' := by
  subst hn
  have hb := (Below.refl w.heap.size w).alloc (Nat.le_refl _) (.cells (l.flatMap pcell).toArray t)
  refine (stable_any _ _ _ l r _ (rowC_new w l hok (by omega) t) h12 hs hm (hT.below hb)).mono ?_
  rintro e w' ⟨X, h1, h2, h3⟩
  exact ⟨X, h1, h2, hb.trans (h3.mono (by simp))⟩
end Go.Proofs.YtiokdeomdeenbaaDoor.sg
