/- Layer 13: what the walks ask of the landed functions; the document's example; the walk of FrameFlags. -/
import Derived.Test.YtkhajafjieofhaaFn2
import Derived.Test.YtkhajafjieofhaaUn2
import Derived.Test.YtkhajafjieofhaaOct5
namespace Go.Proofs.Ytkhajafjieofhaa.fn
open Go.RowKit Go.Lib
open Go.Proofs.Ytkhajafjieofhaa.fr
set_option linter.unusedVariables false
/-- A frame's head, a frame, as the program has them. -/
def vH (f : Fr) : Value := .agg #[.string (un.bs f.id), .int .u8 (f.st.toNat : Int), .int .u8 (f.fm.toNat : Int)]
def vF (f : Fr) (a : Int) : Value := .agg #[.string (un.bs f.id), .int .u8 (f.st.toNat : Int), .int .u8 (f.fm.toNat : Int), .int .u8 (f.gr.toNat : Int), .string (un.bs f.bd), .int .i64 a]
def f0 : Fr := ⟨[], 0, 0, 0, []⟩
/-- What Parse answers. -/
def PaP (v : Int) (sp : Bool) (b : Nat) (t : ByteArray) (k : Nat) (q : Int) (w : World) (r : Res) (e : Ending) (w' : World) : Prop :=
  oct.Upd b w w' ∧ match r with
  | .no => e = .returned (.tuple #[vF f0 0, .bool false]) ∧ oct.Rd w' b t k q 0 0
  | .bad n => e = .returned (.tuple #[vF f0 0, .bool false]) ∧ ∃ k' : Nat, k' ≤ t.size ∧ oct.Rd w' b t k' q 1 (q + k + n)
  | .ok f n => e = .returned (.tuple #[vF f (q + k), .bool true]) ∧ oct.Rd w' b t ((k + n : Nat) : Int) q 0 0
def erI (v : Int) (f : Fr) : Int := if okF v f = true then 0 else 5
def prS (v : Int) (f : Fr) : ByteArray := if okF v f = true then un.bs (pr v f) else ⟨#[]⟩
structure Fm (K : World → Prop) : Prop where
  u : un.Un K
  locked : ∀ (v : Int) (f : Fr) w, K w → f.id.length ≤ 1000 → Calls Try.prog 8 #[vH f, .int .i64 v] w fun e w' => e = .returned (.bool (lckd v f.fm.toNat)) ∧ Below w.heap.size w w'
  grouped : ∀ (v : Int) (f : Fr) w, K w → f.id.length ≤ 1000 → Calls Try.prog 10 #[vH f, .int .i64 v] w fun e w' => e = .returned (.bool (grpd v f.fm.toNat)) ∧ Below w.heap.size w w'
  measured : ∀ (v : Int) (f : Fr) w, K w → f.id.length ≤ 1000 → Calls Try.prog 12 #[vH f, .int .i64 v] w fun e w' => e = .returned (.bool (msrd v f.fm.toNat)) ∧ Below w.heap.size w w'
  spread : ∀ (v : Int) (f : Fr) w, K w → f.id.length ≤ 1000 → Calls Try.prog 14 #[vH f, .int .i64 v] w fun e w' => e = .returned (.bool (sprd v f.fm.toNat)) ∧ Below w.heap.size w w'
  letters : ∀ (v : Int) w, K w → Calls Try.prog 16 #[.int .i64 v] w fun e w' => e = .returned (.int .i64 (ltrs v : Nat)) ∧ Below w.heap.size w w'
  named : ∀ (v : Int) (s : ByteArray) w, K w → s.size ≤ 1000 → Calls Try.prog 18 #[.int .i64 v, .string s] w fun e w' => e = .returned (.bool (nmd v s.data.toList)) ∧ Below w.heap.size w w'
  check : ∀ (v : Int) (f : Fr) (a : Int) w, K w → f.id.length ≤ 1000 → f.bd.length ≤ 4000 → Calls Try.prog 23 #[vF f a, .int .i64 v] w fun e w' => e = .returned (.agg #[.int .i64 (erI v f), .int .i64 0]) ∧ Below w.heap.size w w'
  print : ∀ (v : Int) (f : Fr) (a : Int) w, K w → f.id.length ≤ 1000 → f.bd.length ≤ 4000 → Calls Try.prog 20 #[vF f a, .int .i64 v] w fun e w' => e = .returned (.tuple #[.string (prS v f), .agg #[.int .i64 (erI v f), .int .i64 0]]) ∧ Below w.heap.size w w'
  parse : ∀ (v : Int) (sp : Bool) (b : Nat) (t : ByteArray) (k : Nat) (q : Int) w, K w → oct.Rd w b t k q 0 0 → k ≤ t.size → t.size ≤ 4000 → 0 ≤ q → q ≤ 1099511627776 → Calls Try.prog 25 #[.int .i64 v, .pointer (some ⟨b, 0, none⟩), .bool sp] w (PaP v sp b t k q w (pa v sp (t.data.toList.drop k)))
/-- The document's example. -/
def fX : Fr := ⟨[84, 73, 84, 50], 0, 67, 5, [255, 224]⟩
theorem ex_print : prS 4 fX = ⟨#[84, 73, 84, 50, 0, 0, 0, 8, 0, 67, 5, 0, 0, 0, 2, 255, 0, 224]⟩ ∧ erI 4 fX = 0 := by decide +kernel
def sX : ByteArray := ⟨#[84, 73, 84, 50, 0, 0, 0, 8, 0, 67, 5, 0, 0, 0, 2, 255, 0, 224]⟩
theorem ex_parse : pa 4 false (sX.data.toList.drop 0) = .ok fX 18 := by
  have h := pa_pr 4 fX [] (by decide +kernel) (by decide)
  have e1 : pr 4 fX ++ [] = sX.data.toList.drop 0 := by decide +kernel
  have e2 : (pr 4 fX).length = 18 := by decide +kernel
  rw [e1, e2] at h
  exact h
theorem T6.upd {w W W' : World} {p r : Nat} {v0 v1 v2 v3 v4 v5 : Value} (h : T6 w p v0 v1 v2 v3 v4 v5 W) (hu : oct.Upd r W W') (hp : p ≠ r) (hr : w.heap.size ≤ r) : T6 w p v0 v1 v2 v3 v4 v5 W' :=
  ⟨Nat.lt_of_lt_of_le h.lt hu.size, (hu.cell (p := ⟨p, 0, none⟩) h.lt hp).trans h.c0, (hu.cell (p := ⟨p, 1, none⟩) h.lt hp).trans h.c1, (hu.cell (p := ⟨p, 2, none⟩) h.lt hp).trans h.c2, (hu.cell (p := ⟨p, 3, none⟩) h.lt hp).trans h.c3, (hu.cell (p := ⟨p, 4, none⟩) h.lt hp).trans h.c4, (hu.cell (p := ⟨p, 5, none⟩) h.lt hp).trans h.c5, oct.Upd.below h.b hu hr h.b.size⟩
theorem T6.of {w W W' : World} {p : Nat} {v0 v1 v2 v3 v4 v5 : Value} (h : T6 W p v0 v1 v2 v3 v4 v5 W') (hb : Below w.heap.size w W) : T6 w p v0 v1 v2 v3 v4 v5 W' :=
  ⟨h.lt, h.c0, h.c1, h.c2, h.c3, h.c4, h.c5, hb.trans (h.b.mono hb.size)⟩
/-- Two numbers of a block. -/
structure D2 (p : Nat) (x y : Int) (W : World) : Prop where
  lt : p < W.heap.size
  c0 : W.cell? ⟨p, 0, none⟩ = some (.int .i64 x)
  c1 : W.cell? ⟨p, 1, none⟩ = some (.int .i64 y)
theorem D2.below {W W' : World} {p : Nat} {x y : Int} (h : D2 p x y W) (hb : Below W.heap.size W W') : D2 p x y W' :=
  ⟨Nat.lt_of_lt_of_le h.lt hb.size, (hb.cell (p := ⟨p, 0, none⟩) h.lt).trans h.c0, (hb.cell (p := ⟨p, 1, none⟩) h.lt).trans h.c1⟩
theorem D2.upd {W W' : World} {p r : Nat} {x y : Int} (h : D2 p x y W) (hu : oct.Upd r W W') (hp : p ≠ r) : D2 p x y W' :=
  ⟨Nat.lt_of_lt_of_le h.lt hu.size, (hu.cell (p := ⟨p, 0, none⟩) h.lt hp).trans h.c0, (hu.cell (p := ⟨p, 1, none⟩) h.lt hp).trans h.c1⟩
theorem d2_new (w : World) (t : TypeId) (x y : Int) : D2 w.heap.size x y (w.alloc (.cells #[.int .i64 x, .int .i64 y] t)) := by
  refine ⟨by simp, ?_, ?_⟩ <;> (rw [World.cell?_alloc_mark]; rfl)
theorem al (w : World) (o : Obj) : Below w.heap.size w (w.alloc o) := (Below.refl _ _).alloc (Nat.le_refl _) _
set_option maxRecDepth 100000 in
set_option maxHeartbeats 4000000 in
theorem Awake_any {K : World → Prop} (L : Fm K) (w : World) (hK : K w) : Calls Try.prog 31 #[] w fun e w' => e = .returned (.bool true) ∧ Below w.heap.size w w' := by
  have HK : Hid (∀ W, Below w.heap.size w W → K W) := Lib.hid (fun W h => L.u.stay w W hK h)
  have HP : Hid (∀ W, K W → Calls Try.prog 20 #[.agg #[.string ⟨#[84, 73, 84, 50]⟩, .int .u8 0, .int .u8 67, .int .u8 5, .string ⟨#[255, 224]⟩, .int .i64 0], .int .i64 4] W fun e w' => e = .returned (.tuple #[.string ⟨#[84, 73, 84, 50, 0, 0, 0, 8, 0, 67, 5, 0, 0, 0, 2, 255, 0, 224]⟩, .agg #[.int .i64 0, .int .i64 0]]) ∧ Below W.heap.size W w') := Lib.hid (fun W h => by
    have := L.print 4 fX 0 W h (by decide) (by decide)
    rw [ex_print.1, ex_print.2] at this
    exact this)
  have HRD : Hid (∀ W, Calls Try.prog 24 #[.string ⟨#[84, 73, 84, 50, 0, 0, 0, 8, 0, 67, 5, 0, 0, 0, 2, 255, 0, 224]⟩] W fun e' w' => e' = .returned (.pointer (some ⟨W.heap.size, 0, none⟩)) ∧ oct.Rd w' W.heap.size sX 0 0 0 0 ∧ Below W.heap.size W w') := Lib.hid (fun W => oct.read_any sX W)
  have HPA : Hid (∀ b W, K W → oct.Rd W b sX 0 0 0 0 → Calls Try.prog 25 #[.int .i64 4, .pointer (some ⟨b, 0, none⟩), .bool false] W fun e w' => oct.Upd b W w' ∧ e = .returned (.tuple #[.agg #[.string ⟨#[84, 73, 84, 50]⟩, .int .u8 0, .int .u8 67, .int .u8 5, .string ⟨#[255, 224]⟩, .int .i64 0], .bool true]) ∧ oct.Rd w' b sX 18 0 0 0) := Lib.hid (fun b W h hr => by
    have := L.parse 4 false b sX 0 0 W h hr (by decide) (by decide) (by decide) (by decide)
    rw [ex_parse] at this
    exact this)
  have H1 := Lib.hid (fun W => oct.Awake_any W)
  have H11 := Lib.hid (fun W h => un.Awake_any L.u W h)
  have HBD : Hid (∀ W, Calls Try.prog 28 #[.agg #[.int .i64 0, .int .i64 0]] W fun e w' => e = .returned (.bool false) ∧ Below W.heap.size W w') := Lib.hid (fun W => oct.bad_any 0 0 W)
  have T0 := Lib.hid (t6_new w 31 (.string ⟨#[84, 73, 84, 50]⟩) (.int .u8 0) (.int .u8 67) (.int .u8 5) (.string ⟨#[255, 224]⟩) (.int .i64 0))
  clear L hK
  generalize sX = SX at *
  go_enter Try.func31, Try.ntmps31
  go_wp2_with (first
    | (go_at_call 20; refine (HP.out _ (HK.out _ T0.out.b)).mono ?_; rintro e1 w1 ⟨rfl, hb1⟩; have T1 := Lib.hid ((T0.out.below hb1).below (al w1 (.cells #[.int .i64 0, .int .i64 0] 34))); have E1 := Lib.hid (d2_new w1 34 0 0); have LE := Lib.hid (Nat.lt_of_lt_of_le T0.out.lt hb1.size); clear hb1)
    | (go_at_call 24; refine (HRD.out _).mono ?_; rintro e2 w2 ⟨rfl, hr2, hb2⟩; have T2 := Lib.hid (T1.out.below hb2); have E2 := Lib.hid (E1.out.below hb2); rw [World.size_alloc] at hr2; have R2 := Lib.hid hr2; clear hb2 hr2)
    | (go_at_call 25; refine (HPA.out _ _ (HK.out _ T2.out.b) R2.out).mono ?_; rintro e3 w3 ⟨hu3, rfl, hr3⟩; have T3 := Lib.hid ((T2.out.upd hu3 (by have := LE.out; simp; omega) (by have := LE.out; simp; omega)).below (al w3 (.cells #[.string ⟨#[84, 73, 84, 50]⟩, .int .u8 0, .int .u8 67, .int .u8 5, .string ⟨#[255, 224]⟩, .int .i64 0] 31))); have E3 := Lib.hid ((E2.out.upd hu3 (by simp)).below (al w3 (.cells #[.string ⟨#[84, 73, 84, 50]⟩, .int .u8 0, .int .u8 67, .int .u8 5, .string ⟨#[255, 224]⟩, .int .i64 0] 31))); have G3 := Lib.hid (t6_new w3 31 (.string ⟨#[84, 73, 84, 50]⟩) (.int .u8 0) (.int .u8 67) (.int .u8 5) (.string ⟨#[255, 224]⟩) (.int .i64 0)); clear hu3 hr3)
    | (go_at_call 56; refine (H1.out _).mono ?_; rintro e4 w4 ⟨rfl, hb4⟩; have T4 := Lib.hid (T3.out.below hb4); have E4 := Lib.hid (E3.out.below hb4); have G4 := Lib.hid (G3.out.below hb4); clear hb4)
    | (go_at_call 57; refine (H11.out _ (HK.out _ T4.out.b)).mono ?_; rintro e5 w5 ⟨rfl, hb5⟩; have T5 := Lib.hid (T4.out.below hb5); have E5 := Lib.hid (E4.out.below hb5); have G5 := Lib.hid (G4.out.below hb5); obtain ⟨_, z0, z1⟩ := E5.out; clear hb5)
    | (go_at_call 28; refine (HBD.out _).mono ?_; rintro e6 w6 ⟨rfl, hb6⟩; have T6' := Lib.hid (T5.out.below hb6); have G6 := Lib.hid (G5.out.below hb6); obtain ⟨_, a0, a1, a2, a3, a4, a5, _⟩ := T6'.out; obtain ⟨_, g0, g1, g2, g3, g4, g5, _⟩ := G6.out; clear hb6))
  go_ret
  exact ⟨rfl, T6'.out.b⟩
theorem awake_any {K : World → Prop} (L : Fm K) (w : World) (hK : K w) : Calls Try.prog 7 #[] w fun e w' => e = .returned (.bool true) ∧ Below w.heap.size w w' := by
  have HA := Lib.hid (Awake_any L w hK)
  clear L hK
  go_enter Try.func7, Try.ntmps7
  go_wp2_with (go_at_call 31; refine (HA.out).mono ?_; rintro e2 w2 ⟨rfl, hb2⟩)
  go_ret
  exact ⟨rfl, hb2⟩
end Go.Proofs.Ytkhajafjieofhaa.fn
