/- The small calls of a row; a drawn region whose last operation writes what its loads read; the row that has a code: contracts. -/
import Derived.Test.YtiigknimfibdpaaGreatDoorChecked
import Derived.Test.YtiigknimfibdpaaGreatDoorTsA
import Derived.WalkSmall
import Derived.BigQuiet
import Derived.Deep.QuietTactic
import Derived.Lib.Hide
import Derived.OrdersHeld
import Derived.Deep.RegionHeld
import Derived.Deep.RegionHeld3
import Derived.Shelf.Abstract
import Derived.Deep.DeepCutAuto
namespace Go.Proofs.YtiigknimfibdpaaGreatDoor.tb
open Go.RowKit Go.Lib
set_option linter.unusedVariables false
theorem wrap64 {x : Int} (h0 : -9223372036854775808 ≤ x) (h1 : x ≤ 9223372036854775807) : IntKind.i64.wrap x = x := by simp [IntKind.wrap, IntKind.bits, IntKind.signed]; omega
theorem wrap32 {x : Int} (h0 : -2147483648 ≤ x) (h1 : x ≤ 2147483647) : IntKind.i32.wrap x = x := by simp [IntKind.wrap, IntKind.bits, IntKind.signed]; omega
theorem rInt {k : IntKind} {a b : Int} (h : a = b) : Ending.returned (.int k a) = .returned (.int k b) := by rw [h]
set_option maxRecDepth 100000 in
theorem end_any (f t c : Int) (w : World) (h0 : -9223372036854775808 ≤ f + c) (h1 : f + c ≤ 9223372036854775807) :
    Calls Tryz.prog 195 #[.agg #[.int .i64 f, .int .i32 t, .int .i64 c]] w fun e w' => e = .returned (.int .i64 (f + c)) ∧ Below w.heap.size w w' := by
  have e1 : IntKind.i64.wrap (f + c) = f + c := wrap64 h0 h1
  go_enter Tryz.func195, Tryz.ntmps195
  go_wp2
  go_ret
  exact ⟨rfl, (Below.refl _ _).alloc (Nat.le_refl _) _⟩
set_option maxRecDepth 100000 in
theorem last_any (f t c : Int) (w : World) (h0 : -2147483648 ≤ t + c - 1) (h1 : t + c - 1 ≤ 2147483647) (c0 : 1 ≤ c) (c1 : c ≤ 1048576) (t0 : -2147483648 ≤ t) (t1 : t ≤ 2147483647) :
    Calls Tryz.prog 201 #[.agg #[.int .i64 f, .int .i32 t, .int .i64 c]] w fun e w' => e = .returned (.int .i32 (t + c - 1)) ∧ Below w.heap.size w w' := by
  have e1 : IntKind.i64.wrap (c - 1) = c - 1 := wrap64 (by omega) (by omega)
  have e2 : IntKind.i32.wrap (c - 1) = c - 1 := wrap32 (by omega) (by omega)
  have e3 : IntKind.i32.wrap (t + (c - 1)) = t + c - 1 := by rw [wrap32 (by omega) (by omega)]; omega
  go_enter Tryz.func201, Tryz.ntmps201
  go_wp2
  go_ret
  exact ⟨rfl, (Below.refl _ _).alloc (Nat.le_refl _) _⟩
set_option maxRecDepth 100000 in
theorem sign_any (f t c x : Int) (w : World) (h0 : f ≤ x) (h1 : x ≤ f + 1048576) (t0 : 0 ≤ t) (t1 : t + (x - f) ≤ 2147483647) (f0 : 0 ≤ f) (f1 : f ≤ 1048576) :
    Calls Tryz.prog 118 #[.agg #[.int .i64 f, .int .i32 t, .int .i64 c], .int .i64 x] w fun e w' => e = .returned (.int .i32 (t + (x - f))) ∧ Below w.heap.size w w' := by
  have e1 : IntKind.i64.wrap (x - f) = x - f := wrap64 (by omega) (by omega)
  have e2 : IntKind.i32.wrap (x - f) = x - f := wrap32 (by omega) (by omega)
  have e3 : IntKind.i32.wrap (t + (x - f)) = t + (x - f) := wrap32 (by omega) (by omega)
  go_enter Tryz.func118, Tryz.ntmps118
  go_wp2
  go_ret
  exact ⟨rfl, (Below.refl _ _).alloc (Nat.le_refl _) _⟩
set_option maxRecDepth 100000 in
theorem code_any (f t c p : Int) (w : World) (h0 : t ≤ p) (h1 : p ≤ t + 1048576) (t0 : 0 ≤ t) (t1 : t ≤ 1114112) (f0 : 0 ≤ f) (f1 : f ≤ 1048576) :
    Calls Tryz.prog 168 #[.agg #[.int .i64 f, .int .i32 t, .int .i64 c], .int .i32 p] w fun e w' => e = .returned (.int .i64 (f + (p - t))) ∧ Below w.heap.size w w' := by
  have e1 : IntKind.i32.wrap (p - t) = p - t := wrap32 (by omega) (by omega)
  have e2 : IntKind.i64.wrap (p - t) = p - t := wrap64 (by omega) (by omega)
  have e3 : IntKind.i64.wrap (f + (p - t)) = f + (p - t) := wrap64 (by omega) (by omega)
  go_enter Tryz.func168, Tryz.ntmps168
  go_wp2
  go_ret
  exact ⟨rfl, (Below.refl _ _).alloc (Nat.le_refl _) _⟩
/-- Where a code stands. -/
def side (r : Rw) (x : Int) : Int := if x < r.f then -1 else if r.f + r.c ≤ x then 1 else 0
set_option maxRecDepth 100000 in
theorem side_any (r : Rw) (x : Int) (w : World) (hr : r.ok) :
    Calls Tryz.prog 158 #[.agg #[.int .i64 r.f, .int .i32 r.t, .int .i64 r.c], .int .i64 x] w fun e w' => e = .returned (.int .i64 (side r x)) ∧ Below w.heap.size w w' := by
  obtain ⟨f0, c1, f1, _, _⟩ := hr
  unfold side
  generalize r.f = f at *
  generalize r.t = t at *
  generalize r.c = c at *
  have HE := Lib.hid (fun w => end_any f t c w (by omega) (by omega))
  generalize hE : f + c = E at *
  clear hE
  by_cases h1 : x < f
  · rw [if_pos h1]
    go_enter Tryz.func158, Tryz.ntmps158
    go_wp2_with fail
    go_ret
    exact ⟨rfl, (Below.refl _ _).alloc (Nat.le_refl _) _⟩
  · rw [if_neg h1]
    by_cases h2 : E ≤ x
    · rw [if_pos h2]
      go_enter Tryz.func158, Tryz.ntmps158
      go_wp2_with (go_at_call 195; refine (HE.out _).mono ?_; rintro e1 w1 ⟨rfl, hb1⟩)
      go_ret
      exact ⟨rfl, ((Below.refl _ w).alloc (Nat.le_refl _) _).trans (hb1.mono (by simp))⟩
    · rw [if_neg h2]
      go_enter Tryz.func158, Tryz.ntmps158
      go_wp2_with (go_at_call 195; refine (HE.out _).mono ?_; rintro e1 w1 ⟨rfl, hb1⟩)
      go_ret
      exact ⟨rfl, ((Below.refl _ w).alloc (Nat.le_refl _) _).trans (hb1.mono (by simp))⟩
set_option maxRecDepth 100000 in
theorem tells_any (r : Rw) (p : Int) (w : World) (hr : r.ok) :
    Calls Tryz.prog 167 #[.agg #[.int .i64 r.f, .int .i32 r.t, .int .i64 r.c], .int .i32 p] w fun e w' => e = .returned (.bool (tel r p)) ∧ Below w.heap.size w w' := by
  obtain ⟨f0, c1, f1, t0, t1⟩ := hr
  unfold tel
  generalize r.f = f at *
  generalize r.t = t at *
  generalize r.c = c at *
  have HE := Lib.hid (fun w => last_any f t c w (by omega) (by omega) (by omega) (by omega) (by omega) (by omega))
  generalize hE : t + c - 1 = E at *
  clear hE
  by_cases h1 : t ≤ p
  · by_cases h2 : p ≤ E
    · go_enter Tryz.func167, Tryz.ntmps167
      go_wp2_with (go_at_call 201; refine (HE.out _).mono ?_; rintro e1 w1 ⟨rfl, hb1⟩)
      go_ret
      exact ⟨by simp; omega, ((Below.refl _ w).alloc (Nat.le_refl _) _).trans (hb1.mono (by simp))⟩
    · go_enter Tryz.func167, Tryz.ntmps167
      go_wp2_with (go_at_call 201; refine (HE.out _).mono ?_; rintro e1 w1 ⟨rfl, hb1⟩)
      go_ret
      exact ⟨by simp; omega, ((Below.refl _ w).alloc (Nat.le_refl _) _).trans (hb1.mono (by simp))⟩
  · have h0 := h1
    go_enter Tryz.func167, Tryz.ntmps167
    go_wp2_with fail
    go_ret
    exact ⟨by rw [decide_eq_false (show ¬ t ≤ p by omega)]; rfl, (Below.refl _ _).alloc (Nat.le_refl _) _⟩
/-- A block of three words. -/
structure F3 (w : World) (b : Nat) (x y z : Value) : Prop where
  lt : b < w.heap.size
  c0 : w.cell? ⟨b, 0, none⟩ = some x
  c1 : w.cell? ⟨b, 1, none⟩ = some y
  c2 : w.cell? ⟨b, 2, none⟩ = some z
  fr : ∀ i, w.frozen? ⟨b, i, none⟩ = false
theorem F3.below {w w' : World} {b B : Nat} {x y z : Value} (h : F3 w b x y z) (hb : Below B w w') (hB : b < B) : F3 w' b x y z :=
  ⟨Nat.lt_of_lt_of_le h.lt hb.size, (hb.cell (p := ⟨b, 0, none⟩) hB).trans h.c0, (hb.cell (p := ⟨b, 1, none⟩) hB).trans h.c1, (hb.cell (p := ⟨b, 2, none⟩) hB).trans h.c2, fun i => (hb.frozen (p := ⟨b, i, none⟩) hB).trans (h.fr i)⟩
theorem f3_new (w : World) (x y z : Value) (t : Nat) : F3 (w.alloc (.cells #[x, y, z] t)) w.heap.size x y z := by
  refine ⟨by simp, ?_, ?_, ?_, fun i => by simp⟩ <;> (rw [World.cell?_alloc_mark]; rfl)
set_option maxRecDepth 100000 in
theorem part_any (f t c x y : Int) (w : World) (h0 : f ≤ x) (h1 : x ≤ f + 1048576) (t0 : 0 ≤ t) (t1 : t + (x - f) ≤ 2147483647) (f0 : 0 ≤ f) (f1 : f ≤ 1048576) (y0 : 0 ≤ y) (y1 : y ≤ 1048576) :
    Calls Tryz.prog 196 #[.agg #[.int .i64 f, .int .i32 t, .int .i64 c], .int .i64 x, .int .i64 y] w fun e w' => e = .returned (.agg #[.int .i64 x, .int .i32 (t + (x - f)), .int .i64 (y - x)]) ∧ Below w.heap.size w w' := by
  have e1 : IntKind.i64.wrap (y - x) = y - x := wrap64 (by omega) (by omega)
  have HS := Lib.hid (fun w => sign_any f t c x w h0 h1 t0 t1 f0 f1)
  generalize t + (x - f) = T at *
  go_enter Tryz.func196, Tryz.ntmps196
  go_wp2_with (go_at_call 118; refine (HS.out _).mono ?_; rintro e1 w1 ⟨rfl, hb1⟩; have FB : Hid (F3 w1 (w.heap.size + 1) (.int .i64 0) (.int .i32 0) (.int .i64 0)) := Lib.hid (by have X := (f3_new (w.alloc (.cells #[.int .i64 f, .int .i32 t, .int .i64 c] 145)) (.int .i64 0) (.int .i32 0) (.int .i64 0) 145).below hb1 (by simp); rwa [World.size_alloc] at X); obtain ⟨g0, g1, g2, g3, g4⟩ := FB.out; have HB := Lib.hid (((((Below.refl w.heap.size w).alloc (Nat.le_refl _) _).alloc (by simp) _)).trans (hb1.mono (by simp; omega))); clear hb1)
  refine bodyPost_ret (v := .agg #[.int .i64 x, .int .i32 T, .int .i64 (y - x)]) (by simp [results, Tryz.results196, go_sem, g1, g2, g3]) rfl ⟨rfl, ?_⟩
  exact (((HB.out.setCell (p := ⟨w.heap.size + 1, 0, none⟩) (by simp) _).setCell (p := ⟨w.heap.size + 1, 1, none⟩) (by simp) _).setCell (p := ⟨w.heap.size + 1, 2, none⟩) (by simp) _)
end Go.Proofs.YtiigknimfibdpaaGreatDoor.tb
namespace Go.Proofs.YtiigknimfibdpaaGreatDoor.tb
open Go
set_option linter.unusedVariables false
section
variable {P : Program} {ops : Array Oper} {Q : Exit → Act → World → Prop} {md : Region.Mode} {S : World → Prop} {k : Nat}
/-- In whatever order; S holds behind each operation but number k. -/
def OnBut (P : Program) (md : Region.Mode) (ops : Array Oper) (Q : Exit → Act → World → Prop) (S : World → Prop) (k : Nat) : Nat → Array Bool → Act → World → Prop
  | 0, l, a, w => Region.ready md ops l = [] ∧ Q .normal a w
  | n + 1, l, a, w => (Region.ready md ops l = [] → Q .normal a w) ∧ ∀ j ∈ Region.ready md ops l, wpOp P ops Q j (fun b v => (j ≠ k → S v) ∧ OnBut P md ops Q S k n (l.setIfInBounds j true) b v) a w
theorem OnBut.any : ∀ (n : Nat) (l : Array Bool) (a : Act) (w : World), OnBut P md ops Q S k n l a w → wpAny P md ops Q n l a w
  | 0, _, _, _, h => h
  | n + 1, _, _, _, h => ⟨h.1, fun j hj => wpOp_mono (fun b v hv => OnBut.any n _ b v hv.2) (h.2 j hj)⟩
/-- Number k waits for number i. -/
def waitsFor (md : Region.Mode) (ops : Array Oper) (k i : Nat) : Bool := match ops[k]? with
  | some o => o.after.toList.any fun e => Region.binds md e && e.on == i
  | none => false
theorem waits_not {i : Nat} {l : Array Bool} (hw : waitsFor md ops k i = true) (hl : l.getD i true = false) : k ∉ Region.ready md ops l := fun h => by
  obtain ⟨_, o, ho, ha⟩ := mem_ready.1 h
  unfold waitsFor at hw
  rw [ho] at hw
  simp only [List.any_eq_true, Bool.and_eq_true, beq_iff_eq] at hw
  obtain ⟨e, he, hb, rfl⟩ := hw
  have he := Array.mem_toList_iff.1 he
  have h1 := ha e he hb
  rcases Nat.lt_or_ge e.on l.size with hs | hs
  · simp [hs] at h1 hl; rw [hl] at h1; cases h1
  · simp [Array.getElem?_eq_none hs] at h1
theorem OnBut.load {i : Nat} {oi : Oper} {v : Value} (hi : ops[i]? = some oi) (hs : Region.noSelect ops = true) (hw : waitsFor md ops k i = true)
    (hQ : ∀ c a w, Q (.panic c) (a.put oi.dst v) w → Q (.panic c) a w) : ∀ (n : Nat) (l : Array Bool) (a : Act) (w : World),
      (∀ j oj, ops[j]? = some oj → j ≠ i → l.getD j true = false → (∀ e ∈ oj.after, Region.binds md e = true → e.on ≠ i) → oi.apart ops oj = true) →
      i ∈ Region.ready md ops l → YieldsIf P ops S oi v a → S w → OnBut P md ops Q S k n (l.setIfInBounds i true) (a.put oi.dst v) w → OnBut P md ops Q S k (n + 1) l a w := by
  have hsel := Region.noSelect_spec hs
  intro n
  induction n with
  | zero =>
    intro l a w _ hr hy hS H
    refine ⟨fun h => (by rw [h] at hr; cases hr), fun j hj => ?_⟩
    by_cases e : j = i
    · subst e; exact hy.wpOp hi hS ⟨fun _ => hS, H⟩
    · have := ready_mono hj e
      rw [H.1] at this
      cases this
  | succ n ih =>
    intro l a w hfree hr hy hS H
    refine ⟨fun h => (by rw [h] at hr; cases hr), fun j hj => ?_⟩
    by_cases e : j = i
    · subst e; exact hy.wpOp hi hS ⟨fun _ => hS, H⟩
    have hli := (mem_ready.1 hr).1
    have hjk : j ≠ k := fun hjk => by subst hjk; exact waits_not hw hli hj
    obtain ⟨hlj, oj, hoj, hall⟩ := mem_ready.1 hj
    have hnot : ∀ e ∈ oj.after, Region.binds md e = true → e.on ≠ i := fun e he hb heq => by
      have h1 := hall e he hb
      rw [heq] at h1
      rcases Nat.lt_or_ge i l.size with hs | hs
      · simp [hs] at hli h1; rw [hli] at h1; cases h1
      · simp [Array.getElem?_eq_none hs] at h1
    refine wpOp_mono (fun b v' h3 => ?_) (wpOp_putIf hoj (hfree j oj hoj e hlj hnot) (fun cs b => hsel i oi cs b hi) (fun cs b => hsel j oj cs b hoj) hQ hy (H.2 j (ready_mono hj e)))
    have hS' := h3.2.1 hjk
    refine ⟨fun _ => hS', ih _ b v' (fun m om hom hmi hun hno => hfree m om hom hmi ?_ hno) (ready_mono hr (Ne.symm e)) h3.1 hS' ?_⟩
    · by_cases hjm : j = m
      · subst hjm; exact hlj
      · rwa [getD_set_ne true hjm] at hun
    · rw [Array.setIfInBounds_comm _ _ e]
      exact h3.2.2
theorem OnBut.take {i : Nat} {oi : Oper} {v : Value} {n : Nat} {l : Array Bool} {a : Act} {w : World} (hi : ops[i]? = some oi)
    (hs : Region.noSelect ops = true) (hf : Region.free md ops l i = true) (hr : (Region.ready md ops l).contains i = true) (hw : waitsFor md ops k i = true)
    (hQ : ∀ c a w, Q (.panic c) (a.put oi.dst v) w → Q (.panic c) a w) (hy : YieldsIf P ops S oi v a) (hS : S w)
    (h : OnBut P md ops Q S k n (l.setIfInBounds i true) (a.put oi.dst v) w) : OnBut P md ops Q S k (n + 1) l a w :=
  OnBut.load hi hs hw hQ n l a w (Region.free_spec hi hf) (by simpa using hr) hy hS h
/-- One alone may come up. -/
theorem OnBut.one {i : Nat} {o : Oper} {n : Nat} {l : Array Bool} {a : Act} {w : World} (hr : Region.ready md ops l = [i]) (ho : ops[i]? = some o)
    (h : ∀ K : Act → World → Prop, Shut (∀ a w, (i ≠ k → S w) → ((i ≠ k → S w) → OnBut P md ops Q S k n (l.setIfInBounds i true) a w) → K a w) → if Region.wanted o (yielded ops a.tmps) = true then Oper.wp P o a w K Q else K (a.put o.dst undef) w) :
    OnBut P md ops Q S k (n + 1) l a w :=
  ⟨fun h0 => (by rw [hr] at h0; cases h0), fun j hj => by
    rw [hr, List.mem_singleton] at hj
    subst hj
    exact wpOp_step ho fun K hK => h K fun a w h1 h2 => hK a w ⟨h1, h2 h1⟩⟩
theorem OnBut.done {n : Nat} {l : Array Bool} {a : Act} {w : World} (hr : Region.ready md ops l = []) (h : Q .normal a w) : OnBut P md ops Q S k n l a w := by
  cases n with
  | zero => exact ⟨hr, h⟩
  | succ n => exact ⟨fun _ => h, by rw [hr]; simp⟩
theorem OnBut.start {id : Nat} {a : Act} {w : World} (hm : P.follows .mixedOrders = true) (S : World → Prop) (k : Nat) (h : OnBut P .any ops Q S k ops.size (Array.replicate ops.size false) a w.drew) : (Code.region id ops true).wp P Q a w :=
  wp_region_any hm (OnBut.any _ _ _ _ h)
end
end Go.Proofs.YtiigknimfibdpaaGreatDoor.tb
namespace Go.Proofs.YtiigknimfibdpaaGreatDoor.tb
open Go.RowKit Go.Lib
set_option linter.unusedVariables false
set_option maxRecDepth 100000 in
set_option maxHeartbeats 2000000 in
theorem sortFind_any (g : Nat) (lb : Array Value) (cm : Nat → Int) (n : Nat) (w : World) (hn : n ≤ 1000000000)
    (eg : ∀ args w, (callFunc g args).run Tryz.prog w = .ok (.enter g args) w)
    (hC : ∀ W, Below w.heap.size w W → ∀ h : Nat, h < n → Calls Tryz.prog g (#[.int .i64 h] ++ lb) W fun e w' => e = .returned (.int .i64 (cm h)) ∧ Below w.heap.size w w')
    (hm : ∀ i j : Nat, i ≤ j → j < n → cm i ≤ 0 → cm j ≤ 0) :
    Calls Tryz.prog 156 #[.int .i64 n, .func (.func g) #[] lb] w fun e w' => ∃ i : Nat, i ≤ n ∧ (∀ j, j < i → 0 < cm j) ∧ (∀ j, i ≤ j → j < n → cm j ≤ 0) ∧ e = .returned (.tuple #[.int .i64 i, .bool (decide (i < n ∧ cm i = 0))]) ∧ Below w.heap.size w w' := by
  have HC := Lib.hid hC; have HM := Lib.hid hm
  clear hC hm
  go_enter Tryz.func156, Tryz.ntmps156
  go_wp2
  go_loopw [4, 6] (fun a b wr => ∃ i j : Nat, i ≤ j ∧ j ≤ n ∧ a = .int .i64 i ∧ b = .int .i64 j ∧ (∀ k, k < i → 0 < cm k) ∧ (∀ k, j ≤ k → k < n → cm k ≤ 0) ∧ Below w.heap.size w wr) (fun a b _ => (RowKit.intOf b).toNat - (RowKit.intOf a).toNat)
  case atStart => exact ⟨0, n, Nat.zero_le _, Nat.le_refl _, rfl, rfl, fun k hk => absurd hk (Nat.not_lt_zero _), fun k h1 h2 => absurd h2 (by omega), Below.refl _ _⟩
  case round =>
    obtain ⟨i, j, hij, hj, rfl, rfl, hlo, hhi, hB⟩ := hrel
    have HLO := Lib.hid hlo; have HHI := Lib.hid hhi; have HB := Lib.hid hB
    clear hlo hhi hB
    by_cases hlt : i < j
    · obtain ⟨h, hh⟩ : ∃ h, h = (i + j) / 2 := ⟨_, rfl⟩
      have HH := Lib.hid hh
      have hlh : h < n := by omega
      have hcast : ((h : Nat) : Int) = ((i : Int) + (j : Int)) / 2 := by omega
      have HCH : Hid (∀ W, Below w.heap.size w W → Calls Tryz.prog g (#[.int .i64 (((i : Int) + (j : Int)) / 2)] ++ lb) W fun e w' => e = .returned (.int .i64 (cm h)) ∧ Below w.heap.size w w') := Lib.hid (fun W hW => by have := HC.out W hW h hlh; rwa [hcast] at this)
      have e1 : IntKind.i64.wrap ((i : Int) + (j : Int)) = (i : Int) + (j : Int) := wrap64 (by omega) (by omega)
      have e2 : IntKind.u64.wrap ((i : Int) + (j : Int)) = (i : Int) + (j : Int) := by simp [IntKind.wrap, IntKind.bits, IntKind.signed]; omega
      have HI := Lib.hid hcast
      clear hh hcast
      by_cases hc : 0 < cm h
      · have hgo : ∀ k, k < h + 1 → 0 < cm k := fun k hk => by
          apply Classical.byContradiction
          intro hk0
          have := HM.out k h (by omega) hlh (by omega)
          omega
        have HGO := Lib.hid hgo
        clear hgo
        generalize cm h = C at *
        go_wp2_with (go_at_fn g; refine (HCH.out _ HB.out).mono ?_; rintro e1 w1 ⟨rfl, hb1⟩)
        go_roundw
        case rel => have := HH.out; exact ⟨h + 1, j, by omega, hj, by rw [← HI.out]; congr 1, rfl, HGO.out, HHI.out, hb1⟩
        case measure => simp [RowKit.intOf]; omega
      · have hgo : ∀ k, h ≤ k → k < n → cm k ≤ 0 := fun k h1 h2 => HM.out h k h1 h2 (by omega)
        have HGO := Lib.hid hgo
        clear hgo
        generalize cm h = C at *
        go_wp2_with (go_at_fn g; refine (HCH.out _ HB.out).mono ?_; rintro e1 w1 ⟨rfl, hb1⟩)
        go_roundw
        case rel => have := HH.out; exact ⟨i, h, by omega, by omega, rfl, by rw [HI.out], HLO.out, HGO.out, hb1⟩
        case measure => simp [RowKit.intOf]; omega
    · obtain rfl : i = j := by omega
      by_cases hn2 : i < n
      · have HCI := Lib.hid (fun W hW => HC.out W hW i hn2)
        have HLT := Lib.hid hn2
        generalize hC : cm i = C at *
        have HCC := Lib.hid hC
        clear hC
        have HD : Hid (decide (i < n ∧ cm i = 0) = (C == 0)) := Lib.hid (by rw [HCC.out, Bool.eq_iff_iff]; simp [HLT.out])
        go_wp2_with (go_at_fn g; refine (HCI.out _ HB.out).mono ?_; rintro e1 w1 ⟨rfl, hb1⟩)
        go_ret2
        exact ⟨i, hj, HLO.out, HHI.out, by rw [HD.out]; rfl, hb1⟩
      · go_wp2_with fail
        go_ret2
        exact ⟨i, hj, HLO.out, HHI.out, by rw [decide_eq_false (show ¬ (i < n ∧ cm i = 0) from fun h => hn2 h.1)]; rfl, HB.out⟩
set_option maxRecDepth 100000 in
set_option maxHeartbeats 2000000 in
theorem findC_any (A : Option Addr) (n c : Nat) (l : List Rw) (x : Int) (bt bc : Nat) (i : Nat) (w : World) (h : RowRw w A c l) (hn : n = l.length) (hok : ∀ r ∈ l, r.ok) (hi : i < n) (ht : w.cell? ⟨bt, 0, none⟩ = some (.slice A n c)) (hc : w.cell? ⟨bc, 0, none⟩ = some (.int .i64 x)) (ltt : bt < w.heap.size) (ltc : bc < w.heap.size) :
    Calls Tryz.prog 157 (#[.int .i64 i] ++ #[.pointer (some ⟨bt, 0, none⟩), .pointer (some ⟨bc, 0, none⟩)]) w fun e w' => e = .returned (.int .i64 (side (l.getD i default) x)) ∧ Below w.heap.size w w' := by
  obtain ⟨g, o, rfl, a1, a2, a3, k0, k1, k2, hmem⟩ := h.at i (by omega)
  have hr := hok _ hmem
  have HS := Lib.hid (fun w => side_any (l.getD i default) x w hr)
  generalize side (l.getD i default) x = SD at *
  generalize l.getD i default = r at *
  show Calls Tryz.prog 157 #[.int .i64 i, .pointer (some ⟨bt, 0, none⟩), .pointer (some ⟨bc, 0, none⟩)] w _
  rw [← hn] at a1
  unfold maxLen at a2
  clear hr hmem hok h hn
  go_enter Tryz.func157, Tryz.ntmps157
  go_wp2_with fail
  go_region_held3 (fun w' => w'.cell? ⟨bt, 0, none⟩ = some (.slice (some ⟨g, o, none⟩) n c) ∧ w'.cell? ⟨bc, 0, none⟩ = some (.int .i64 x) ∧ w'.cell? ⟨g, o + i * 3, none⟩ = some (.int .i64 r.f) ∧ w'.cell? ⟨g, o + i * 3 + 1, none⟩ = some (.int .i32 r.t) ∧ w'.cell? ⟨g, o + i * 3 + 2, none⟩ = some (.int .i64 r.c)) (go_keep) (first | (go_at_call 158; refine (HS.out _).mono ?_; rintro e1 w1 ⟨rfl, hb1⟩; have y1 := (hb1.cell (p := ⟨bt, 0, none⟩) ltt).trans ht; have y2 := (hb1.cell (p := ⟨bc, 0, none⟩) ltc).trans hc; have y3 := (hb1.cell (p := ⟨g, o + i * 3, none⟩) a3).trans k0; have y4 := (hb1.cell (p := ⟨g, o + i * 3 + 1, none⟩) a3).trans k1; have y5 := (hb1.cell (p := ⟨g, o + i * 3 + 2, none⟩) a3).trans k2; have HB := Lib.hid hb1; clear hb1))
  all_goals go_wp2_with fail
  all_goals go_ret
  all_goals exact ⟨rfl, ((Below.refl _ w).drew).trans HB.out⟩
end Go.Proofs.YtiigknimfibdpaaGreatDoor.tb
