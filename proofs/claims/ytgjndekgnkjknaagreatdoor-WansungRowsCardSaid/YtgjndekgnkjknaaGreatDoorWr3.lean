/- The landed wansung: lists, spans, pairs, Rows: contracts. -/
import Derived.Test.YtgjndekgnkjknaaGreatDoorWr0
import Derived.Test.YtgjndekgnkjknaaGreatDoorWr2
namespace Go.Proofs.YtgjndekgnkjknaaGreatDoor.wr
open Go.RowKit Go.Lib Go.Sort
open Go.Proofs.YtgjndekgnkjknaaGreatDoor.tb
set_option linter.unusedVariables false
theorem ls_ok : ∀ p ∈ lsP, p.ok := by
  intro p hp
  simp only [lsP, List.mem_cons, List.mem_nil_iff, or_false] at hp
  rcases hp with rfl | rfl | rfl <;> exact ⟨by decide, by decide, by decide, by decide, by decide, by decide, by decide +kernel⟩
theorem ls_small : ∀ p ∈ lsP, p.s.size ≤ 4000000 := by
  intro p hp
  simp only [lsP, List.mem_cons, List.mem_nil_iff, or_false] at hp
  rcases hp with rfl | rfl | rfl <;> decide +kernel
theorem sp_all : (spP.all fun p => decide (-9223372036854775808 ≤ p.f) && decide (p.f ≤ 9223372036854775807) && decide (-2147483648 ≤ p.t) && decide (p.t ≤ 2147483647) && decide (-9223372036854775808 ≤ p.c) && decide (p.c ≤ 9223372036854775807) && decide (p.s.size ≤ 4000000)) = true := by decide +kernel
theorem sp_ok : ∀ p ∈ spP, p.ok ∧ p.s.size ≤ 4000000 := by
  intro p hp
  have h := List.all_eq_true.1 sp_all p hp
  simp only [Bool.and_eq_true, decide_eq_true_eq] at h
  obtain ⟨⟨⟨⟨⟨⟨h1, h2⟩, h3⟩, h4⟩, h5⟩, h6⟩, h7⟩ := h
  exact ⟨⟨h1, h2, h3, h4, h5, h6, by omega⟩, h7⟩
/-- What lists and spans answer. -/
def RowsOf (l : List Pce) (n : Nat) (w : World) (e : Ending) (w' : World) : Prop := ∃ g, e = .returned (.slice (some ⟨g, 0, none⟩) n n) ∧ RowC w' (some ⟨g, 0, none⟩) n n l ∧ Below w.heap.size w w'
set_option maxRecDepth 1000000 in
set_option maxHeartbeats 4000000 in
theorem lists_any (w : World) : Calls Tryz.prog 9 #[] w (RowsOf lsP 3 w) := by
  have HB := Lib.hid (Below.refl w.heap.size w)
  have HL1 : Hid (∀ W, Calls Tryz.prog 20 #[.int .i64 41377, .string t1] W fun e w' => e = .returned (.agg #[.int .i64 41377, .int .i32 0, .int .i64 0, .string t1]) ∧ Below W.heap.size W w') := Lib.hid (fun W => list_any _ _ _)
  have HL2 : Hid (∀ W, Calls Tryz.prog 20 #[.int .i64 41633, .string t2] W fun e w' => e = .returned (.agg #[.int .i64 41633, .int .i32 0, .int .i64 0, .string t2]) ∧ Below W.heap.size W w') := Lib.hid (fun W => list_any _ _ _)
  have HL3 : Hid (∀ W, Calls Tryz.prog 20 #[.int .i64 42657, .string t3] W fun e w' => e = .returned (.agg #[.int .i64 42657, .int .i32 0, .int .i64 0, .string t3]) ∧ Below W.heap.size W w') := Lib.hid (fun W => list_any _ _ _)
  have HR : Hid (∀ W, Below w.heap.size w W → RowsOf lsP 3 w (.returned (.slice (some ⟨W.heap.size, 0, none⟩) 3 3)) (W.alloc (.cells #[.int .i64 41377, .int .i32 0, .int .i64 0, .string t1, .int .i64 41633, .int .i32 0, .int .i64 0, .string t2, .int .i64 42657, .int .i32 0, .int .i64 0, .string t3] 48))) := Lib.hid (fun W hb => ⟨_, rfl, rowC_new W lsP ls_ok (by decide) 48, hb.alloc hb.size _⟩)
  go_enter Tryz.func9, Tryz.ntmps9
  go_wp2_with (first
    | (go_at_call 20; refine (HL3.out _).mono ?_; rintro e1 w1 ⟨rfl, hb1⟩; have HB := Lib.hid (HB.out.trans (hb1.mono HB.out.size)); clear hb1)
    | (go_at_call 20; refine (HL2.out _).mono ?_; rintro e1 w1 ⟨rfl, hb1⟩; have HB := Lib.hid (HB.out.trans (hb1.mono HB.out.size)); clear hb1)
    | (go_at_call 20; refine (HL1.out _).mono ?_; rintro e1 w1 ⟨rfl, hb1⟩; have HB := Lib.hid (HB.out.trans (hb1.mono HB.out.size)); clear hb1))
  go_ret
  exact HR.out _ HB.out
set_option maxRecDepth 1000000 in
set_option maxHeartbeats 4000000 in
theorem spans_any (w : World) : Calls Tryz.prog 10 #[] w (RowsOf spP 19 w) := by
  have HB := Lib.hid (Below.refl w.heap.size w)
  have HR : Hid (∀ W, Below w.heap.size w W → RowsOf spP 19 w (.returned (.slice (some ⟨W.heap.size, 0, none⟩) 19 19)) (W.alloc (.cells (spP.flatMap pcell).toArray 48))) := Lib.hid (fun W hb => ⟨_, rfl, rowC_new W spP (fun p hp => (sp_ok p hp).1) (by decide) 48, hb.alloc hb.size _⟩)
  go_enter Tryz.func10, Tryz.ntmps10
  go_wp2_with (go_at_call 21; refine (seq_any _ _ _ _).mono ?_; rintro e1 w1 ⟨rfl, hb1⟩; have HB := Lib.hid (HB.out.trans (hb1.mono HB.out.size)); clear hb1)
  go_ret
  exact HR.out _ HB.out
end Go.Proofs.YtgjndekgnkjknaaGreatDoor.wr
