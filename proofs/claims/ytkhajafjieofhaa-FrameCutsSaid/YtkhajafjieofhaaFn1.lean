/- The document's own answers of layer 13: Check, Print: contracts. -/
import Derived.Test.YtkhajafjieofhaaFn0
import Derived.Deep.RegionHeld3
namespace Go.Proofs.Ytkhajafjieofhaa.fn
open Go.RowKit Go.Lib
open Go.Proofs.Ytkhajafjieofhaa.fr
set_option linter.unusedVariables false
/-- Six cells of a block, since a world. -/
structure T6 (w : World) (p : Nat) (v0 v1 v2 v3 v4 v5 : Value) (W : World) : Prop where
  lt : p < W.heap.size
  c0 : W.cell? ⟨p, 0, none⟩ = some v0
  c1 : W.cell? ⟨p, 1, none⟩ = some v1
  c2 : W.cell? ⟨p, 2, none⟩ = some v2
  c3 : W.cell? ⟨p, 3, none⟩ = some v3
  c4 : W.cell? ⟨p, 4, none⟩ = some v4
  c5 : W.cell? ⟨p, 5, none⟩ = some v5
  b : Below w.heap.size w W
theorem T6.below {w W W' : World} {p : Nat} {v0 v1 v2 v3 v4 v5 : Value} (h : T6 w p v0 v1 v2 v3 v4 v5 W) (hb : Below W.heap.size W W') : T6 w p v0 v1 v2 v3 v4 v5 W' :=
  ⟨Nat.lt_of_lt_of_le h.lt hb.size, (hb.cell (p := ⟨p, 0, none⟩) h.lt).trans h.c0, (hb.cell (p := ⟨p, 1, none⟩) h.lt).trans h.c1, (hb.cell (p := ⟨p, 2, none⟩) h.lt).trans h.c2, (hb.cell (p := ⟨p, 3, none⟩) h.lt).trans h.c3, (hb.cell (p := ⟨p, 4, none⟩) h.lt).trans h.c4, (hb.cell (p := ⟨p, 5, none⟩) h.lt).trans h.c5, h.b.trans (hb.mono h.b.size)⟩
theorem T6.drew {w W : World} {p : Nat} {v0 v1 v2 v3 v4 v5 : Value} (h : T6 w p v0 v1 v2 v3 v4 v5 W) : T6 w p v0 v1 v2 v3 v4 v5 W.drew :=
  ⟨h.lt, h.c0, h.c1, h.c2, h.c3, h.c4, h.c5, h.b.drew⟩
theorem t6_new (w : World) (t : TypeId) (v0 v1 v2 v3 v4 v5 : Value) : T6 w w.heap.size v0 v1 v2 v3 v4 v5 (w.alloc (.cells #[v0, v1, v2, v3, v4, v5] t)) := by
  refine ⟨by simp, ?_, ?_, ?_, ?_, ?_, ?_, (Below.refl _ _).alloc (Nat.le_refl _) _⟩ <;> (rw [World.cell?_alloc_mark]; rfl)
/-- A frame as the document's own answer has it. -/
def vR (f : Fr) (a : Int) : Value := .agg #[.string (un.bs f.id), .int .i64 (f.st.toNat : Int), .int .i64 (f.fm.toNat : Int), .int .i64 (f.gr.toNat : Int), .string (un.bs f.bd), .int .i64 a]
set_option maxRecDepth 100000 in
set_option maxHeartbeats 2000000 in
theorem Check_any (v : Int) (f : Fr) (a : Int) (w : World) (hi : f.id.length ≤ 4000) : Calls Try.prog 21 #[.int .i64 v, vR f a] w fun e w' => e = .returned (.int .i64 (if okF v f = true then 0 else 5)) ∧ Below w.heap.size w w' := by
  unfold vR
  obtain ⟨PP, hPP⟩ : ∃ PP : Ending → World → Prop, PP = fun e w' => e = .returned (.int .i64 (if okF v f = true then 0 else 5)) ∧ Below w.heap.size w w' := ⟨_, rfl⟩
  rw [← hPP]
  have HP : Hid (∀ (x : Int) w', (if okF v f = true then (0 : Int) else 5) = x → Below w.heap.size w w' → PP (.returned (.int .i64 x)) w') := Lib.hid (fun x w' h hb => by rw [hPP, h]; exact ⟨rfl, hb⟩)
  clear hPP
  have HO : Hid (okF v f = (nmd v f.id && !(decide (v = 2) && (decide (0 < f.st.toNat) || decide (0 < f.fm.toNat))) && !(decide (0 < f.gr.toNat) && !grpd v f.fm.toNat))) := Lib.hid rfl
  have HN := Lib.hid (fun W => Named_any v (un.bs f.id) W (by rw [un.bs_size]; exact hi))
  rw [un.bs_list] at HN
  have HG := Lib.hid (fun W => Grouped_any v f.fm.toNat W (by have := UInt8.toNat_lt f.fm; omega))
  have hs : (0 : Int) < (f.st.toNat : Int) ↔ 0 < f.st.toNat := by omega
  have hf : (0 : Int) < (f.fm.toNat : Int) ↔ 0 < f.fm.toNat := by omega
  have hg : (0 : Int) < (f.gr.toNat : Int) ↔ 0 < f.gr.toNat := by omega
  simp only [← hs, ← hf, ← hg] at HO
  clear hs hf hg
  generalize grpd v f.fm.toNat = G at *
  generalize nmd v f.id = N at *
  generalize okF v f = O at *
  generalize un.bs f.id = I at *
  generalize un.bs f.bd = B at *
  generalize ((f.st.toNat : Nat) : Int) = s at *
  generalize ((f.fm.toNat : Nat) : Int) = m at *
  generalize ((f.gr.toNat : Nat) : Int) = g at *
  cases N with
  | false =>
    have HV : Hid ((if O = true then (0 : Int) else 5) = 5) := Lib.hid (by rw [HO.out]; rfl)
    go_enter Try.func21, Try.ntmps21
    go_wp2_with (go_at_call 19; refine (HN.out _).mono ?_; rintro e1 w1 ⟨rfl, rfl⟩)
    exact HP.out _ _ HV.out ((Below.refl _ _).alloc (Nat.le_refl _) _)
  | true =>
    by_cases h2 : v = 2
    · subst h2
      by_cases qs : (0 : Int) < s
      · have HV : Hid ((if O = true then (0 : Int) else 5) = 5) := Lib.hid (by rw [HO.out]; simp [qs])
        go_enter Try.func21, Try.ntmps21
        go_wp2_with (first
      | (go_at_call 19; refine (HN.out _).mono ?_; rintro e1 w1 ⟨rfl, rfl⟩)
      | (go_at_call 11; refine (HG.out _).mono ?_; rintro e1 w1 ⟨rfl, rfl⟩))
        exact HP.out _ _ HV.out ((Below.refl _ _).alloc (Nat.le_refl _) _)
      by_cases qf : (0 : Int) < m
      · have HV : Hid ((if O = true then (0 : Int) else 5) = 5) := Lib.hid (by rw [HO.out]; simp [qs, qf])
        go_enter Try.func21, Try.ntmps21
        go_wp2_with (first
      | (go_at_call 19; refine (HN.out _).mono ?_; rintro e1 w1 ⟨rfl, rfl⟩)
      | (go_at_call 11; refine (HG.out _).mono ?_; rintro e1 w1 ⟨rfl, rfl⟩))
        exact HP.out _ _ HV.out ((Below.refl _ _).alloc (Nat.le_refl _) _)
      by_cases qg : (0 : Int) < g
      · cases G with
        | true =>
          have HV : Hid ((if O = true then (0 : Int) else 5) = 0) := Lib.hid (by rw [HO.out]; simp [qs, qf, qg])
          go_enter Try.func21, Try.ntmps21
          go_wp2_with (first
      | (go_at_call 19; refine (HN.out _).mono ?_; rintro e1 w1 ⟨rfl, rfl⟩)
      | (go_at_call 11; refine (HG.out _).mono ?_; rintro e1 w1 ⟨rfl, rfl⟩))
          exact HP.out _ _ HV.out ((Below.refl _ _).alloc (Nat.le_refl _) _)
        | false =>
          have HV : Hid ((if O = true then (0 : Int) else 5) = 5) := Lib.hid (by rw [HO.out]; simp [qs, qf, qg])
          go_enter Try.func21, Try.ntmps21
          go_wp2_with (first
      | (go_at_call 19; refine (HN.out _).mono ?_; rintro e1 w1 ⟨rfl, rfl⟩)
      | (go_at_call 11; refine (HG.out _).mono ?_; rintro e1 w1 ⟨rfl, rfl⟩))
          exact HP.out _ _ HV.out ((Below.refl _ _).alloc (Nat.le_refl _) _)
      · have HV : Hid ((if O = true then (0 : Int) else 5) = 0) := Lib.hid (by rw [HO.out]; simp [qs, qf, qg])
        go_enter Try.func21, Try.ntmps21
        go_wp2_with (first
      | (go_at_call 19; refine (HN.out _).mono ?_; rintro e1 w1 ⟨rfl, rfl⟩)
      | (go_at_call 11; refine (HG.out _).mono ?_; rintro e1 w1 ⟨rfl, rfl⟩))
        exact HP.out _ _ HV.out ((Below.refl _ _).alloc (Nat.le_refl _) _)
    obtain ⟨g2, _⟩ := nb h2
    by_cases qg : (0 : Int) < g
    · cases G with
      | true =>
        have HV : Hid ((if O = true then (0 : Int) else 5) = 0) := Lib.hid (by rw [HO.out]; simp [h2, qg])
        go_enter Try.func21, Try.ntmps21
        go_wp2_with (first
      | (go_at_call 19; refine (HN.out _).mono ?_; rintro e1 w1 ⟨rfl, rfl⟩)
      | (go_at_call 11; refine (HG.out _).mono ?_; rintro e1 w1 ⟨rfl, rfl⟩))
        exact HP.out _ _ HV.out ((Below.refl _ _).alloc (Nat.le_refl _) _)
      | false =>
        have HV : Hid ((if O = true then (0 : Int) else 5) = 5) := Lib.hid (by rw [HO.out]; simp [h2, qg])
        go_enter Try.func21, Try.ntmps21
        go_wp2_with (first
      | (go_at_call 19; refine (HN.out _).mono ?_; rintro e1 w1 ⟨rfl, rfl⟩)
      | (go_at_call 11; refine (HG.out _).mono ?_; rintro e1 w1 ⟨rfl, rfl⟩))
        exact HP.out _ _ HV.out ((Below.refl _ _).alloc (Nat.le_refl _) _)
    · have HV : Hid ((if O = true then (0 : Int) else 5) = 0) := Lib.hid (by rw [HO.out]; simp [h2, qg])
      go_enter Try.func21, Try.ntmps21
      go_wp2_with (first
      | (go_at_call 19; refine (HN.out _).mono ?_; rintro e1 w1 ⟨rfl, rfl⟩)
      | (go_at_call 11; refine (HG.out _).mono ?_; rintro e1 w1 ⟨rfl, rfl⟩))
      exact HP.out _ _ HV.out ((Below.refl _ _).alloc (Nat.le_refl _) _)
end Go.Proofs.Ytkhajafjieofhaa.fn
