/- Rows of pieces of layer 4; Light, made of the laws: contracts. -/
import Derived.Test.YtiokdeomdeenbaaDoorTb4
namespace Go.Proofs.YtiokdeomdeenbaaDoor.tb
open Go.RowKit Go.Lib
set_option linter.unusedVariables false
/-- A piece. -/
structure Pce where
  f : Int
  t : Int
  c : Int
  s : ByteArray
/-- A piece as Go may hold it. -/
structure Pce.ok (p : Pce) : Prop where
  f0 : -9223372036854775808 ≤ p.f
  f1 : p.f ≤ 9223372036854775807
  t0 : -2147483648 ≤ p.t
  t1 : p.t ≤ 2147483647
  c0 : -9223372036854775808 ≤ p.c
  c1 : p.c ≤ 9223372036854775807
  s1 : p.s.size ≤ 9223372036854775807
def p0 : Pce := ⟨0, 0, 0, ⟨#[]⟩⟩
/-- The cells of a piece. -/
structure CellsC (w : World) (b : Addr) (p : Pce) : Prop where
  k0 : w.cell? b = some (.int .i64 p.f)
  k1 : w.cell? ⟨b.block, b.off + 1, none⟩ = some (.int .i32 p.t)
  k2 : w.cell? ⟨b.block, b.off + 2, none⟩ = some (.int .i64 p.c)
  k3 : w.cell? ⟨b.block, b.off + 3, none⟩ = some (.string p.s)
theorem CellsC.below {w w' : World} {b : Addr} {p : Pce} (h : CellsC w b p) {B : Nat} (hb : Below B w w') (hB : w.heap.size ≤ B) : CellsC w' b p := by
  have hl := World.block_lt_of_cell? w _ h.k0
  have H : ∀ o, w'.cell? ⟨b.block, o, none⟩ = w.cell? ⟨b.block, o, none⟩ := fun o => hb.cell (p := ⟨b.block, o, none⟩) (by show b.block < B; omega)
  exact ⟨(hb.cell (by omega)).trans h.k0, (H _).trans h.k1, (H _).trans h.k2, (H _).trans h.k3⟩
/-- A slice of pieces, none or a row. -/
def RowC (w : World) (A : Option Addr) (n c : Nat) (l : List Pce) : Prop :=
  l.length = n ∧ (∀ p ∈ l, p.ok) ∧ ((A = none ∧ n = 0 ∧ c = 0) ∨ ∃ a, A = some a ∧ n ≤ c ∧ c ≤ maxLen ∧ ∀ i, i < n → CellsC w (a.add (i * 4)) (l.getD i p0))
theorem RowC.below {w w' : World} {A : Option Addr} {n c : Nat} {l : List Pce} (h : RowC w A n c l) (hb : Below w.heap.size w w') : RowC w' A n c l := by
  obtain ⟨h1, h2, h | ⟨a, h3, h4, h5, h6⟩⟩ := h
  · exact ⟨h1, h2, .inl h⟩
  · exact ⟨h1, h2, .inr ⟨a, h3, h4, h5, fun i hi => (h6 i hi).below hb (Nat.le_refl _)⟩⟩
theorem RowC.at {w : World} {A : Option Addr} {n c : Nat} {l : List Pce} (h : RowC w A n c l) (i : Nat) (hi : i < n) : ∃ a, A = some a ∧ n ≤ c ∧ c ≤ maxLen ∧ CellsC w (a.add (i * 4)) (l.getD i p0) ∧ (l.getD i p0).ok ∧ l.take (i + 1) = l.take i ++ [l.getD i p0] ∧ l.drop i = l.getD i p0 :: l.drop (i + 1) := by
  obtain ⟨h1, h2, ⟨_, h3, _⟩ | ⟨a, h3, h4, h5, h6⟩⟩ := h
  · omega
  · have hil : i < l.length := by omega
    refine ⟨a, h3, h4, h5, h6 i hi, h2 _ (by simp [List.getD, List.getElem?_eq_getElem hil]), ?_, ?_⟩
    · rw [List.take_add_one, List.getElem?_eq_getElem hil]; simp [List.getD, List.getElem?_eq_getElem hil]
    · rw [List.drop_eq_getElem_cons hil]; simp [List.getD, List.getElem?_eq_getElem hil]
/-- A piece that is neither many nor great. -/
def fine (p : Pce) : Bool := decide (p.c ≤ 100) && decide (p.s.size ≤ 300)
def light (l : List Pce) : Bool := decide (l.length ≤ 12) && l.all fine
set_option maxRecDepth 100000 in
set_option maxHeartbeats 1000000 in
theorem Light_any (A : Option Addr) (n c : Nat) (l : List Pce) (w : World) (h : RowC w A n c l) (hn : n ≤ 9223372036854775807) :
    Calls Tryd.prog 12 #[.slice A n c] w fun e w' => e = .returned (.bool (light l)) ∧ Below w.heap.size w w' := by
  obtain ⟨L, hL⟩ : ∃ L, L = light l := ⟨_, rfl⟩
  rw [← hL]
  have HL := Lib.hid hL; have H := Lib.hid h; have HN := Lib.hid h.1
  clear hL h
  by_cases hbig : 12 < n
  · have : L = false := by rw [HL.out]; unfold light; rw [HN.out]; simp; omega
    subst this
    go_enter Tryd.func12, Tryd.ntmps12
    go_wp2_with fail
    go_ret
    exact ⟨rfl, Below.refl _ _⟩
  go_enter Tryd.func12, Tryd.ntmps12
  go_wp2_with fail
  go_loopw [10] (fun i wr => ∃ j : Nat, j ≤ n ∧ i = .int .i64 j ∧ (l.take j).all fine = true ∧ Below w.heap.size w wr) (fun i _ => n - (RowKit.intOf i).toNat)
  case atStart => exact ⟨0, Nat.zero_le _, rfl, by simp, Below.refl _ _⟩
  case round =>
    obtain ⟨j, hj, rfl, hall, hB⟩ := hrel
    have HAL := Lib.hid hall; have HB := Lib.hid hB
    clear hall hB
    by_cases hlt : j < n
    · obtain ⟨a, rfl, a1, a2, hc, hok, htk, hdr⟩ := (H.out.below HB.out).at j hlt
      unfold maxLen at a2
      have HTK := Lib.hid htk
      have hmem : Hid (l.getD j p0 ∈ l) := Lib.hid (by simp [List.getD, List.getElem?_eq_getElem (show j < l.length by have := HN.out; omega)])
      clear htk hdr
      generalize l.getD j p0 = p at *
      obtain ⟨k0, k1, k2, k3⟩ := hc
      obtain ⟨_, _, _, _, o1, o2, o3⟩ := hok
      by_cases hc1 : p.c ≤ 100
      · by_cases hs1 : p.s.size ≤ 300
        · have hst : Hid ((l.take (j + 1)).all fine = true) := Lib.hid (by rw [HTK.out, List.all_append, HAL.out]; simp [fine, hc1, hs1])
          generalize p.c = C at *
          generalize p.s = S at *
          generalize p.f = F at *
          generalize p.t = T at *
          go_wp2_with fail
          go_roundw
          case rel => exact ⟨j + 1, by omega, by go_num, hst.out, HB.out.alloc HB.out.size _⟩
          case measure => simp [RowKit.intOf]; omega
        · have : L = false := by
            rw [HL.out]
            unfold light
            rw [Bool.and_eq_false_iff]
            right
            rw [Bool.eq_false_iff]
            intro h
            have := List.all_eq_true.1 h _ hmem.out
            unfold fine at this
            simp at this
            omega
          subst this
          generalize p.c = C at *
          generalize p.s = S at *
          generalize p.f = F at *
          generalize p.t = T at *
          go_wp2_with fail
          go_ret
          exact ⟨rfl, HB.out.alloc HB.out.size _⟩
      · have : L = false := by
          rw [HL.out]
          unfold light
          rw [Bool.and_eq_false_iff]
          right
          rw [Bool.eq_false_iff]
          intro h
          have := List.all_eq_true.1 h _ hmem.out
          unfold fine at this
          simp at this
          omega
        subst this
        generalize p.c = C at *
        generalize p.s = S at *
        generalize p.f = F at *
        generalize p.t = T at *
        go_wp2_with fail
        go_ret
        exact ⟨rfl, HB.out.alloc HB.out.size _⟩
    · obtain rfl : j = n := by omega
      have : L = true := by
        rw [HL.out]
        unfold light
        have h1 := HAL.out
        rw [show l.take j = l by rw [← HN.out]; exact List.take_length] at h1
        rw [h1, HN.out]; simp; omega
      subst this
      go_wp2_with fail
      go_ret
      exact ⟨rfl, HB.out⟩
end Go.Proofs.YtiokdeomdeenbaaDoor.tb
