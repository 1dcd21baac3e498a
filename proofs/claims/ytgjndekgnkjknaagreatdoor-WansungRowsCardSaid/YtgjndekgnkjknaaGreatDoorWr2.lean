/- Rows of pairs, one behind the other: a contract of slices.Concat at two of them. -/
import Derived.Test.YtgjndekgnkjknaaGreatDoorWr1
namespace Go.Proofs.YtgjndekgnkjknaaGreatDoor.wr
open Go.RowKit Go.Lib Go.Sort
open Go.Proofs.YtgjndekgnkjknaaGreatDoor.tb
set_option linter.unusedVariables false
theorem PO.below {w w' : World} {B : Nat} {v : Value} {l : List (Int × Int)} (h : PO w B v l) (hb : Below w.heap.size w w') : PO w' B v l := owns_below2 h hb (Nat.le_refl _)
theorem PO.le {w : World} {B B' : Nat} {v : Value} {l : List (Int × Int)} (h : PO w B v l) (hB : B' ≤ B) : PO w B' v l := by
  obtain ⟨h1, h2 | ⟨g, cap, cur, hv, hg, r⟩⟩ := h
  · exact ⟨h1, .inl h2⟩
  · exact ⟨h1, .inr ⟨g, cap, cur, hv, by omega, r⟩⟩
/-- What concat answers. -/
def ConcatP (l : List (Int × Int)) (w : World) (e : Ending) (w' : World) : Prop := ∃ v, e = .returned v ∧ PO w' w.heap.size v l ∧ Below w.heap.size w w'
set_option maxRecDepth 100000 in
set_option maxHeartbeats 8000000 in
theorem concat_any (X : Nat) (A1 A2 : Option Addr) (n1 n2 c1 c2 : Nat) (l1 l2 : List (Int × Int)) (w : World) (hX : X < w.heap.size) (k0 : w.cell? ⟨X, 0, none⟩ = some (.slice A1 n1 c1)) (k1 : w.cell? ⟨X, 1, none⟩ = some (.slice A2 n2 c2))
    (h1 : RowP w A1 n1 c1 l1) (h2 : RowP w A2 n2 c2 l2) (hn : 0 < n1 + n2) (hs1 : n1 ≤ 10000000) (hs2 : n2 ≤ 10000000) :
    Calls Tryz.prog 7 #[.slice (some ⟨X, 0, none⟩) 2 2] w (ConcatP (l1 ++ l2) w) := by
  have H1 := Lib.hid h1; have H2 := Lib.hid h2
  have HG := Lib.hid (fun W => grow_any (n1 + n2) W hn (by omega))
  rw [show (((n1 + n2 : Nat)) : Int) = (n1 : Int) + (n2 : Int) by omega] at HG
  have HL1 := Lib.hid h1.len
  have p0 : (0 : Int) ≤ (n1 : Int) := by omega
  have p1 : (n1 : Int) ≤ 10000000 := by omega
  have p2 : (0 : Int) ≤ (n2 : Int) := by omega
  have p3 : (n2 : Int) ≤ 10000000 := by omega
  have HN := Lib.hid hn
  clear h1 h2 hn hs1 hs2
  go_enter Tryz.func7, Tryz.ntmps7
  go_wp2_with fail
  go_loopw [3, 11] (fun s i wr => w = wr ∧ ((i = .int .i64 0 ∧ s = .int .i64 0) ∨ (i = .int .i64 1 ∧ s = .int .i64 (n1 : Int)) ∨ (i = .int .i64 2 ∧ s = .int .i64 ((n1 : Int) + (n2 : Int))))) (fun _ i _ => 2 - (RowKit.intOf i).toNat)
  case atStart => exact ⟨rfl, .inl ⟨rfl, rfl⟩⟩
  case round =>
    obtain ⟨rfl, ⟨rfl, rfl⟩ | ⟨rfl, rfl⟩ | ⟨rfl, rfl⟩⟩ := hrel
    · go_wp2_with fail
      go_roundw
      case rel => exact ⟨trivial, .inr (.inl ⟨rfl, rfl⟩)⟩
      case measure => simp [RowKit.intOf]
    · go_wp2_with fail
      go_roundw
      case rel => exact ⟨trivial, .inr (.inr ⟨rfl, rfl⟩)⟩
      case measure => simp [RowKit.intOf]
    · go_wp2_with (go_at_call 17; refine (HG.out _).mono ?_; rintro e1 w1 ⟨v1, rfl, ho1, hb1⟩; have O1 := Lib.hid ho1; have B1 := Lib.hid hb1; clear ho1 hb1)
      go_loopw [6, 27] (fun v i wr => Below w.heap.size w wr ∧ ((i = .int .i64 0 ∧ PO wr w.heap.size v []) ∨ (i = .int .i64 1 ∧ PO wr w.heap.size v l1) ∨ (i = .int .i64 2 ∧ PO wr w.heap.size v (l1 ++ l2)))) (fun _ i _ => 2 - (RowKit.intOf i).toNat)
      case atStart => exact ⟨B1.out, .inl ⟨rfl, O1.out⟩⟩
      case round =>
        obtain ⟨hB, ⟨rfl, ho⟩ | ⟨rfl, ho⟩ | ⟨rfl, ho⟩⟩ := hrel
        · have q0 := (hB.cell (p := ⟨X, 0, none⟩) hX).trans k0
          have q1 := (hB.cell (p := ⟨X, 1, none⟩) hX).trans k1
          have HB := Lib.hid hB; have HO := Lib.hid ho; have hz := hB.size
          clear hB ho
          go_wp2_with (at_builtin; refine append_pairs rfl _ _ rfl w.heap.size _ _ rfl HO.out A1 c1 n1 l1 rfl (H1.out.below HB.out) (by simp; omega) hz ?_; intro v5 w5 ho5 hg5; have HO5 := Lib.hid ho5; have HB5 := Lib.hid (below_own HB.out hz HO.out hg5); clear ho5 hg5)
          go_roundw
          case rel => exact ⟨HB5.out, .inr (.inl ⟨rfl, HO5.out⟩)⟩
          case measure => simp [RowKit.intOf]
        · have q0 := (hB.cell (p := ⟨X, 0, none⟩) hX).trans k0
          have q1 := (hB.cell (p := ⟨X, 1, none⟩) hX).trans k1
          have HB := Lib.hid hB; have HO := Lib.hid ho; have hz := hB.size
          clear hB ho
          go_wp2_with (at_builtin; refine append_pairs rfl _ _ rfl w.heap.size _ _ rfl HO.out A2 c2 n2 l2 rfl (H2.out.below HB.out) (by have := HL1.out; omega) hz ?_; intro v5 w5 ho5 hg5; have HO5 := Lib.hid ho5; have HB5 := Lib.hid (below_own HB.out hz HO.out hg5); clear ho5 hg5)
          go_roundw
          case rel => exact ⟨HB5.out, .inr (.inr ⟨rfl, HO5.out⟩)⟩
          case measure => simp [RowKit.intOf]
        · have HB := Lib.hid hB; have HO := Lib.hid ho
          clear hB ho
          go_wp2_with fail
          go_ret
          exact ⟨_, rfl, HO.out, HB.out⟩
end Go.Proofs.YtgjndekgnkjknaaGreatDoor.wr
