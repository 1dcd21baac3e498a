/- join of layer 3: a contract. -/
import Derived.Test.YtmogjimiiadmmaaDoorWd4
namespace Go.Proofs.YtmogjimiiadmmaaDoor.wd
open Go.RowKit Go.Lib
set_option linter.unusedVariables false
/-- A slice of units, none or a row. -/
def RowU (w : World) (p : Option Addr) (len cap : Nat) (l : List Nat) : Prop :=
  (p = none ∧ len = 0 ∧ cap = 0 ∧ l = []) ∨ ∃ a, p = some a ∧ len ≤ cap ∧ cap ≤ maxLen ∧ l.length = len ∧ ∀ i, i < len → w.cell? (a.add i) = some (.int .u16 ((l.getD i 0 : Nat) : Int))
theorem RowU.len {w : World} {p : Option Addr} {len cap : Nat} {l : List Nat} (h : RowU w p len cap l) : l.length = len := by
  rcases h with ⟨_, h1, _, h2⟩ | ⟨a, _, _, _, h, _⟩
  · rw [h1, h2]; rfl
  · exact h
theorem RowU.below {w w' : World} {p : Option Addr} {len cap : Nat} {l : List Nat} (h : RowU w p len cap l) (hb : Below w.heap.size w w') : RowU w' p len cap l := by
  rcases h with h | ⟨a, h1, h2, h3, h4, h5⟩
  · exact .inl h
  · exact .inr ⟨a, h1, h2, h3, h4, fun i hi => (hb.cell (World.block_lt_of_cell? w _ (h5 i hi))).trans (h5 i hi)⟩
theorem RowU.at {w : World} {p : Option Addr} {len cap : Nat} {l : List Nat} (h : RowU w p len cap l) (i : Nat) (hi : i < len) : ∃ a, p = some a ∧ len ≤ cap ∧ cap ≤ maxLen ∧ w.cell? (a.add i) = some (.int .u16 ((l.getD i 0 : Nat) : Int)) := by
  rcases h with ⟨_, h1, _, _⟩ | ⟨a, h1, h2, h3, _, h5⟩
  · omega
  · exact ⟨a, h1, h2, h3, h5 i hi⟩
theorem rowU_of {B n : Nat} {v : Value} {l : List Nat} {w : World} (h : w.ownsRow B 80 1 v n (c16 l)) (hn : l.length = n) : ∃ p c, v = .slice p n c ∧ RowU w p n c l := by
  subst hn
  obtain ⟨hl, ⟨rfl, h0⟩ | ⟨g, cap, cur, rfl, hB, hg, h1, h2, h3, h4⟩⟩ := h
  · exact ⟨none, 0, by rw [h0], .inl ⟨rfl, h0, rfl, List.length_eq_zero_iff.1 h0⟩⟩
  · refine ⟨_, _, rfl, .inr ⟨_, rfl, h1, h2, rfl, fun i hi => ?_⟩⟩
    rw [pt.add_zero]
    have h5 := congrArg (·[i]?) h4
    simp only [Nat.mul_one] at h5
    rw [List.getElem?_take_of_lt hi, Array.getElem?_toList] at h5
    simp only [World.cell?, hg]
    simp [h5, List.getElem?_eq_getElem hi, List.getD, c16]
theorem mk_bytes (n : Nat) (z : Int) (hz : z = n) (h : n ≤ 64000) (w : World) : (Instr.makeSlice 51 (.int .i64 0) (.int .i64 z)).run Tryd.prog w = .ok (.slice (some ⟨w.heap.size, 0, none⟩) 0 n) (w.alloc (.cells (madeCells #[.int .u8 0] n) 5)) := by
  subst hz
  obtain ⟨i, hi, hzz⟩ := Option.map_eq_some_iff.1 u8_info
  simp only [Prod.mk.injEq] at hzz
  obtain ⟨hz, hs, hb⟩ := hzz
  have hr := run_make (P := Tryd.prog) w 51 5 i (.int .u8 0) Tryd.underlying51 hi hz .i64 .i64 0 (n : Int) (Int.le_refl _) (by omega) (by rw [hb]; omega) (by omega)
  simp only [Int.toNat_natCast, hs, Nat.mul_one] at hr
  exact hr
/-- Bytes as cells. -/
def b8 (l : List UInt8) : List Value := (l.map fun (b : UInt8) => (b.toNat : Int)).map (Value.int .u8)
theorem b8_str (l : List UInt8) : strCells ⟨l.toArray⟩ = b8 l := by simp [strCells, b8]
theorem b8_app (a b : List UInt8) : b8 (a ++ b) = b8 a ++ b8 b := by simp [b8]
theorem str_of (l : List UInt8) : strOfNums (l.map fun (b : UInt8) => (b.toNat : Int)) = ⟨l.toArray⟩ := pt.str_back ⟨l.toArray⟩
theorem ub_size (big : Bool) (u : Nat) : (⟨(ub big u).toArray⟩ : ByteArray).size = 2 := by
  show (ub big u).toArray.size = 2
  simp [ub_len]
theorem below_grown0 {B : Nat} {w wr w' : World} {e : TypeId} {v : Value} {n : Nat} {xs : List Value} (hb : Below B w wr) (hB : B ≤ wr.heap.size) (ho : wr.ownsRow B e 1 v n xs) (hg : wr.grownBy w' v.ownBlock) : Below B w w' := by
  refine ⟨hg.os.trans hb.os, hg.tape.trans hb.tape, hg.output.trans hb.output, Nat.le_trans hb.size hg.size, fun i hi => ?_⟩
  rw [hg.block i (by omega) (fun e => by have := ho.lt i e.symm; omega)]
  exact hb.block i hi
set_option maxRecDepth 100000 in
set_option maxHeartbeats 1000000 in
theorem join_any (big : Bool) (p : Option Addr) (n c : Nat) (l : List Nat) (w : World) (h : RowU w p n c l) (hn : n ≤ 16000) (hl : ∀ u ∈ l, u < 65536) :
    Calls Tryd.prog 41 #[.bool big, .slice p n c] w fun e w' => e = .returned (.string ⟨(ubs big l).toArray⟩) ∧ Below w.heap.size w w' := by
  obtain ⟨i0, hi0, hzz⟩ := Option.map_eq_some_iff.1 u8_info
  simp only [Prod.mk.injEq] at hzz
  obtain ⟨hz, hsi, hby⟩ := hzz
  obtain ⟨T, hT⟩ : ∃ T : ByteArray, T = ⟨(ubs big l).toArray⟩ := ⟨_, rfl⟩
  rw [← hT]
  have HT := Lib.hid hT
  have hln := h.len
  have hmk := fun w2 => mk_bytes (2 * n) (2 * (n : Int)) (by omega) (by omega) w2
  have R0 := Lib.hid h
  have HLN := Lib.hid hln; have HL := Lib.hid hl
  clear h hln hl hT
  go_enter Tryd.func41, Tryd.ntmps41
  go_wp2_with fail
  clear hmk
  go_loopw [5, 14] (fun v i wr => ∃ j : Nat, j ≤ n ∧ i = .int .i64 j ∧ wr.ownsRow w.heap.size 5 1 v (2 * j) (b8 (ubs big (l.take j))) ∧ Below w.heap.size w wr) (fun _ i _ => n - (RowKit.intOf i).toNat)
  case atStart => exact ⟨0, Nat.zero_le _, rfl, World.ownsRow_made w _ (2 * n) (Nat.le_refl _) (by unfold maxLen; omega) (by simp [madeCells]), (Below.refl _ _).alloc (Nat.le_refl _) _⟩
  case round =>
    obtain ⟨j, hj, rfl, hown, hB⟩ := hrel
    have HOW := Lib.hid hown; have HR := Lib.hid (R0.out.below hB); have HB := Lib.hid hB
    clear hown hB
    by_cases hlt : j < n
    · obtain ⟨a, rfl, a1, a2, a3⟩ := HR.out.at j hlt
      unfold maxLen at a2
      have htk : Hid (l.take (j + 1) = l.take j ++ [l.getD j 0]) := Lib.hid (by rw [List.take_add_one, List.getElem?_eq_getElem (by have := HLN.out; omega)]; simp [List.getD, List.getElem?_eq_getElem (show j < l.length by have := HLN.out; omega)])
      have hu : l.getD j 0 < 65536 := HL.out _ (by simp [List.getD, List.getElem?_eq_getElem (show j < l.length by have := HLN.out; omega)])
      generalize l.getD j 0 = u at *
      have HBY := Lib.hid (fun w2 => bytesOf_any u big w2 hu)
      clear hu
      go_wp2_with (first | (go_at_call 56; refine (HBY.out _).mono ?_; rintro e1 w1 ⟨rfl, hb1⟩; have O1 := Lib.hid (pt.owns_below HOW.out hb1); have B1 := Lib.hid (HB.out.trans (hb1.mono HB.out.size)); clear hb1) | (at_builtin; (refine wpList_append_own_string _ rfl _ _ 51 9 rfl w.heap.size 5 i0 Tryd.underlying51 Tryd.underlying9 hi0 hz hsi hby _ _ _ rfl O1.out _ rfl ?c1 ?c2 ?c3 ?_)))
      case c1 => rw [ub_size]; unfold maxLen; omega
      case c2 => rw [ub_size]; omega
      case c3 => exact B1.out.size
      intro v' w5 hown5 hgrow _
      rw [ub_len, b8_str, ← b8_app] at hown5
      have e : ubs big (l.take j) ++ ub big u = ubs big (l.take (j + 1)) := by rw [htk.out]; simp [ubs]
      rw [e, show 2 * j + 2 = 2 * (j + 1) by omega] at hown5
      have HO5 := Lib.hid hown5
      have B5 := Lib.hid (below_grown0 B1.out B1.out.size O1.out hgrow)
      clear hown5 hgrow e
      go_wp2
      go_roundw
      case rel => exact ⟨j + 1, by omega, by go_num, HO5.out, B5.out⟩
      case measure => simp [RowKit.intOf]; omega
    · obtain rfl : j = n := by omega
      have htk : l.take j = l := by rw [← HLN.out]; exact List.take_length
      rw [htk] at HOW
      have hcv := pt.conv_row wr w.heap.size _ ((ubs big l).map fun (b : UInt8) => (b.toNat : Int)) (by
        have := HOW.out
        have e : ((ubs big l).map fun (b : UInt8) => (b.toNat : Int)).length = 2 * j := by rw [List.length_map, ubs_len, HLN.out]
        rw [e]; exact this)
      rw [str_of, ← HT.out] at hcv
      clear htk hlt
      go_wp2
      go_ret
      exact ⟨rfl, HB.out⟩
end Go.Proofs.YtmogjimiiadmmaaDoor.wd
