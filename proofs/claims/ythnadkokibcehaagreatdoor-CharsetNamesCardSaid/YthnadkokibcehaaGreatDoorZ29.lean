/- Several texts in one. -/
import Derived.Test.YthnadkokibcehaaGreatDoorZ28
import Derived.Maps.AppendAt
import Derived.Laws.AppendOwnNone
namespace Go.Proofs.YthnadkokibcehaaGreatDoor.ch
open Go.RowKit Go.Lib
set_option linter.unusedVariables false
/-- The cells of some numbers. -/
def nv (l : List Int) : List Value := l.map (Value.int .i64)
/-- A row of the call's own. -/
def Rz (w : World) (B : Nat) (v : Value) (l : List Int) : Prop := w.ownsRow B 25 1 v l.length (nv l)
/-- Two rows of the call's own, apart. -/
structure Two (w0 w : World) (v : Value) (l : List Int) (u : Value) (m : List Int) : Prop where
  a : Rz w w0.heap.size v l
  b : Rz w w0.heap.size u m
  ne : v.ownBlock = none ∨ v.ownBlock ≠ u.ownBlock
  lt : Below w0.heap.size w0 w
end Go.Proofs.YthnadkokibcehaaGreatDoor.ch
namespace Go.Proofs.YthnadkokibcehaaGreatDoor.ch
open Go.RowKit Go.Lib
set_option linter.unusedVariables false
/-- The names of a charset. -/
def labs (c : Int) : List ByteArray :=
  if c = 0 then [⟨#[108, 97, 116, 105, 110, 49]⟩, ⟨#[105, 115, 111, 45, 56, 56, 53, 57, 45, 49]⟩, ⟨#[108, 97, 116, 105, 110, 45, 49]⟩] else
  if c = 1 then [⟨#[107, 111, 105, 56, 45, 114]⟩, ⟨#[107, 111, 105, 56, 114]⟩] else
  if c = 2 then [⟨#[107, 111, 105, 56, 45, 117]⟩, ⟨#[107, 111, 105, 56, 117]⟩] else
  if c = 3 then [⟨#[99, 112, 56, 54, 54]⟩, ⟨#[105, 98, 109, 56, 54, 54]⟩] else
  if c = 4 then [⟨#[99, 112, 57, 52, 57]⟩, ⟨#[101, 117, 99, 45, 107, 114]⟩, ⟨#[117, 104, 99]⟩] else
  if c = 5 then [⟨#[106, 111, 104, 97, 98]⟩, ⟨#[99, 112, 49, 51, 54, 49]⟩] else
  if c = 6 then [⟨#[98, 105, 103, 53, 45, 104, 107, 115, 99, 115]⟩, ⟨#[98, 105, 103, 53]⟩] else
  if c = 7 then [⟨#[117, 116, 102, 45, 56]⟩, ⟨#[117, 116, 102, 56]⟩] else
  if c = 8 then [⟨#[117, 116, 102, 45, 49, 54, 108, 101]⟩, ⟨#[117, 116, 102, 49, 54, 108, 101]⟩] else
  if c = 9 then [⟨#[117, 116, 102, 45, 49, 54, 98, 101]⟩, ⟨#[117, 116, 102, 49, 54, 98, 101]⟩] else
  []
/-- A capital as a small letter. -/
def lowb (n : Nat) : Nat := if 65 ≤ n ∧ n ≤ 90 then n + 32 else n
/-- One label, capitals taken as small letters. -/
def sameB (a b : ByteArray) : Bool := a.size == b.size && (List.range a.size).all fun i => lowb (bt a i) == bt b i
theorem sameB_true {a b : ByteArray} (h : a.size = b.size) (hi : ∀ i, i < a.size → lowb (bt a i) = bt b i) : sameB a b = true := by
  unfold sameB
  rw [Bool.and_eq_true, List.all_eq_true]
  exact ⟨by simp [h], fun i hm => by rw [hi i (List.mem_range.1 hm)]; simp⟩
theorem sameB_size {a b : ByteArray} (h : ¬ a.size = b.size) : sameB a b = false := by
  unfold sameB
  simp [h]
theorem sameB_at {a b : ByteArray} (i : Nat) (hi : i < a.size) (h : ¬ lowb (bt a i) = bt b i) : sameB a b = false := by
  rw [Bool.eq_false_iff]
  intro hs
  unfold sameB at hs
  rw [Bool.and_eq_true, List.all_eq_true] at hs
  have := hs.2 i (List.mem_range.2 hi)
  exact h (by simpa using this)
/-- The charset of a label, from one on. -/
def nm (s : ByteArray) : Nat → Nat → Int
  | 0, _ => -1
  | f + 1, c => if (labs c).any (sameB s) = true then (c : Int) else nm s f (c + 1)
/-- The charset of a label; -1: none. -/
def nmd (s : ByteArray) : Int := nm s 10 0
/-- A slice of strings, none or a row. -/
def RowT (w : World) (p : Option Addr) (len cap : Nat) (zs : List ByteArray) : Prop :=
  (p = none ∧ len = 0 ∧ cap = 0 ∧ zs = []) ∨ ∃ a, p = some a ∧ len ≤ cap ∧ cap ≤ maxLen ∧ zs.length = len ∧ ∀ i, i < len → w.cell? (a.add i) = some (.string (zs.getD i ⟨#[]⟩))
theorem RowT.below {w w' : World} {p : Option Addr} {len cap : Nat} {zs : List ByteArray} (h : RowT w p len cap zs) (hb : Below w.heap.size w w') : RowT w' p len cap zs := by
  rcases h with h | ⟨a, h1, h2, h3, h4, h5⟩
  · exact .inl h
  · exact .inr ⟨a, h1, h2, h3, h4, fun i hi => (hb.cell (World.block_lt_of_cell? w _ (h5 i hi))).trans (h5 i hi)⟩
theorem RowT.at {w : World} {p : Option Addr} {len cap : Nat} {zs : List ByteArray} (h : RowT w p len cap zs) (i : Nat) (hi : i < len) : ∃ a, p = some a ∧ len ≤ cap ∧ cap ≤ maxLen ∧ w.cell? (a.add i) = some (.string (zs.getD i ⟨#[]⟩)) := by
  rcases h with ⟨_, h1, _, _⟩ | ⟨a, h1, h2, h3, _, h5⟩
  · omega
  · exact ⟨a, h1, h2, h3, h5 i hi⟩
theorem rowT_new (w : World) (L : List ByteArray) (t : TypeId) (hl : L.length ≤ 100 := by decide) : RowT (w.alloc (.cells (L.map Value.string).toArray t)) (some ⟨w.heap.size, 0, none⟩) L.length L.length L := by
  refine .inr ⟨_, rfl, Nat.le_refl _, by unfold maxLen; omega, rfl, fun i hi => ?_⟩
  have e : (⟨w.heap.size, 0, none⟩ : Addr).add i = ⟨w.heap.size, i, none⟩ := by unfold Addr.add; by_cases h : i = 0 <;> simp [h]
  rw [e, World.cell?_alloc_mark]
  simp [List.getElem?_eq_getElem hi, List.getD]
set_option maxRecDepth 100000 in
set_option maxHeartbeats 4000000 in
theorem Labels_any (c : Int) (w : World) : Calls Tryz.prog 5 #[.int .i64 c] w fun e w' => ∃ A k, e = .returned (.slice A (labs c).length k) ∧ RowT w' A (labs c).length k (labs c) ∧ Below w.heap.size w w' := by
  by_cases h0 : c = 0
  · subst h0
    go_enter Tryz.func5, Tryz.ntmps5
    go_wp2_with fail
    go_ret
    exact ⟨_, _, rfl, rowT_new w [⟨#[108, 97, 116, 105, 110, 49]⟩, ⟨#[105, 115, 111, 45, 56, 56, 53, 57, 45, 49]⟩, ⟨#[108, 97, 116, 105, 110, 45, 49]⟩] _, (Below.refl _ _).alloc (Nat.le_refl _) _⟩
  by_cases h1 : c = 1
  · subst h1
    go_enter Tryz.func5, Tryz.ntmps5
    go_wp2_with fail
    go_ret
    exact ⟨_, _, rfl, rowT_new w [⟨#[107, 111, 105, 56, 45, 114]⟩, ⟨#[107, 111, 105, 56, 114]⟩] _, (Below.refl _ _).alloc (Nat.le_refl _) _⟩
  by_cases h2 : c = 2
  · subst h2
    go_enter Tryz.func5, Tryz.ntmps5
    go_wp2_with fail
    go_ret
    exact ⟨_, _, rfl, rowT_new w [⟨#[107, 111, 105, 56, 45, 117]⟩, ⟨#[107, 111, 105, 56, 117]⟩] _, (Below.refl _ _).alloc (Nat.le_refl _) _⟩
  by_cases h3 : c = 3
  · subst h3
    go_enter Tryz.func5, Tryz.ntmps5
    go_wp2_with fail
    go_ret
    exact ⟨_, _, rfl, rowT_new w [⟨#[99, 112, 56, 54, 54]⟩, ⟨#[105, 98, 109, 56, 54, 54]⟩] _, (Below.refl _ _).alloc (Nat.le_refl _) _⟩
  by_cases h4 : c = 4
  · subst h4
    go_enter Tryz.func5, Tryz.ntmps5
    go_wp2_with fail
    go_ret
    exact ⟨_, _, rfl, rowT_new w [⟨#[99, 112, 57, 52, 57]⟩, ⟨#[101, 117, 99, 45, 107, 114]⟩, ⟨#[117, 104, 99]⟩] _, (Below.refl _ _).alloc (Nat.le_refl _) _⟩
  by_cases h5 : c = 5
  · subst h5
    go_enter Tryz.func5, Tryz.ntmps5
    go_wp2_with fail
    go_ret
    exact ⟨_, _, rfl, rowT_new w [⟨#[106, 111, 104, 97, 98]⟩, ⟨#[99, 112, 49, 51, 54, 49]⟩] _, (Below.refl _ _).alloc (Nat.le_refl _) _⟩
  by_cases h6 : c = 6
  · subst h6
    go_enter Tryz.func5, Tryz.ntmps5
    go_wp2_with fail
    go_ret
    exact ⟨_, _, rfl, rowT_new w [⟨#[98, 105, 103, 53, 45, 104, 107, 115, 99, 115]⟩, ⟨#[98, 105, 103, 53]⟩] _, (Below.refl _ _).alloc (Nat.le_refl _) _⟩
  by_cases h7 : c = 7
  · subst h7
    go_enter Tryz.func5, Tryz.ntmps5
    go_wp2_with fail
    go_ret
    exact ⟨_, _, rfl, rowT_new w [⟨#[117, 116, 102, 45, 56]⟩, ⟨#[117, 116, 102, 56]⟩] _, (Below.refl _ _).alloc (Nat.le_refl _) _⟩
  by_cases h8 : c = 8
  · subst h8
    go_enter Tryz.func5, Tryz.ntmps5
    go_wp2_with fail
    go_ret
    exact ⟨_, _, rfl, rowT_new w [⟨#[117, 116, 102, 45, 49, 54, 108, 101]⟩, ⟨#[117, 116, 102, 49, 54, 108, 101]⟩] _, (Below.refl _ _).alloc (Nat.le_refl _) _⟩
  by_cases h9 : c = 9
  · subst h9
    go_enter Tryz.func5, Tryz.ntmps5
    go_wp2_with fail
    go_ret
    exact ⟨_, _, rfl, rowT_new w [⟨#[117, 116, 102, 45, 49, 54, 98, 101]⟩, ⟨#[117, 116, 102, 49, 54, 98, 101]⟩] _, (Below.refl _ _).alloc (Nat.le_refl _) _⟩
  · have e : labs c = [] := by unfold labs; rw [if_neg h0, if_neg h1, if_neg h2, if_neg h3, if_neg h4, if_neg h5, if_neg h6, if_neg h7, if_neg h8, if_neg h9]
    rw [e]
    go_enter Tryz.func5, Tryz.ntmps5
    go_wp2_with fail
    go_ret
    exact ⟨none, 0, rfl, .inl ⟨rfl, rfl, rfl, rfl⟩, Below.refl _ _⟩
end Go.Proofs.YthnadkokibcehaaGreatDoor.ch
namespace Go.Proofs.YthnadkokibcehaaGreatDoor.ch
open Go.RowKit Go.Lib
set_option linter.unusedVariables false
set_option maxRecDepth 100000 in
set_option maxHeartbeats 4000000 in
theorem same_any (a b : ByteArray) (w : World) (ha : a.size ≤ 100000) (hb : b.size ≤ 100000) : Calls Tryz.prog 13 #[.string a, .string b] w fun e w' => e = .returned (.bool (sameB a b)) ∧ Below w.heap.size w w' := by
  obtain ⟨PP, hPP⟩ : ∃ PP : Ending → World → Prop, PP = fun e w' => e = .returned (.bool (sameB a b)) ∧ Below w.heap.size w w' := ⟨_, rfl⟩
  rw [← hPP]
  have HP : Hid (∀ v W', sameB a b = v → Below w.heap.size w W' → PP (.returned (.bool v)) W') := Lib.hid (fun v W' h h2 => by rw [hPP]; exact ⟨by rw [h], h2⟩)
  clear hPP
  by_cases hs : a.size = b.size
  · have q0 : ((a.size : Int) = (b.size : Int)) := by omega
    go_enter Tryz.func13, Tryz.ntmps13
    go_wp2_with fail
    go_loopw [5] (fun i wr => ∃ j : Nat, j ≤ a.size ∧ i = .int .i64 j ∧ Hid (∀ k, k < j → lowb (bt a k) = bt b k) ∧ Below w.heap.size w wr) (fun i _ => a.size - (RowKit.intOf i).toNat)
    case atStart => exact ⟨0, Nat.zero_le _, rfl, Lib.hid (fun k hk => absurd hk (Nat.not_lt_zero _)), Below.refl _ _⟩
    case round =>
      obtain ⟨j, hj, rfl, HI, hB⟩ := hrel
      have HB := Lib.hid hB
      clear hB
      by_cases hlt : j < a.size
      · have hix := fun wx => index_bt a j hlt wx
        have hix2 := fun wx => index_bt b j (by omega) wx
        by_cases he : lowb (bt a j) = bt b j
        · have HN : Hid (∀ k, k < j + 1 → lowb (bt a k) = bt b k) := Lib.hid (fun k hk => by
            by_cases h : k = j
            · rw [h]; exact he
            · exact HI.out k (by omega))
          unfold lowb at he
          have l1 := bt_lt a j
          by_cases hc : 65 ≤ bt a j ∧ bt a j ≤ 90
          · rw [if_pos hc] at he
            have c1 : (65 : Int) ≤ ((bt a j : Nat) : Int) := by omega
            have c2 : ((bt a j : Nat) : Int) ≤ 90 := by omega
            have he2 : ((bt b j : Nat) : Int) = ((bt a j : Nat) : Int) + 32 := by omega
            rw [he2] at hix2
            generalize ((bt a j : Nat) : Int) = B at *
            have w1 : IntKind.u8.wrap (B - 65) = B - 65 := by simp [IntKind.wrap, IntKind.bits, IntKind.signed]; omega
            have w2 : IntKind.u8.wrap (B - 65 + 97) = B + 32 := by simp [IntKind.wrap, IntKind.bits, IntKind.signed]; omega
            clear he hc he2
            go_wp2_with fail
            go_roundw
            case rel => exact ⟨j + 1, by omega, by go_num, HN, HB.out⟩
            case measure => simp [RowKit.intOf]; omega
          · rw [if_neg hc] at he
            have he2 : ((bt b j : Nat) : Int) = ((bt a j : Nat) : Int) := by omega
            rw [he2] at hix2
            have hc2 : ((bt a j : Nat) : Int) < 65 ∨ ((65 : Int) ≤ ((bt a j : Nat) : Int) ∧ 90 < ((bt a j : Nat) : Int)) := by omega
            generalize ((bt a j : Nat) : Int) = B at *
            clear he hc he2
            rcases hc2 with c1 | ⟨c1, c2⟩
            all_goals
              go_wp2_with fail
              go_roundw
              case rel => exact ⟨j + 1, by omega, by go_num, HN, HB.out⟩
              case measure => simp [RowKit.intOf]; omega
        · have HF := Lib.hid (sameB_at j hlt he)
          unfold lowb at he
          have l1 := bt_lt a j
          by_cases hc : 65 ≤ bt a j ∧ bt a j ≤ 90
          · rw [if_pos hc] at he
            have c1 : (65 : Int) ≤ ((bt a j : Nat) : Int) := by omega
            have c2 : ((bt a j : Nat) : Int) ≤ 90 := by omega
            have he2 : ¬ ((bt a j : Nat) : Int) + 32 = ((bt b j : Nat) : Int) := by omega
            generalize ((bt a j : Nat) : Int) = B at *
            generalize ((bt b j : Nat) : Int) = D at *
            have w1 : IntKind.u8.wrap (B - 65) = B - 65 := by simp [IntKind.wrap, IntKind.bits, IntKind.signed]; omega
            have w2 : IntKind.u8.wrap (B - 65 + 97) = B + 32 := by simp [IntKind.wrap, IntKind.bits, IntKind.signed]; omega
            clear he hc
            go_wp2_with fail
            exact HP.out _ _ HF.out HB.out
          · rw [if_neg hc] at he
            have he2 : ¬ ((bt a j : Nat) : Int) = ((bt b j : Nat) : Int) := by omega
            have hc2 : ((bt a j : Nat) : Int) < 65 ∨ ((65 : Int) ≤ ((bt a j : Nat) : Int) ∧ 90 < ((bt a j : Nat) : Int)) := by omega
            generalize ((bt a j : Nat) : Int) = B at *
            generalize ((bt b j : Nat) : Int) = D at *
            clear he hc
            rcases hc2 with c1 | ⟨c1, c2⟩
            all_goals
              go_wp2_with fail
              exact HP.out _ _ HF.out HB.out
      · obtain rfl : j = a.size := by omega
        have HF := Lib.hid (sameB_true hs HI.out)
        go_wp2_with fail
        exact HP.out _ _ HF.out HB.out
  · have HF := Lib.hid (sameB_size hs)
    have q0 : ¬ ((a.size : Int) = (b.size : Int)) := by omega
    clear hs
    go_enter Tryz.func13, Tryz.ntmps13
    go_wp2_with fail
    exact HP.out _ _ HF.out (Below.refl _ _)
end Go.Proofs.YthnadkokibcehaaGreatDoor.ch
namespace Go.Proofs.YthnadkokibcehaaGreatDoor.ch
open Go.RowKit Go.Lib
set_option linter.unusedVariables false
theorem any_none (s : ByteArray) (L : List ByteArray) (h : ∀ k, k < L.length → sameB s (L.getD k ⟨#[]⟩) = false) : ¬ L.any (sameB s) = true := by
  intro ha
  obtain ⟨x, hx, hs⟩ := List.any_eq_true.1 ha
  obtain ⟨k, hk, e⟩ := List.mem_iff_getElem.1 hx
  have := h k hk
  rw [List.getD_eq_getElem?_getD, List.getElem?_eq_getElem hk] at this
  simp only [Option.getD_some, e] at this
  rw [hs] at this
  cases this
theorem any_some (s : ByteArray) (L : List ByteArray) (k : Nat) (hk : k < L.length) (h : sameB s (L.getD k ⟨#[]⟩) = true) : L.any (sameB s) = true := by
  rw [List.any_eq_true]
  refine ⟨L[k], List.getElem_mem hk, ?_⟩
  rw [List.getD_eq_getElem?_getD, List.getElem?_eq_getElem hk] at h
  simpa using h
theorem labs_short (c : Int) : (labs c).length ≤ 3 ∧ ∀ s ∈ labs c, s.size ≤ 20 := by
  by_cases h0 : c = 0
  · subst h0; decide
  by_cases h1 : c = 1
  · subst h1; decide
  by_cases h2 : c = 2
  · subst h2; decide
  by_cases h3 : c = 3
  · subst h3; decide
  by_cases h4 : c = 4
  · subst h4; decide
  by_cases h5 : c = 5
  · subst h5; decide
  by_cases h6 : c = 6
  · subst h6; decide
  by_cases h7 : c = 7
  · subst h7; decide
  by_cases h8 : c = 8
  · subst h8; decide
  by_cases h9 : c = 9
  · subst h9; decide
  have e : labs c = [] := by unfold labs; rw [if_neg h0, if_neg h1, if_neg h2, if_neg h3, if_neg h4, if_neg h5, if_neg h6, if_neg h7, if_neg h8, if_neg h9]
  rw [e]
  decide
theorem getD_short (c : Int) (k : Nat) : ((labs c).getD k ⟨#[]⟩).size ≤ 20 := by
  by_cases hk : k < (labs c).length
  · rw [List.getD_eq_getElem?_getD, List.getElem?_eq_getElem hk]
    exact (labs_short c).2 _ (List.getElem_mem hk)
  · rw [List.getD_eq_getElem?_getD, List.getElem?_eq_none (by omega)]
    decide
set_option maxRecDepth 100000 in
set_option maxHeartbeats 4000000 in
theorem Named_any (s : ByteArray) (w : World) (hs : s.size ≤ 4000) : Calls Tryz.prog 10 #[.string s] w fun e w' => e = .returned (.int .i64 (nmd s)) ∧ Below w.heap.size w w' := by
  obtain ⟨R, hR⟩ : ∃ R, R = nmd s := ⟨_, rfl⟩
  rw [← hR]
  obtain ⟨PP, hPP⟩ : ∃ PP : Ending → World → Prop, PP = fun e w' => e = .returned (.int .i64 R) ∧ Below w.heap.size w w' := ⟨_, rfl⟩
  rw [← hPP]
  have HP : Hid (∀ v W', R = v → Below w.heap.size w W' → PP (.returned (.int .i64 v)) W') := Lib.hid (fun v W' h h2 => by rw [hPP]; exact ⟨by rw [h], h2⟩)
  have HR : Hid (nm s 10 0 = R) := Lib.hid hR.symm
  have HLB := Lib.hid (fun c W => Labels_any c W)
  clear hPP hR
  go_enter Tryz.func10, Tryz.ntmps10
  go_wp2_with fail
  go_loopw [3] (fun i wr => ∃ c f : Nat, c + f = 10 ∧ i = .int .i64 c ∧ Hid (nm s f c = R) ∧ Below w.heap.size w wr) (fun i _ => 10 - (RowKit.intOf i).toNat)
  case atStart => exact ⟨0, 10, rfl, rfl, HR, Below.refl _ _⟩
  case round =>
    obtain ⟨c, f, hf, rfl, HN, hB⟩ := hrel
    have HB := Lib.hid hB
    clear hB
    by_cases hc : c < 10
    · obtain ⟨f1, rfl⟩ : ∃ f1, f = f1 + 1 := ⟨f - 1, by omega⟩
      have HL1 := Lib.hid (HLB.out (c : Int))
      have HS1 := Lib.hid (fun k W => same_any s ((labs (c : Int)).getD k ⟨#[]⟩) W (by omega) (by have := getD_short (c : Int) k; omega))
      have HNo : Hid ((∀ k, k < (labs (c : Int)).length → sameB s ((labs (c : Int)).getD k ⟨#[]⟩) = false) → nm s f1 (c + 1) = R) := Lib.hid (fun h => by
        have := HN.out
        unfold nm at this
        rwa [if_neg (any_none s _ h)] at this)
      have HYes : Hid (∀ k, k < (labs (c : Int)).length → sameB s ((labs (c : Int)).getD k ⟨#[]⟩) = true → R = (c : Int)) := Lib.hid (fun k hk h => by
        have := HN.out
        unfold nm at this
        rw [if_pos (any_some s _ k hk h)] at this
        exact this.symm)
      have hl3 := (labs_short (c : Int)).1
      generalize labs (c : Int) = L at *
      clear HN
      go_wp2_with (go_at_call 5; refine (HL1.out _).mono ?_; rintro e1 w1 ⟨A, k1, rfl, r1, hb1⟩; have R1 := Lib.hid r1; have B1 := Lib.hid (HB.out.trans (hb1.mono HB.out.size)); clear r1 hb1)
      go_loopw [5] (fun i wr => ∃ j : Nat, j ≤ L.length ∧ i = .int .i64 j ∧ Hid (∀ k, k < j → sameB s (L.getD k ⟨#[]⟩) = false) ∧ Below w1.heap.size w1 wr) (fun i _ => L.length - (RowKit.intOf i).toNat)
      case atStart => exact ⟨0, Nat.zero_le _, rfl, Lib.hid (fun k hk => absurd hk (Nat.not_lt_zero _)), Below.refl _ _⟩
      case round =>
        obtain ⟨j, hj, rfl, HI, hB2⟩ := hrel
        have HB2 := Lib.hid hB2
        clear hB2
        by_cases hlt : j < L.length
        · obtain ⟨a, rfl, a1, a2, a3⟩ := (R1.out.below HB2.out).at j hlt
          unfold maxLen at a2
          have HSj := Lib.hid (HS1.out j)
          have HYj := Lib.hid (HYes.out j hlt)
          have HIj : Hid (sameB s (L.getD j ⟨#[]⟩) = false → ∀ k, k < j + 1 → sameB s (L.getD k ⟨#[]⟩) = false) := Lib.hid (fun h k hk => by
            by_cases e : k = j
            · rw [e]; exact h
            · exact HI.out k (by omega))
          cases hv : sameB s (L.getD j ⟨#[]⟩) with
          | true =>
            rw [hv] at HSj HYj
            have HY2 := Lib.hid (HYj.out rfl)
            clear HYj
            generalize L.getD j ⟨#[]⟩ = X at *
            clear hv HIj
            go_wp2_with (go_at_call 13; refine (HSj.out _).mono ?_; rintro e3 w3 ⟨rfl, hb3⟩; have B3 := Lib.hid (B1.out.trans ((HB2.out.trans (hb3.mono HB2.out.size)).mono B1.out.size)); clear hb3)
            exact HP.out _ _ HY2.out B3.out
          | false =>
            rw [hv] at HSj HIj
            have HJ := Lib.hid (HIj.out rfl)
            clear HIj HYj
            generalize L.getD j ⟨#[]⟩ = X at hv HSj a3
            clear hv
            go_wp2_with (go_at_call 13; refine (HSj.out _).mono ?_; rintro e3 w3 ⟨rfl, hb3⟩; have B3 := Lib.hid (HB2.out.trans (hb3.mono HB2.out.size)); clear hb3)
            go_roundw
            case rel => exact ⟨j + 1, by omega, by go_num, HJ, B3.out⟩
            case measure => simp [RowKit.intOf]; omega
        · obtain rfl : j = L.length := by omega
          have HN2 := Lib.hid (HNo.out HI.out)
          go_wp2_with fail
          go_roundw
          case rel => exact ⟨c + 1, f1, by omega, by go_num, HN2, B1.out.trans (HB2.out.mono B1.out.size)⟩
          case measure => simp [RowKit.intOf]; omega
    · obtain rfl : f = 0 := by omega
      have HV : Hid (R = -1) := Lib.hid (by have := HN.out; unfold nm at this; exact this.symm)
      go_wp2_with fail
      exact HP.out _ _ HV.out HB.out
end Go.Proofs.YthnadkokibcehaaGreatDoor.ch
namespace Go.Proofs.YthnadkokibcehaaGreatDoor.ch
open Go.RowKit Go.Lib
set_option linter.unusedVariables false
/-- A small letter as a capital. -/
def upb (n : Nat) : Nat := if 97 ≤ n ∧ n ≤ 122 then n - 32 else n
def upl (s : ByteArray) (j : Nat) : List Int := (List.range j).map fun i => ((upb (bt s i) : Nat) : Int)
/-- A label in capitals. -/
def ups (s : ByteArray) : ByteArray := strOfNums (upl s s.size)
theorem upl_len (s : ByteArray) (j : Nat) : (upl s j).length = j := by simp [upl]
theorem upl_succ (s : ByteArray) (j : Nat) : upl s (j + 1) = upl s j ++ [((upb (bt s j) : Nat) : Int)] := by simp [upl, List.range_succ]
def namesOk (c : Int) : Bool := (labs c).all fun s => nmd s == c && nmd (ups s) == c
theorem names_ok {c : Int} (h : inC c) : namesOk c = true := by
  unfold inC at h
  have hh : c = 0 ∨ c = 1 ∨ c = 2 ∨ c = 3 ∨ c = 4 ∨ c = 5 ∨ c = 6 ∨ c = 7 ∨ c = 8 ∨ c = 9 := by omega
  rcases hh with rfl | rfl | rfl | rfl | rfl | rfl | rfl | rfl | rfl | rfl
  all_goals decide +kernel
theorem names_at {c : Int} (h : inC c) (k : Nat) (hk : k < (labs c).length) : nmd ((labs c).getD k ⟨#[]⟩) = c ∧ nmd (ups ((labs c).getD k ⟨#[]⟩)) = c := by
  have h1 := names_ok h
  unfold namesOk at h1
  rw [List.all_eq_true] at h1
  have h2 := h1 _ (List.getElem_mem hk)
  rw [List.getD_eq_getElem?_getD, List.getElem?_eq_getElem hk]
  rw [Bool.and_eq_true] at h2
  exact ⟨by simpa using h2.1, by simpa using h2.2⟩
theorem labs_in {c : Int} (h : inC c) : 0 < (labs c).length := by
  unfold inC at h
  have hh : c = 0 ∨ c = 1 ∨ c = 2 ∨ c = 3 ∨ c = 4 ∨ c = 5 ∨ c = 6 ∨ c = 7 ∨ c = 8 ∨ c = 9 := by omega
  rcases hh with rfl | rfl | rfl | rfl | rfl | rfl | rfl | rfl | rfl | rfl
  all_goals decide
theorem labs_out {c : Int} (h : ¬ inC c) : labs c = [] := by
  unfold inC at h
  unfold labs
  rw [if_neg (by omega), if_neg (by omega), if_neg (by omega), if_neg (by omega), if_neg (by omega), if_neg (by omega), if_neg (by omega), if_neg (by omega), if_neg (by omega), if_neg (by omega)]
theorem nm_range (s : ByteArray) : ∀ f c : Nat, nm s f c = -1 ∨ (0 ≤ nm s f c ∧ nm s f c < (c + f : Nat)) := by
  intro f
  induction f with
  | zero => intro c; exact .inl rfl
  | succ f ih =>
    intro c
    unfold nm
    split
    · right; omega
    · rcases ih (c + 1) with h | h
      · exact .inl h
      · right; omega
theorem nmd_range (s : ByteArray) : nmd s = -1 ∨ (0 ≤ nmd s ∧ nmd s ≤ 9) := by
  rcases nm_range s 10 0 with h | h
  · exact .inl h
  · right
    unfold nmd
    omega
/-- What this walk asks, beyond 'Ch'. -/
structure ChN (K : World → Prop) : Prop where
  right : ∀ (c : Int) w, K w → -9223372036854775808 ≤ c → c ≤ 9223372036854775807 → Calls Tryz.prog 6 #[.int .i64 c] w fun e w' => e = .returned (.bool (decide (0 ≤ c ∧ c ≤ 9))) ∧ Below w.heap.size w w'
  legacy : ∀ (c : Int) w, K w → -9223372036854775808 ≤ c → c ≤ 9223372036854775807 → Calls Tryz.prog 7 #[.int .i64 c] w fun e w' => e = .returned (.bool (decide (0 ≤ c ∧ c ≤ 6))) ∧ Below w.heap.size w w'
  name : ∀ (c : Int) w, K w → -9223372036854775808 ≤ c → c ≤ 9223372036854775807 → Calls Tryz.prog 8 #[.int .i64 c] w fun e w' => e = .returned (.string ((labs c).getD 0 ⟨#[110, 111, 110, 101]⟩)) ∧ Below w.heap.size w w'
  named : ∀ (s : ByteArray) w, K w → s.size ≤ 100 → Calls Tryz.prog 9 #[.string s] w fun e w' => e = .returned (.tuple #[.int .i64 (if nmd s < 0 then 0 else nmd s), .bool (decide (0 ≤ nmd s))]) ∧ Below w.heap.size w w'
def bv (l : List Int) : List Value := l.map (Value.int .u8)
theorem bv_snoc (l : List Int) (z : Int) : bv l ++ [.int .u8 z] = bv (l ++ [z]) := by simp [bv]
/-- One byte more in a row of the call's own. -/
theorem append_b {ops : Array Oper} {rest : List Oper} {o : Oper} {a : Act} {Q : Exit → Act → World → Prop} {w0 w : World} (hgd : o.guard = none) (s x : Operand)
    (ho : o.op = .call { callee := .builtin .append, args := #[s, x], argTypes := #[28, 28] }) (v : Value) (l : List Int) (hs : a.eval s = v) (T : w.ownsRow w0.heap.size 5 1 v l.length (bv l)) (hB : Below w0.heap.size w0 w) (z : Int)
    (hx : a.eval x = .slice (some ⟨w.heap.size, 0, none⟩) 1 1) (hlen : l.length ≤ 1000)
    (h : ∀ v' w', w'.ownsRow w0.heap.size 5 1 v' (l ++ [z]).length (bv (l ++ [z])) → Below w0.heap.size w0 w' → wpList Tryz.prog ops Q rest (a.put o.dst v') w') : wpList Tryz.prog ops Q (o :: rest) a (w.alloc (.cells #[.int .u8 z] 5)) := by
  obtain ⟨i0, hi0, hzz⟩ := Option.map_eq_some_iff.1 (show (Tryz.prog.info? 5).map (fun i => (i.zero, i.size, i.bytes)) = some (some (.int .u8 0), 1, 1) by kernel_rfl)
  simp only [Prod.mk.injEq] at hzz
  obtain ⟨hz, hsi, hby⟩ := hzz
  have hS : w0.heap.size ≤ w.heap.size := hB.size
  refine wpList_append_own _ hgd s x 28 ho w0.heap.size 5 i0 _ 1 1 Tryz.underlying28 hi0 hz hsi hby rfl (by decide) v _ _ hs (T.alloc _) ⟨w.heap.size, 0, none⟩ 1 1 [.int .u8 z] hx rfl ?_ ?_ (by unfold maxLen; omega) (by omega) (by simp; omega) ?_
  · intro j u hj
    match j, hj with
    | 0, hj =>
      simp at hj
      subst hj
      have e : (⟨w.heap.size, 0, none⟩ : Addr).add 0 = ⟨w.heap.size, 0, none⟩ := by simp [Addr.add]
      rw [e, World.cell?_alloc_mark]; rfl
    | (j + 1), hj => simp at hj
  · intro u hu; simp at hu; subst hu; rfl
  · intro v' w' h1 h2 _
    refine h v' w' ?_ (pt.below_grown hB hS T h2)
    rw [← bv_snoc, List.length_append]
    exact h1
set_option maxRecDepth 100000 in
set_option maxHeartbeats 4000000 in
theorem names_long {K : World → Prop} (L : Ch K) (c : Int) (s : ByteArray) (w : World) (hK : K w) (hs : s.size ≤ maxLen) (h : 100 < s.size) : Calls Tryz.prog 3 #[.int .i64 c, .string s] w fun e w' => e = .returned (.bool true) ∧ Below w.heap.size w w' := by
  have HAW := Lib.hid (awake_any L w hK)
  unfold maxLen at hs
  have h1 : (100 : Int) < s.size := by omega
  clear L hK h
  go_enter Tryz.func3, Tryz.ntmps3
  go_wp2_with (go_at_call 4; refine (HAW.out).mono ?_; rintro e2 w2 ⟨rfl, hb2⟩)
  go_ret
  exact ⟨rfl, hb2⟩
end Go.Proofs.YthnadkokibcehaaGreatDoor.ch
namespace Go.Proofs.YthnadkokibcehaaGreatDoor.ch
open Go.RowKit Go.Lib
set_option linter.unusedVariables false
set_option maxRecDepth 100000 in
set_option maxHeartbeats 8000000 in
theorem names_none {K : World → Prop} (L : Ch K) (LN : ChN K) (c : Int) (s : ByteArray) (w : World) (hK : K w) (hs : s.size ≤ 100) (hc0 : -9223372036854775808 ≤ c) (hc1 : c ≤ 9223372036854775807) (hc : ¬ inC c) : Calls Tryz.prog 3 #[.int .i64 c, .string s] w fun e w' => e = .returned (.bool true) ∧ Below w.heap.size w w' := by
  have HAW := Lib.hid (fun w2 h2 => awake_any L w2 h2)
  have HL := Lib.hid L.stay
  have K0 : Hid (Kb K w w) := Lib.hid ⟨hK, Below.refl _ _⟩
  have HLB := Lib.hid (fun W => Labels_any c W)
  have HRT := Lib.hid (fun W h => LN.right c W h hc0 hc1)
  have HLG := Lib.hid (fun W h => LN.legacy c W h hc0 hc1)
  have HNM := Lib.hid (fun W h => LN.name c W h hc0 hc1)
  have HND := Lib.hid (fun W h => LN.named s W h hs)
  have HNR := Lib.hid (fun W => Named_any s W (by omega))
  have e0 := labs_out hc
  have e1 : decide (0 ≤ c ∧ c ≤ 9) = false := decide_eq_false hc
  unfold inC at hc
  have e2 : decide (0 ≤ c ∧ c ≤ 6) = false := decide_eq_false (by omega)
  rw [e0] at HLB HNM
  rw [e1] at HRT
  rw [e2] at HLG
  have n2 : ¬ (100 : Int) < (s.size : Int) := by omega
  have hk := nmd_range s
  have hcc : c < 0 ∨ (0 ≤ c ∧ 6 < c) := by omega
  clear L LN hK e0 e1 e2 hc
  generalize nmd s = k at *
  have hkk : (k < 0 ∧ k = -1) ∨ (0 ≤ k ∧ ¬ k < 0) := by omega
  rcases hkk with ⟨k1, rfl⟩ | ⟨k1, k2⟩
  · rw [if_pos k1, show decide ((0 : Int) ≤ -1) = false from rfl] at HND
    rcases hcc with c1 | ⟨c1, c2⟩
    all_goals
      go_enter Tryz.func3, Tryz.ntmps3
      go_wp2_with (first
        | (go_at_call 8; refine (HNM.out _ K3.out.k).mono ?_; rintro e4 w4 ⟨rfl, hb4⟩; have K4 := Lib.hid (K3.out.below HL.out hb4); skip; clear hb4)
        | (go_at_call 7; refine (HLG.out _ K2.out.k).mono ?_; rintro e3 w3 ⟨rfl, hb3⟩; have K3 := Lib.hid (K2.out.below HL.out hb3); skip; clear hb3)
        | (go_at_call 6; refine (HRT.out _ K1.out.k).mono ?_; rintro e2 w2 ⟨rfl, hb2⟩; have K2 := Lib.hid (K1.out.below HL.out hb2); skip; clear hb2)
        | (go_at_call 5; refine (HLB.out _).mono ?_; rintro e1 w1 ⟨A, k1, rfl, r1, hb1⟩; have K1 := Lib.hid (K0.out.below HL.out hb1); skip; clear hb1 r1))
      go_loopw [58] (fun i wr => i = .int .i64 0 ∧ Below w4.heap.size w4 wr) (fun _ _ => 0)
      case atStart => exact ⟨rfl, Below.refl _ _⟩
      case round =>
        obtain ⟨rfl, hB⟩ := hrel
        have K6 := Lib.hid (K4.out.below HL.out hB)
        clear hB
        go_wp2_with (first
        | (go_at_call 4; refine (HAW.out _ K8.out.k).mono ?_; rintro e9 w9 ⟨rfl, hb9⟩; have K9 := Lib.hid (K8.out.below HL.out hb9); clear hb9)
        | (go_at_call 10; refine (HNR.out _).mono ?_; rintro e8 w8 ⟨rfl, hb8⟩; have K8 := Lib.hid (K7.out.below HL.out hb8); clear hb8)
        | (go_at_call 9; refine (HND.out _ K6.out.k).mono ?_; rintro e7 w7 ⟨rfl, hb7⟩; have K7 := Lib.hid (K6.out.below HL.out hb7); clear hb7))
        go_ret
        exact ⟨rfl, K9.out.b⟩
  · rw [if_neg k2, decide_eq_true k1] at HND
    rcases hcc with c1 | ⟨c1, c2⟩
    all_goals
      go_enter Tryz.func3, Tryz.ntmps3
      go_wp2_with (first
        | (go_at_call 8; refine (HNM.out _ K3.out.k).mono ?_; rintro e4 w4 ⟨rfl, hb4⟩; have K4 := Lib.hid (K3.out.below HL.out hb4); skip; clear hb4)
        | (go_at_call 7; refine (HLG.out _ K2.out.k).mono ?_; rintro e3 w3 ⟨rfl, hb3⟩; have K3 := Lib.hid (K2.out.below HL.out hb3); skip; clear hb3)
        | (go_at_call 6; refine (HRT.out _ K1.out.k).mono ?_; rintro e2 w2 ⟨rfl, hb2⟩; have K2 := Lib.hid (K1.out.below HL.out hb2); skip; clear hb2)
        | (go_at_call 5; refine (HLB.out _).mono ?_; rintro e1 w1 ⟨A, k1, rfl, r1, hb1⟩; have K1 := Lib.hid (K0.out.below HL.out hb1); skip; clear hb1 r1))
      go_loopw [58] (fun i wr => i = .int .i64 0 ∧ Below w4.heap.size w4 wr) (fun _ _ => 0)
      case atStart => exact ⟨rfl, Below.refl _ _⟩
      case round =>
        obtain ⟨rfl, hB⟩ := hrel
        have K6 := Lib.hid (K4.out.below HL.out hB)
        clear hB
        go_wp2_with (first
        | (go_at_call 4; refine (HAW.out _ K8.out.k).mono ?_; rintro e9 w9 ⟨rfl, hb9⟩; have K9 := Lib.hid (K8.out.below HL.out hb9); clear hb9)
        | (go_at_call 10; refine (HNR.out _).mono ?_; rintro e8 w8 ⟨rfl, hb8⟩; have K8 := Lib.hid (K7.out.below HL.out hb8); clear hb8)
        | (go_at_call 9; refine (HND.out _ K6.out.k).mono ?_; rintro e7 w7 ⟨rfl, hb7⟩; have K7 := Lib.hid (K6.out.below HL.out hb7); clear hb7))
        go_ret
        exact ⟨rfl, K9.out.b⟩
end Go.Proofs.YthnadkokibcehaaGreatDoor.ch
namespace Go.Proofs.YthnadkokibcehaaGreatDoor.ch
open Go.RowKit Go.Lib
set_option linter.unusedVariables false
theorem cell0 {w : World} {a : Addr} {v : Value} (h : w.cell? (a.add 0) = some v) : w.cell? a = some v := by
  have e : a.add 0 = a := by simp [Addr.add]
  rwa [e] at h
set_option maxRecDepth 100000 in
set_option maxHeartbeats 16000000 in
theorem names_some {K : World → Prop} (L : Ch K) (LN : ChN K) (c : Int) (s : ByteArray) (w : World) (hK : K w) (hs : s.size ≤ 100) (hc0 : -9223372036854775808 ≤ c) (hc1 : c ≤ 9223372036854775807) (hc : inC c) : Calls Tryz.prog 3 #[.int .i64 c, .string s] w fun e w' => e = .returned (.bool true) ∧ Below w.heap.size w w' := by
  have HAW := Lib.hid (fun w2 h2 => awake_any L w2 h2)
  have HL := Lib.hid L.stay
  have K0 : Hid (Kb K w w) := Lib.hid ⟨hK, Below.refl _ _⟩
  have HLB := Lib.hid (fun W => Labels_any c W)
  have HRT := Lib.hid (fun W h => LN.right c W h hc0 hc1)
  have HLG := Lib.hid (fun W h => LN.legacy c W h hc0 hc1)
  have HNM := Lib.hid (fun W h => LN.name c W h hc0 hc1)
  have HND := Lib.hid (fun W h => LN.named s W h hs)
  have HNR := Lib.hid (fun W => Named_any s W (by omega))
  have e1 : decide (0 ≤ c ∧ c ≤ 9) = true := decide_eq_true hc
  rw [e1] at HRT
  obtain ⟨NA, hNA⟩ : ∃ NA, NA = decide (0 ≤ c ∧ c ≤ 6) := ⟨_, rfl⟩
  rw [← hNA] at HLG
  have hpos := labs_in hc
  have HAT := Lib.hid (fun k hk => names_at hc k hk)
  have HSH := Lib.hid (fun k => getD_short c k)
  have hl3 := (labs_short c).1
  have HNMD := Lib.hid (fun (x : ByteArray) W h (hx : x.size ≤ 100) => LN.named x W h hx)
  have hX1 : (labs c).getD 0 ⟨#[110, 111, 110, 101]⟩ = (labs c).getD 0 ⟨#[]⟩ := by
    rw [List.getD_eq_getElem?_getD, List.getD_eq_getElem?_getD, List.getElem?_eq_getElem hpos]; rfl
  rw [hX1] at HNM
  unfold inC at hc
  obtain ⟨c0, c9⟩ := hc
  generalize labs c = Lb at *
  obtain ⟨X, hX⟩ : ∃ X, Lb.getD 0 ⟨#[]⟩ = X := ⟨_, rfl⟩
  rw [hX] at HNM
  have n2 : ¬ (100 : Int) < (s.size : Int) := by omega
  have npos : (0 : Int) < (Lb.length : Int) := by omega
  have hk := nmd_range s
  have hcc : (c ≤ 6 ∧ NA = true) ∨ (6 < c ∧ NA = false) := by
    by_cases h6 : c ≤ 6
    · left; rw [hNA]; exact ⟨h6, decide_eq_true ⟨c0, h6⟩⟩
    · right; rw [hNA]; exact ⟨by omega, decide_eq_false (fun h => h6 h.2)⟩
  clear L LN hK e1 hX1 hNA
  generalize nmd s = k at *
  have hkk : ∃ V G, Hid ((k < 0 ∧ k = -1 ∧ V = 0 ∧ G = false) ∨ (0 ≤ k ∧ V = k ∧ G = true)) ∧ V = (if k < 0 then 0 else k) ∧ G = decide (0 ≤ k) := by
    refine ⟨_, _, Lib.hid ?_, rfl, rfl⟩
    rcases hk with rfl | ⟨h1, h2⟩
    · left; exact ⟨by omega, rfl, rfl, rfl⟩
    · right; exact ⟨h1, if_neg (by omega), decide_eq_true h1⟩
  obtain ⟨V, G, HVG, hV, hG⟩ := hkk
  rw [← hV, ← hG] at HND
  clear hV hG hk
  rcases hcc with ⟨c1, rfl⟩ | ⟨c1, rfl⟩
  all_goals
      go_enter Tryz.func3, Tryz.ntmps3
      go_wp2_with (first
        | (go_at_call 8; refine (HNM.out _ K3.out.k).mono ?_; rintro e4 w4 ⟨rfl, hb4⟩; have K4 := Lib.hid (K3.out.below HL.out hb4); have R1 := Lib.hid (R1.out.below hb4); clear hb4)
        | (go_at_call 7; refine (HLG.out _ K2.out.k).mono ?_; rintro e3 w3 ⟨rfl, hb3⟩; have K3 := Lib.hid (K2.out.below HL.out hb3); have R1 := Lib.hid (R1.out.below hb3); clear hb3)
        | (go_at_call 6; refine (HRT.out _ K1.out.k).mono ?_; rintro e2 w2 ⟨rfl, hb2⟩; have K2 := Lib.hid (K1.out.below HL.out hb2); have R1 := Lib.hid (R1.out.below hb2); clear hb2)
        | (go_at_call 5; refine (HLB.out _).mono ?_; rintro e1 w1 ⟨A, k1, rfl, r1, hb1⟩; have K1 := Lib.hid (K0.out.below HL.out hb1); have R1 := Lib.hid r1; obtain ⟨a0, rfl, a1, a2, a3⟩ := r1.at 0 hpos; have a3 := cell0 a3; rw [hX] at a3; unfold maxLen at a2; clear hb1 r1))
      go_loopw [58] (fun i wr => ∃ j : Nat, j ≤ Lb.length ∧ i = .int .i64 j ∧ Below w4.heap.size w4 wr) (fun i _ => Lb.length - (RowKit.intOf i).toNat)
      case atStart => exact ⟨0, Nat.zero_le _, rfl, Below.refl _ _⟩
      case round =>
        obtain ⟨j, hj, rfl, hB⟩ := hrel
        have K6 := Lib.hid (K4.out.below HL.out hB)
        have HB := Lib.hid hB
        clear hB
        by_cases hlt : j < Lb.length
        · obtain ⟨b, hb, b1, b2, b3⟩ := (R1.out.below HB.out).at j hlt
          cases hb
          unfold maxLen at b2
          have HX1 := Lib.hid (fun W h => HNMD.out (Lb.getD j ⟨#[]⟩) W h (by have := HSH.out j; omega))
          have HX2 := Lib.hid (fun W h => HNMD.out (ups (Lb.getD j ⟨#[]⟩)) W h (by unfold ups; rw [strOfNums_size, upl_len]; have := HSH.out j; omega))
          obtain ⟨t1, t2⟩ := HAT.out j hlt
          have t3 := HSH.out j
          rw [t1, if_neg (by omega), decide_eq_true c0] at HX1
          rw [t2, if_neg (by omega), decide_eq_true c0] at HX2
          generalize Lb.getD j ⟨#[]⟩ = Y at *
          clear t1 t2
          go_wp2_with fail
          go_loopw [10, 64] (fun v i wx => ∃ m : Nat, m ≤ Y.size ∧ i = .int .i64 m ∧ wx.ownsRow wr.heap.size 5 1 v (upl Y m).length (bv (upl Y m)) ∧ Below wr.heap.size wr wx) (fun _ i _ => Y.size - (RowKit.intOf i).toNat)
          case atStart => exact ⟨0, Nat.zero_le _, rfl, ⟨rfl, .inl ⟨rfl, rfl⟩⟩, Below.refl _ _⟩
          case round =>
            obtain ⟨m, hm, rfl, hO, hBx⟩ := hrel
            have HO := Lib.hid hO
            have HBx := Lib.hid hBx
            clear hO hBx
            by_cases hml : m < Y.size
            · have hix := fun wx => index_bt Y m hml wx
              have hU := upl_succ Y m
              have hUl := upl_len Y m
              have l1 := bt_lt Y m
              unfold upb at hU
              by_cases hcp : 97 ≤ bt Y m ∧ bt Y m ≤ 122
              · rw [if_pos hcp, show ((bt Y m - 32 : Nat) : Int) = ((bt Y m : Nat) : Int) - 32 by omega] at hU
                have d1 : (97 : Int) ≤ ((bt Y m : Nat) : Int) := by omega
                have d2 : ((bt Y m : Nat) : Int) ≤ 122 := by omega
                have HU := Lib.hid hU
                generalize ((bt Y m : Nat) : Int) = B at *
                have w1 : IntKind.u8.wrap (B - 97) = B - 97 := by simp [IntKind.wrap, IntKind.bits, IntKind.signed]; omega
                have w2 : IntKind.u8.wrap (B - 97 + 65) = B - 32 := by simp [IntKind.wrap, IntKind.bits, IntKind.signed]; omega
                clear hcp hU
                go_wp2_with (at_builtin; refine append_b rfl _ _ rfl _ _ rfl HO.out HBx.out _ rfl (by omega) ?_; intro v1 w11 hO1 hB1; have HO1 := Lib.hid hO1; have HB1 := Lib.hid hB1; clear hO1 hB1)
                go_roundw
                case rel => exact ⟨m + 1, by omega, by go_num, by rw [HU.out]; exact HO1.out, HB1.out⟩
                case measure => simp [RowKit.intOf]; omega
              · rw [if_neg hcp] at hU
                have hc2 : ((bt Y m : Nat) : Int) < 97 ∨ ((97 : Int) ≤ ((bt Y m : Nat) : Int) ∧ 122 < ((bt Y m : Nat) : Int)) := by omega
                have HU := Lib.hid hU
                generalize ((bt Y m : Nat) : Int) = B at *
                clear hcp hU
                rcases hc2 with d1 | ⟨d1, d2⟩
                all_goals
                  go_wp2_with (at_builtin; refine append_b rfl _ _ rfl _ _ rfl HO.out HBx.out _ rfl (by omega) ?_; intro v1 w11 hO1 hB1; have HO1 := Lib.hid hO1; have HB1 := Lib.hid hB1; clear hO1 hB1)
                  go_roundw
                  case rel => exact ⟨m + 1, by omega, by go_num, by rw [HU.out]; exact HO1.out, HB1.out⟩
                  case measure => simp [RowKit.intOf]; omega
            · obtain rfl : m = Y.size := by omega
              have K7 := Lib.hid (K6.out.below HL.out HBx.out)
              unfold ups at HX2
              go_wp2_with (first
                | (go_at_call 9; (with_reducible refine (HX2.out _ K8.out.k).mono ?_); rintro e9 w9 ⟨rfl, hb9⟩; have B9 := Lib.hid (HB.out.trans ((HBx.out.trans ((B8.out.trans (hb9.mono B8.out.size)).mono HBx.out.size)).mono HB.out.size)); clear hb9)
                | (go_at_call 9; (with_reducible refine (HX1.out _ K7.out.k).mono ?_); rintro e8 w8 ⟨rfl, hb8⟩; have K8 := Lib.hid (K7.out.below HL.out hb8); have hcv := pt.conv_row w8 _ _ (upl Y Y.size) (pt.owns_below HO.out hb8); have B8 := Lib.hid hb8; clear hb8))
              go_roundw
              case rel => exact ⟨j + 1, by omega, by go_num, B9.out⟩
              case measure => simp [RowKit.intOf]; omega
        · obtain rfl : j = Lb.length := by omega
          rcases HVG.out with ⟨k0, rfl, rfl, rfl⟩ | ⟨k0, rfl, rfl⟩
          · go_wp2_with (first
            | (go_at_call 4; refine (HAW.out _ K8.out.k).mono ?_; rintro e9 w9 ⟨rfl, hb9⟩; have K9 := Lib.hid (K8.out.below HL.out hb9); clear hb9)
            | (go_at_call 10; refine (HNR.out _).mono ?_; rintro e8 w8 ⟨rfl, hb8⟩; have K8 := Lib.hid (K7.out.below HL.out hb8); clear hb8)
            | (go_at_call 9; refine (HND.out _ K6.out.k).mono ?_; rintro e7 w7 ⟨rfl, hb7⟩; have K7 := Lib.hid (K6.out.below HL.out hb7); clear hb7))
            go_ret
            exact ⟨rfl, K9.out.b⟩
          · go_wp2_with (first
            | (go_at_call 4; refine (HAW.out _ K8.out.k).mono ?_; rintro e9 w9 ⟨rfl, hb9⟩; have K9 := Lib.hid (K8.out.below HL.out hb9); clear hb9)
            | (go_at_call 10; refine (HNR.out _).mono ?_; rintro e8 w8 ⟨rfl, hb8⟩; have K8 := Lib.hid (K7.out.below HL.out hb8); clear hb8)
            | (go_at_call 9; refine (HND.out _ K6.out.k).mono ?_; rintro e7 w7 ⟨rfl, hb7⟩; have K7 := Lib.hid (K6.out.below HL.out hb7); clear hb7))
            go_ret
            exact ⟨rfl, K9.out.b⟩
theorem names_walk {K : World → Prop} (L : Ch K) (LN : ChN K) (c : Int) (s : ByteArray) (w : World) (hK : K w) (hs : s.size ≤ maxLen) (hc0 : -9223372036854775808 ≤ c) (hc1 : c ≤ 9223372036854775807) : Calls Tryz.prog 3 #[.int .i64 c, .string s] w fun e w' => e = .returned (.bool true) ∧ Below w.heap.size w w' := by
  by_cases h : 100 < s.size
  · exact names_long L c s w hK hs h
  by_cases hc : inC c
  · exact names_some L LN c s w hK (by omega) hc0 hc1 hc
  · exact names_none L LN c s w hK (by omega) hc0 hc1 hc
end Go.Proofs.YthnadkokibcehaaGreatDoor.ch
