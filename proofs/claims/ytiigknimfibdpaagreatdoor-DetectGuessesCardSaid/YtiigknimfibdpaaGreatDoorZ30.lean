/- Several texts in one. -/
import Derived.Test.YtiigknimfibdpaaGreatDoorZ29
import Derived.Maps.AppendAt
import Derived.Laws.AppendOwnNone
namespace Go.Proofs.YtiigknimfibdpaaGreatDoor.ch
open Go.RowKit Go.Lib
set_option linter.unusedVariables false
/-- A slice of ints, none or a row. -/
def RowZ (w : World) (p : Option Addr) (len cap : Nat) (zs : List Int) : Prop :=
  (p = none ∧ len = 0 ∧ cap = 0 ∧ zs = []) ∨ ∃ a, p = some a ∧ len ≤ cap ∧ cap ≤ maxLen ∧ zs.length = len ∧ ∀ i, i < len → w.cell? (a.add i) = some (.int .i64 (zs.getD i 0))
theorem RowZ.len {w : World} {p : Option Addr} {len cap : Nat} {zs : List Int} (h : RowZ w p len cap zs) : zs.length = len := by
  rcases h with ⟨_, h1, _, h2⟩ | ⟨a, _, _, _, h, _⟩
  · rw [h1, h2]; rfl
  · exact h
theorem RowZ.below {w w' : World} {p : Option Addr} {len cap : Nat} {zs : List Int} (h : RowZ w p len cap zs) (hb : Below w.heap.size w w') : RowZ w' p len cap zs := by
  rcases h with h | ⟨a, h1, h2, h3, h4, h5⟩
  · exact .inl h
  · exact .inr ⟨a, h1, h2, h3, h4, fun i hi => (hb.cell (World.block_lt_of_cell? w _ (h5 i hi))).trans (h5 i hi)⟩
theorem RowZ.at {w : World} {p : Option Addr} {len cap : Nat} {zs : List Int} (h : RowZ w p len cap zs) (i : Nat) (hi : i < len) : ∃ a, p = some a ∧ len ≤ cap ∧ cap ≤ maxLen ∧ w.cell? (a.add i) = some (.int .i64 (zs.getD i 0)) := by
  rcases h with ⟨_, h1, _, _⟩ | ⟨a, h1, h2, h3, _, h5⟩
  · omega
  · exact ⟨a, h1, h2, h3, h5 i hi⟩
/-- The cells of some numbers. -/
def nv (l : List Int) : List Value := l.map (Value.int .i64)
theorem nv_snoc (l : List Int) (z : Int) : nv l ++ [.int .i64 z] = nv (l ++ [z]) := by simp [nv]
/-- A row of the call's own. -/
def Rz (w : World) (B : Nat) (v : Value) (l : List Int) : Prop := w.ownsRow B 25 1 v l.length (nv l)
theorem rz_nil (w : World) (B : Nat) : Rz w B (.slice none 0 0) [] := ⟨rfl, .inl ⟨rfl, rfl⟩⟩
theorem Rz.row {w : World} {B : Nat} {v : Value} {L : List Int} (h : Rz w B v L) : ∃ A c, v = .slice A L.length c ∧ RowZ w A L.length c L := by
  obtain ⟨h1, ⟨rfl, h3⟩ | ⟨g, cap, cur, rfl, hb, hg, hn, hm, hs, ht⟩⟩ := h
  · rw [h3]; exact ⟨none, 0, rfl, .inl ⟨rfl, rfl, rfl, by rw [List.length_eq_zero_iff.1 h3]⟩⟩
  · refine ⟨_, cap, rfl, .inr ⟨⟨g, 0, none⟩, rfl, hn, hm, rfl, fun i hi => ?_⟩⟩
    have e : (⟨g, 0, none⟩ : Addr).add i = ⟨g, i, none⟩ := by unfold Addr.add; by_cases h : i = 0 <;> simp [h]
    have hu : (nv L)[i]? = some (.int .i64 (L.getD i 0)) := by simp [nv, List.getElem?_eq_getElem hi, List.getD]
    rw [e]
    rw [← ht, List.getElem?_take, if_pos (by omega), Array.getElem?_toList] at hu
    simp only [World.cell?, hg, Option.isSome_none, Bool.false_eq_true, if_false]
    exact hu
theorem Rz.below {w w' : World} {B : Nat} {v : Value} {l : List Int} (h : Rz w B v l) (hb : Below w.heap.size w w') : Rz w' B v l := pt.owns_below h hb
/-- Two rows of the call's own, apart. -/
structure Two (w0 w : World) (v : Value) (l : List Int) (u : Value) (m : List Int) : Prop where
  a : Rz w w0.heap.size v l
  b : Rz w w0.heap.size u m
  ne : v.ownBlock = none ∨ v.ownBlock ≠ u.ownBlock
  lt : Below w0.heap.size w0 w
theorem two_nil (w : World) : Two w w (.slice none 0 0) [] (.slice none 0 0) [] := ⟨rz_nil _ _, rz_nil _ _, .inl rfl, Below.refl _ _⟩
theorem Two.below {w0 w w' : World} {v u : Value} {l m : List Int} (h : Two w0 w v l u m) (hb : Below w.heap.size w w') : Two w0 w' v l u m := ⟨h.a.below hb, h.b.below hb, h.ne, h.lt.trans (hb.mono h.lt.size)⟩
theorem Two.swap {w0 w : World} {v u : Value} {l m : List Int} (h : Two w0 w v l u m) : Two w0 w u m v l := ⟨h.b, h.a, by
  rcases h.ne with h1 | h1
  · cases hu : u.ownBlock with
    | none => exact .inl rfl
    | some g => right; rw [h1]; simp
  · exact .inr (fun e => h1 e.symm), h.lt⟩
theorem own_lt {w : World} {B : Nat} {v : Value} {l : List Int} (h : Rz w B v l) (g : Nat) (hg : v.ownBlock = some g) : g < w.heap.size := (World.ownsRow.lt h g hg).2
/-- One number more in the first. -/
theorem append_z {ops : Array Oper} {rest : List Oper} {o : Oper} {a : Act} {Q : Exit → Act → World → Prop} {w0 w : World} (hgd : o.guard = none) (s x : Operand)
    (ho : o.op = .call { callee := .builtin .append, args := #[s, x], argTypes := #[29, 29] }) (v u : Value) (l m : List Int) (hs : a.eval s = v) (T : Two w0 w v l u m) (z : Int)
    (hx : a.eval x = .slice (some ⟨w.heap.size, 0, none⟩) 1 1) (hlen : l.length ≤ 1000)
    (h : ∀ v' w', Two w0 w' v' (l ++ [z]) u m → wpList Tryz.prog ops Q rest (a.put o.dst v') w') : wpList Tryz.prog ops Q (o :: rest) a (w.alloc (.cells #[.int .i64 z] 25)) := by
  obtain ⟨i0, hi0, hzz⟩ := Option.map_eq_some_iff.1 (show (Tryz.prog.info? 25).map (fun i => (i.zero, i.size, i.bytes)) = some (some (.int .i64 0), 1, 8) by kernel_rfl)
  simp only [Prod.mk.injEq] at hzz
  obtain ⟨hz, hsi, hby⟩ := hzz
  have hB : w0.heap.size ≤ w.heap.size := T.lt.size
  have hal : Below w.heap.size w (w.alloc (.cells #[.int .i64 z] 25)) := (Below.refl _ _).alloc (Nat.le_refl _) _
  have T1 := T.below hal
  refine wpList_append_own_at _ hgd s x 29 ho w0.heap.size 25 i0 _ 1 8 Tryz.underlying29 hi0 hz hsi hby rfl (by decide) v _ _ hs T1.a ⟨w.heap.size, 0, none⟩ 1 1 [.int .i64 z] hx rfl ?_ ?_ (by unfold maxLen; omega) (by omega) (by simp; omega) ?_
  · intro j u hj
    match j, hj with
    | 0, hj =>
      simp at hj
      subst hj
      have e : (⟨w.heap.size, 0, none⟩ : Addr).add 0 = ⟨w.heap.size, 0, none⟩ := by simp [Addr.add]
      rw [e, World.cell?_alloc_mark]; rfl
    | (j + 1), hj => simp at hj
  · intro u hu; simp at hu; subst hu; rfl
  · intro v' w' h1 h2 _ h4
    have hne : u.ownBlock = none ∨ u.ownBlock ≠ v.ownBlock := T.swap.ne
    refine h v' w' ⟨?_, T1.b.kept h2 hne, ?_, pt.below_grown T.lt hB T.a h2⟩
    · unfold Rz
      rw [← nv_snoc, List.length_append]
      exact h1
    · rcases h4 with h4 | h4
      · rw [h4]; exact T.ne
      · right
        rw [h4]
        intro e
        have := own_lt T.b _ e.symm
        simp at this; omega
end Go.Proofs.YtiigknimfibdpaaGreatDoor.ch
namespace Go.Proofs.YtiigknimfibdpaaGreatDoor.ch
open Go.RowKit Go.Lib
set_option linter.unusedVariables false
/-- The names of a charset. -/
def labs (c : Int) : List ByteArray :=
  if c = 0 then [⟨#[108, 97, 116, 105, 110, 49]⟩, ⟨#[105, 115, 111, 45, 56, 56, 53, 57, 45, 49]⟩, ⟨#[108, 97, 116, 105, 110, 45, 49]⟩] else
  if c = 1 then [⟨#[107, 111, 105, 56, 45, 114]⟩, ⟨#[107, 111, 105, 56, 114]⟩] else
  if c = 2 then [⟨#[107, 111, 105, 56, 45, 117]⟩, ⟨#[107, 111, 105, 56, 117]⟩] else
  if c = 3 then [⟨#[99, 112, 56, 54, 54]⟩, ⟨#[105, 98, 109, 56, 54, 54]⟩] else
  if c = 4 then [⟨#[99, 112, 57, 52, 57]⟩, ⟨#[101, 117, 99, 45, 107, 114]⟩, ⟨#[117, 104, 99]⟩] else
  if c = 5 then [⟨#[106, 111, 104, 97, 98]⟩, ⟨#[99, 112, 49, 51, 54, 49]⟩] else
  if c = 6 then [⟨#[98, 105, 103, 53, 45, 104, 107, 115, 99, 115]⟩, ⟨#[98, 105, 103, 53]⟩] else
  if c = 7 then [⟨#[117, 116, 102, 45, 56]⟩, ⟨#[117, 116, 102, 56]⟩] else
  if c = 8 then [⟨#[117, 116, 102, 45, 49, 54, 108, 101]⟩, ⟨#[117, 116, 102, 49, 54, 108, 101]⟩] else
  if c = 9 then [⟨#[117, 116, 102, 45, 49, 54, 98, 101]⟩, ⟨#[117, 116, 102, 49, 54, 98, 101]⟩] else
  []
/-- A capital as a small letter. -/
def lowb (n : Nat) : Nat := if 65 ≤ n ∧ n ≤ 90 then n + 32 else n
/-- One label, capitals taken as small letters. -/
def sameB (a b : ByteArray) : Bool := a.size == b.size && (List.range a.size).all fun i => lowb (bt a i) == bt b i
theorem sameB_true {a b : ByteArray} (h : a.size = b.size) (hi : ∀ i, i < a.size → lowb (bt a i) = bt b i) : sameB a b = true := by
  unfold sameB
  rw [Bool.and_eq_true, List.all_eq_true]
  exact ⟨by simp [h], fun i hm => by rw [hi i (List.mem_range.1 hm)]; simp⟩
theorem sameB_size {a b : ByteArray} (h : ¬ a.size = b.size) : sameB a b = false := by
  unfold sameB
  simp [h]
theorem sameB_at {a b : ByteArray} (i : Nat) (hi : i < a.size) (h : ¬ lowb (bt a i) = bt b i) : sameB a b = false := by
  rw [Bool.eq_false_iff]
  intro hs
  unfold sameB at hs
  rw [Bool.and_eq_true, List.all_eq_true] at hs
  have := hs.2 i (List.mem_range.2 hi)
  exact h (by simpa using this)
/-- The charset of a label, from one on. -/
def nm (s : ByteArray) : Nat → Nat → Int
  | 0, _ => -1
  | f + 1, c => if (labs c).any (sameB s) = true then (c : Int) else nm s f (c + 1)
/-- The charset of a label; -1: none. -/
def nmd (s : ByteArray) : Int := nm s 10 0
/-- A slice of strings, none or a row. -/
def RowT (w : World) (p : Option Addr) (len cap : Nat) (zs : List ByteArray) : Prop :=
  (p = none ∧ len = 0 ∧ cap = 0 ∧ zs = []) ∨ ∃ a, p = some a ∧ len ≤ cap ∧ cap ≤ maxLen ∧ zs.length = len ∧ ∀ i, i < len → w.cell? (a.add i) = some (.string (zs.getD i ⟨#[]⟩))
theorem RowT.below {w w' : World} {p : Option Addr} {len cap : Nat} {zs : List ByteArray} (h : RowT w p len cap zs) (hb : Below w.heap.size w w') : RowT w' p len cap zs := by
  rcases h with h | ⟨a, h1, h2, h3, h4, h5⟩
  · exact .inl h
  · exact .inr ⟨a, h1, h2, h3, h4, fun i hi => (hb.cell (World.block_lt_of_cell? w _ (h5 i hi))).trans (h5 i hi)⟩
theorem RowT.at {w : World} {p : Option Addr} {len cap : Nat} {zs : List ByteArray} (h : RowT w p len cap zs) (i : Nat) (hi : i < len) : ∃ a, p = some a ∧ len ≤ cap ∧ cap ≤ maxLen ∧ w.cell? (a.add i) = some (.string (zs.getD i ⟨#[]⟩)) := by
  rcases h with ⟨_, h1, _, _⟩ | ⟨a, h1, h2, h3, _, h5⟩
  · omega
  · exact ⟨a, h1, h2, h3, h5 i hi⟩
theorem rowT_new (w : World) (L : List ByteArray) (t : TypeId) (hl : L.length ≤ 100 := by decide) : RowT (w.alloc (.cells (L.map Value.string).toArray t)) (some ⟨w.heap.size, 0, none⟩) L.length L.length L := by
  refine .inr ⟨_, rfl, Nat.le_refl _, by unfold maxLen; omega, rfl, fun i hi => ?_⟩
  have e : (⟨w.heap.size, 0, none⟩ : Addr).add i = ⟨w.heap.size, i, none⟩ := by unfold Addr.add; by_cases h : i = 0 <;> simp [h]
  rw [e, World.cell?_alloc_mark]
  simp [List.getElem?_eq_getElem hi, List.getD]
set_option maxRecDepth 100000 in
set_option maxHeartbeats 4000000 in
theorem Labels_any (c : Int) (w : World) : Calls Tryz.prog 52 #[.int .i64 c] w fun e w' => ∃ A k, e = .returned (.slice A (labs c).length k) ∧ RowT w' A (labs c).length k (labs c) ∧ Below w.heap.size w w' := by
  by_cases h0 : c = 0
  · subst h0
    go_enter Tryz.func52, Tryz.ntmps52
    go_wp2_with fail
    go_ret
    exact ⟨_, _, rfl, rowT_new w [⟨#[108, 97, 116, 105, 110, 49]⟩, ⟨#[105, 115, 111, 45, 56, 56, 53, 57, 45, 49]⟩, ⟨#[108, 97, 116, 105, 110, 45, 49]⟩] _, (Below.refl _ _).alloc (Nat.le_refl _) _⟩
  by_cases h1 : c = 1
  · subst h1
    go_enter Tryz.func52, Tryz.ntmps52
    go_wp2_with fail
    go_ret
    exact ⟨_, _, rfl, rowT_new w [⟨#[107, 111, 105, 56, 45, 114]⟩, ⟨#[107, 111, 105, 56, 114]⟩] _, (Below.refl _ _).alloc (Nat.le_refl _) _⟩
  by_cases h2 : c = 2
  · subst h2
    go_enter Tryz.func52, Tryz.ntmps52
    go_wp2_with fail
    go_ret
    exact ⟨_, _, rfl, rowT_new w [⟨#[107, 111, 105, 56, 45, 117]⟩, ⟨#[107, 111, 105, 56, 117]⟩] _, (Below.refl _ _).alloc (Nat.le_refl _) _⟩
  by_cases h3 : c = 3
  · subst h3
    go_enter Tryz.func52, Tryz.ntmps52
    go_wp2_with fail
    go_ret
    exact ⟨_, _, rfl, rowT_new w [⟨#[99, 112, 56, 54, 54]⟩, ⟨#[105, 98, 109, 56, 54, 54]⟩] _, (Below.refl _ _).alloc (Nat.le_refl _) _⟩
  by_cases h4 : c = 4
  · subst h4
    go_enter Tryz.func52, Tryz.ntmps52
    go_wp2_with fail
    go_ret
    exact ⟨_, _, rfl, rowT_new w [⟨#[99, 112, 57, 52, 57]⟩, ⟨#[101, 117, 99, 45, 107, 114]⟩, ⟨#[117, 104, 99]⟩] _, (Below.refl _ _).alloc (Nat.le_refl _) _⟩
  by_cases h5 : c = 5
  · subst h5
    go_enter Tryz.func52, Tryz.ntmps52
    go_wp2_with fail
    go_ret
    exact ⟨_, _, rfl, rowT_new w [⟨#[106, 111, 104, 97, 98]⟩, ⟨#[99, 112, 49, 51, 54, 49]⟩] _, (Below.refl _ _).alloc (Nat.le_refl _) _⟩
  by_cases h6 : c = 6
  · subst h6
    go_enter Tryz.func52, Tryz.ntmps52
    go_wp2_with fail
    go_ret
    exact ⟨_, _, rfl, rowT_new w [⟨#[98, 105, 103, 53, 45, 104, 107, 115, 99, 115]⟩, ⟨#[98, 105, 103, 53]⟩] _, (Below.refl _ _).alloc (Nat.le_refl _) _⟩
  by_cases h7 : c = 7
  · subst h7
    go_enter Tryz.func52, Tryz.ntmps52
    go_wp2_with fail
    go_ret
    exact ⟨_, _, rfl, rowT_new w [⟨#[117, 116, 102, 45, 56]⟩, ⟨#[117, 116, 102, 56]⟩] _, (Below.refl _ _).alloc (Nat.le_refl _) _⟩
  by_cases h8 : c = 8
  · subst h8
    go_enter Tryz.func52, Tryz.ntmps52
    go_wp2_with fail
    go_ret
    exact ⟨_, _, rfl, rowT_new w [⟨#[117, 116, 102, 45, 49, 54, 108, 101]⟩, ⟨#[117, 116, 102, 49, 54, 108, 101]⟩] _, (Below.refl _ _).alloc (Nat.le_refl _) _⟩
  by_cases h9 : c = 9
  · subst h9
    go_enter Tryz.func52, Tryz.ntmps52
    go_wp2_with fail
    go_ret
    exact ⟨_, _, rfl, rowT_new w [⟨#[117, 116, 102, 45, 49, 54, 98, 101]⟩, ⟨#[117, 116, 102, 49, 54, 98, 101]⟩] _, (Below.refl _ _).alloc (Nat.le_refl _) _⟩
  · have e : labs c = [] := by unfold labs; rw [if_neg h0, if_neg h1, if_neg h2, if_neg h3, if_neg h4, if_neg h5, if_neg h6, if_neg h7, if_neg h8, if_neg h9]
    rw [e]
    go_enter Tryz.func52, Tryz.ntmps52
    go_wp2_with fail
    go_ret
    exact ⟨none, 0, rfl, .inl ⟨rfl, rfl, rfl, rfl⟩, Below.refl _ _⟩
end Go.Proofs.YtiigknimfibdpaaGreatDoor.ch
namespace Go.Proofs.YtiigknimfibdpaaGreatDoor.ch
open Go.RowKit Go.Lib
set_option linter.unusedVariables false
set_option maxRecDepth 100000 in
set_option maxHeartbeats 4000000 in
theorem same_any (a b : ByteArray) (w : World) (ha : a.size ≤ 100000) (hb : b.size ≤ 100000) : Calls Tryz.prog 53 #[.string a, .string b] w fun e w' => e = .returned (.bool (sameB a b)) ∧ Below w.heap.size w w' := by
  obtain ⟨PP, hPP⟩ : ∃ PP : Ending → World → Prop, PP = fun e w' => e = .returned (.bool (sameB a b)) ∧ Below w.heap.size w w' := ⟨_, rfl⟩
  rw [← hPP]
  have HP : Hid (∀ v W', sameB a b = v → Below w.heap.size w W' → PP (.returned (.bool v)) W') := Lib.hid (fun v W' h h2 => by rw [hPP]; exact ⟨by rw [h], h2⟩)
  clear hPP
  by_cases hs : a.size = b.size
  · have q0 : ((a.size : Int) = (b.size : Int)) := by omega
    go_enter Tryz.func53, Tryz.ntmps53
    go_wp2_with fail
    go_loopw [5] (fun i wr => ∃ j : Nat, j ≤ a.size ∧ i = .int .i64 j ∧ Hid (∀ k, k < j → lowb (bt a k) = bt b k) ∧ Below w.heap.size w wr) (fun i _ => a.size - (RowKit.intOf i).toNat)
    case atStart => exact ⟨0, Nat.zero_le _, rfl, Lib.hid (fun k hk => absurd hk (Nat.not_lt_zero _)), Below.refl _ _⟩
    case round =>
      obtain ⟨j, hj, rfl, HI, hB⟩ := hrel
      have HB := Lib.hid hB
      clear hB
      by_cases hlt : j < a.size
      · have hix := fun wx => index_bt a j hlt wx
        have hix2 := fun wx => index_bt b j (by omega) wx
        by_cases he : lowb (bt a j) = bt b j
        · have HN : Hid (∀ k, k < j + 1 → lowb (bt a k) = bt b k) := Lib.hid (fun k hk => by
            by_cases h : k = j
            · rw [h]; exact he
            · exact HI.out k (by omega))
          unfold lowb at he
          have l1 := bt_lt a j
          by_cases hc : 65 ≤ bt a j ∧ bt a j ≤ 90
          · rw [if_pos hc] at he
            have c1 : (65 : Int) ≤ ((bt a j : Nat) : Int) := by omega
            have c2 : ((bt a j : Nat) : Int) ≤ 90 := by omega
            have he2 : ((bt b j : Nat) : Int) = ((bt a j : Nat) : Int) + 32 := by omega
            rw [he2] at hix2
            generalize ((bt a j : Nat) : Int) = B at *
            have w1 : IntKind.u8.wrap (B - 65) = B - 65 := by simp [IntKind.wrap, IntKind.bits, IntKind.signed]; omega
            have w2 : IntKind.u8.wrap (B - 65 + 97) = B + 32 := by simp [IntKind.wrap, IntKind.bits, IntKind.signed]; omega
            clear he hc he2
            go_wp2_with fail
            go_roundw
            case rel => exact ⟨j + 1, by omega, by go_num, HN, HB.out⟩
            case measure => simp [RowKit.intOf]; omega
          · rw [if_neg hc] at he
            have he2 : ((bt b j : Nat) : Int) = ((bt a j : Nat) : Int) := by omega
            rw [he2] at hix2
            have hc2 : ((bt a j : Nat) : Int) < 65 ∨ ((65 : Int) ≤ ((bt a j : Nat) : Int) ∧ 90 < ((bt a j : Nat) : Int)) := by omega
            generalize ((bt a j : Nat) : Int) = B at *
            clear he hc he2
            rcases hc2 with c1 | ⟨c1, c2⟩
            all_goals
              go_wp2_with fail
              go_roundw
              case rel => exact ⟨j + 1, by omega, by go_num, HN, HB.out⟩
              case measure => simp [RowKit.intOf]; omega
        · have HF := Lib.hid (sameB_at j hlt he)
          unfold lowb at he
          have l1 := bt_lt a j
          by_cases hc : 65 ≤ bt a j ∧ bt a j ≤ 90
          · rw [if_pos hc] at he
            have c1 : (65 : Int) ≤ ((bt a j : Nat) : Int) := by omega
            have c2 : ((bt a j : Nat) : Int) ≤ 90 := by omega
            have he2 : ¬ ((bt a j : Nat) : Int) + 32 = ((bt b j : Nat) : Int) := by omega
            generalize ((bt a j : Nat) : Int) = B at *
            generalize ((bt b j : Nat) : Int) = D at *
            have w1 : IntKind.u8.wrap (B - 65) = B - 65 := by simp [IntKind.wrap, IntKind.bits, IntKind.signed]; omega
            have w2 : IntKind.u8.wrap (B - 65 + 97) = B + 32 := by simp [IntKind.wrap, IntKind.bits, IntKind.signed]; omega
            clear he hc
            go_wp2_with fail
            exact HP.out _ _ HF.out HB.out
          · rw [if_neg hc] at he
            have he2 : ¬ ((bt a j : Nat) : Int) = ((bt b j : Nat) : Int) := by omega
            have hc2 : ((bt a j : Nat) : Int) < 65 ∨ ((65 : Int) ≤ ((bt a j : Nat) : Int) ∧ 90 < ((bt a j : Nat) : Int)) := by omega
            generalize ((bt a j : Nat) : Int) = B at *
            generalize ((bt b j : Nat) : Int) = D at *
            clear he hc
            rcases hc2 with c1 | ⟨c1, c2⟩
            all_goals
              go_wp2_with fail
              exact HP.out _ _ HF.out HB.out
      · obtain rfl : j = a.size := by omega
        have HF := Lib.hid (sameB_true hs HI.out)
        go_wp2_with fail
        exact HP.out _ _ HF.out HB.out
  · have HF := Lib.hid (sameB_size hs)
    have q0 : ¬ ((a.size : Int) = (b.size : Int)) := by omega
    clear hs
    go_enter Tryz.func53, Tryz.ntmps53
    go_wp2_with fail
    exact HP.out _ _ HF.out (Below.refl _ _)
end Go.Proofs.YtiigknimfibdpaaGreatDoor.ch
namespace Go.Proofs.YtiigknimfibdpaaGreatDoor.ch
open Go.RowKit Go.Lib
set_option linter.unusedVariables false
theorem any_none (s : ByteArray) (L : List ByteArray) (h : ∀ k, k < L.length → sameB s (L.getD k ⟨#[]⟩) = false) : ¬ L.any (sameB s) = true := by
  intro ha
  obtain ⟨x, hx, hs⟩ := List.any_eq_true.1 ha
  obtain ⟨k, hk, e⟩ := List.mem_iff_getElem.1 hx
  have := h k hk
  rw [List.getD_eq_getElem?_getD, List.getElem?_eq_getElem hk] at this
  simp only [Option.getD_some, e] at this
  rw [hs] at this
  cases this
theorem any_some (s : ByteArray) (L : List ByteArray) (k : Nat) (hk : k < L.length) (h : sameB s (L.getD k ⟨#[]⟩) = true) : L.any (sameB s) = true := by
  rw [List.any_eq_true]
  refine ⟨L[k], List.getElem_mem hk, ?_⟩
  rw [List.getD_eq_getElem?_getD, List.getElem?_eq_getElem hk] at h
  simpa using h
theorem labs_short (c : Int) : (labs c).length ≤ 3 ∧ ∀ s ∈ labs c, s.size ≤ 20 := by
  by_cases h0 : c = 0
  · subst h0; decide
  by_cases h1 : c = 1
  · subst h1; decide
  by_cases h2 : c = 2
  · subst h2; decide
  by_cases h3 : c = 3
  · subst h3; decide
  by_cases h4 : c = 4
  · subst h4; decide
  by_cases h5 : c = 5
  · subst h5; decide
  by_cases h6 : c = 6
  · subst h6; decide
  by_cases h7 : c = 7
  · subst h7; decide
  by_cases h8 : c = 8
  · subst h8; decide
  by_cases h9 : c = 9
  · subst h9; decide
  have e : labs c = [] := by unfold labs; rw [if_neg h0, if_neg h1, if_neg h2, if_neg h3, if_neg h4, if_neg h5, if_neg h6, if_neg h7, if_neg h8, if_neg h9]
  rw [e]
  decide
theorem getD_short (c : Int) (k : Nat) : ((labs c).getD k ⟨#[]⟩).size ≤ 20 := by
  by_cases hk : k < (labs c).length
  · rw [List.getD_eq_getElem?_getD, List.getElem?_eq_getElem hk]
    exact (labs_short c).2 _ (List.getElem_mem hk)
  · rw [List.getD_eq_getElem?_getD, List.getElem?_eq_none (by omega)]
    decide
set_option maxRecDepth 100000 in
set_option maxHeartbeats 4000000 in
theorem Named_any (s : ByteArray) (w : World) (hs : s.size ≤ 4000) : Calls Tryz.prog 33 #[.string s] w fun e w' => e = .returned (.int .i64 (nmd s)) ∧ Below w.heap.size w w' := by
  obtain ⟨R, hR⟩ : ∃ R, R = nmd s := ⟨_, rfl⟩
  rw [← hR]
  obtain ⟨PP, hPP⟩ : ∃ PP : Ending → World → Prop, PP = fun e w' => e = .returned (.int .i64 R) ∧ Below w.heap.size w w' := ⟨_, rfl⟩
  rw [← hPP]
  have HP : Hid (∀ v W', R = v → Below w.heap.size w W' → PP (.returned (.int .i64 v)) W') := Lib.hid (fun v W' h h2 => by rw [hPP]; exact ⟨by rw [h], h2⟩)
  have HR : Hid (nm s 10 0 = R) := Lib.hid hR.symm
  have HLB := Lib.hid (fun c W => Labels_any c W)
  clear hPP hR
  go_enter Tryz.func33, Tryz.ntmps33
  go_wp2_with fail
  go_loopw [3] (fun i wr => ∃ c f : Nat, c + f = 10 ∧ i = .int .i64 c ∧ Hid (nm s f c = R) ∧ Below w.heap.size w wr) (fun i _ => 10 - (RowKit.intOf i).toNat)
  case atStart => exact ⟨0, 10, rfl, rfl, HR, Below.refl _ _⟩
  case round =>
    obtain ⟨c, f, hf, rfl, HN, hB⟩ := hrel
    have HB := Lib.hid hB
    clear hB
    by_cases hc : c < 10
    · obtain ⟨f1, rfl⟩ : ∃ f1, f = f1 + 1 := ⟨f - 1, by omega⟩
      have HL1 := Lib.hid (HLB.out (c : Int))
      have HS1 := Lib.hid (fun k W => same_any s ((labs (c : Int)).getD k ⟨#[]⟩) W (by omega) (by have := getD_short (c : Int) k; omega))
      have HNo : Hid ((∀ k, k < (labs (c : Int)).length → sameB s ((labs (c : Int)).getD k ⟨#[]⟩) = false) → nm s f1 (c + 1) = R) := Lib.hid (fun h => by
        have := HN.out
        unfold nm at this
        rwa [if_neg (any_none s _ h)] at this)
      have HYes : Hid (∀ k, k < (labs (c : Int)).length → sameB s ((labs (c : Int)).getD k ⟨#[]⟩) = true → R = (c : Int)) := Lib.hid (fun k hk h => by
        have := HN.out
        unfold nm at this
        rw [if_pos (any_some s _ k hk h)] at this
        exact this.symm)
      have hl3 := (labs_short (c : Int)).1
      generalize labs (c : Int) = L at *
      clear HN
      go_wp2_with (go_at_call 52; refine (HL1.out _).mono ?_; rintro e1 w1 ⟨A, k1, rfl, r1, hb1⟩; have R1 := Lib.hid r1; have B1 := Lib.hid (HB.out.trans (hb1.mono HB.out.size)); clear r1 hb1)
      go_loopw [5] (fun i wr => ∃ j : Nat, j ≤ L.length ∧ i = .int .i64 j ∧ Hid (∀ k, k < j → sameB s (L.getD k ⟨#[]⟩) = false) ∧ Below w1.heap.size w1 wr) (fun i _ => L.length - (RowKit.intOf i).toNat)
      case atStart => exact ⟨0, Nat.zero_le _, rfl, Lib.hid (fun k hk => absurd hk (Nat.not_lt_zero _)), Below.refl _ _⟩
      case round =>
        obtain ⟨j, hj, rfl, HI, hB2⟩ := hrel
        have HB2 := Lib.hid hB2
        clear hB2
        by_cases hlt : j < L.length
        · obtain ⟨a, rfl, a1, a2, a3⟩ := (R1.out.below HB2.out).at j hlt
          unfold maxLen at a2
          have HSj := Lib.hid (HS1.out j)
          have HYj := Lib.hid (HYes.out j hlt)
          have HIj : Hid (sameB s (L.getD j ⟨#[]⟩) = false → ∀ k, k < j + 1 → sameB s (L.getD k ⟨#[]⟩) = false) := Lib.hid (fun h k hk => by
            by_cases e : k = j
            · rw [e]; exact h
            · exact HI.out k (by omega))
          cases hv : sameB s (L.getD j ⟨#[]⟩) with
          | true =>
            rw [hv] at HSj HYj
            have HY2 := Lib.hid (HYj.out rfl)
            clear HYj
            generalize L.getD j ⟨#[]⟩ = X at *
            clear hv HIj
            go_wp2_with (go_at_call 53; refine (HSj.out _).mono ?_; rintro e3 w3 ⟨rfl, hb3⟩; have B3 := Lib.hid (B1.out.trans ((HB2.out.trans (hb3.mono HB2.out.size)).mono B1.out.size)); clear hb3)
            exact HP.out _ _ HY2.out B3.out
          | false =>
            rw [hv] at HSj HIj
            have HJ := Lib.hid (HIj.out rfl)
            clear HIj HYj
            generalize L.getD j ⟨#[]⟩ = X at hv HSj a3
            clear hv
            go_wp2_with (go_at_call 53; refine (HSj.out _).mono ?_; rintro e3 w3 ⟨rfl, hb3⟩; have B3 := Lib.hid (HB2.out.trans (hb3.mono HB2.out.size)); clear hb3)
            go_roundw
            case rel => exact ⟨j + 1, by omega, by go_num, HJ, B3.out⟩
            case measure => simp [RowKit.intOf]; omega
        · obtain rfl : j = L.length := by omega
          have HN2 := Lib.hid (HNo.out HI.out)
          go_wp2_with fail
          go_roundw
          case rel => exact ⟨c + 1, f1, by omega, by go_num, HN2, B1.out.trans (HB2.out.mono B1.out.size)⟩
          case measure => simp [RowKit.intOf]; omega
    · obtain rfl : f = 0 := by omega
      have HV : Hid (R = -1) := Lib.hid (by have := HN.out; unfold nm at this; exact this.symm)
      go_wp2_with fail
      exact HP.out _ _ HV.out HB.out
end Go.Proofs.YtiigknimfibdpaaGreatDoor.ch
namespace Go.Proofs.YtiigknimfibdpaaGreatDoor.ch
open Go.RowKit Go.Lib
set_option linter.unusedVariables false
def bv (l : List Int) : List Value := l.map (Value.int .u8)
end Go.Proofs.YtiigknimfibdpaaGreatDoor.ch
namespace Go.Proofs.YtiigknimfibdpaaGreatDoor.de
open Go.RowKit Go.Lib
set_option linter.unusedVariables false
open Go.Proofs.YtiigknimfibdpaaGreatDoor.ch
/-- The greatest score. -/
def most (s : ByteArray) (zs : List Int) : Int := zs.foldl (fun m c => if scO c s = true ∧ m < scV c s then scV c s else m) 0
/-- The likeliest. -/
def gz (s : ByteArray) (zs : List Int) : Option Int := if most s zs = 0 then none else zs.find? fun c => scO c s && (scV c s == most s zs)
def ordL : List Int := [4, 6, 5, 1, 2, 3, 0]
/-- What all walks ask of the landed functions. -/
structure De (K : World → Prop) : Prop where
  stay : ∀ w w', K w → Below w.heap.size w w' → K w'
  a9 : ∀ w, K w → Calls Tryz.prog 37 #[] w fun e w' => e = .returned (.bool true) ∧ Below w.heap.size w w'
  score : ∀ (c : Int) (s : ByteArray) w, K w → -9223372036854775808 ≤ c → c ≤ 9223372036854775807 → s.size ≤ 900 → Calls Tryz.prog 10 #[.int .i64 c, .string s] w fun e w' => e = .returned (.tuple #[.int .i64 (scV c s), .bool (scO c s)]) ∧ Below w.heap.size w w'
  order : ∀ w, K w → Calls Tryz.prog 14 #[] w fun e w' => ∃ A k, e = .returned (.slice A 7 k) ∧ RowZ w' A 7 k ordL ∧ Below w.heap.size w w'
  guess : ∀ (s : ByteArray) (zs : List Int) (A : Option Addr) (n k : Nat) w, K w → s.size ≤ 900 → n ≤ 30 → RowZ w A n k zs → (∀ z ∈ zs, -9223372036854775808 ≤ z ∧ z ≤ 9223372036854775807) → Calls Tryz.prog 12 #[.string s, .slice A n k] w fun e w' => e = .returned (.tuple #[.int .i64 ((gz s zs).getD 0), .bool (gz s zs).isSome]) ∧ Below w.heap.size w w'
theorem ex_score : scV 1 ⟨#[193, 194]⟩ = 8 ∧ scO 1 ⟨#[193, 194]⟩ = true := by
  have h : scZ 1 ⟨#[193, 194]⟩ = some 8 := by decide +kernel
  unfold scV scO
  rw [h]
  exact ⟨rfl, rfl⟩
theorem ex_guess : gz ⟨#[176, 161]⟩ ordL = some 4 := by decide +kernel
set_option maxRecDepth 100000 in
set_option maxHeartbeats 4000000 in
theorem Awake_any {K : World → Prop} (L : De K) (w : World) (hK : K w) : Calls Tryz.prog 21 #[] w fun e w' => e = .returned (.bool true) ∧ Below w.heap.size w w' := by
  have HS : Hid (∀ W, K W → Calls Tryz.prog 10 #[.int .i64 1, .string ⟨#[193, 194]⟩] W fun e w' => e = .returned (.tuple #[.int .i64 8, .bool true]) ∧ Below W.heap.size W w') := Lib.hid (fun W h => by
    have := L.score 1 ⟨#[193, 194]⟩ W h (by omega) (by omega) (by decide)
    rw [ex_score.1, ex_score.2] at this
    exact this)
  have HG : Hid (∀ (A : Option Addr) (k : Nat) W, K W → RowZ W A 7 k ordL → Calls Tryz.prog 12 #[.string ⟨#[176, 161]⟩, .slice A 7 k] W fun e w' => e = .returned (.tuple #[.int .i64 4, .bool true]) ∧ Below W.heap.size W w') := Lib.hid (fun A k W h hr => by
    have := L.guess ⟨#[176, 161]⟩ ordL A 7 k W h (by decide) (by omega) hr (by decide)
    rw [ex_guess] at this
    exact this)
  have HL := Lib.hid L.stay; have H9 := Lib.hid L.a9; have HO := Lib.hid L.order
  have K0 : Hid (Kb K w w) := Lib.hid ⟨hK, Below.refl _ _⟩
  clear L hK
  go_enter Tryz.func21, Tryz.ntmps21
  go_wp2_with (first
    | (go_at_call 37; refine (H9.out _ K3.out.k).mono ?_; rintro e4 w4 ⟨rfl, hb4⟩; have K4 := Lib.hid (K3.out.below HL.out hb4); clear hb4)
    | (go_at_call 12; refine (HG.out _ _ _ K2.out.k R2.out).mono ?_; rintro e3 w3 ⟨rfl, hb3⟩; have K3 := Lib.hid (K2.out.below HL.out hb3); clear hb3)
    | (go_at_call 14; refine (HO.out _ K1.out.k).mono ?_; rintro e2 w2 ⟨A, k, rfl, r2, hb2⟩; have K2 := Lib.hid (K1.out.below HL.out hb2); have R2 := Lib.hid r2; clear hb2 r2)
    | (go_at_call 10; refine (HS.out _ K0.out.k).mono ?_; rintro e1 w1 ⟨rfl, hb1⟩; have K1 := Lib.hid (K0.out.below HL.out hb1); clear hb1))
  go_ret
  exact ⟨rfl, K4.out.b⟩
theorem awake_any {K : World → Prop} (L : De K) (w : World) (hK : K w) : Calls Tryz.prog 9 #[] w fun e w' => e = .returned (.bool true) ∧ Below w.heap.size w w' := by
  have HA := Lib.hid (Awake_any L w hK)
  clear L hK
  go_enter Tryz.func9, Tryz.ntmps9
  go_wp2_with (go_at_call 21; refine (HA.out).mono ?_; rintro e2 w2 ⟨rfl, hb2⟩)
  go_ret
  exact ⟨rfl, hb2⟩
set_option maxRecDepth 100000 in
set_option maxHeartbeats 4000000 in
theorem scores_walk {K : World → Prop} (L : De K) (c : Int) (s : ByteArray) (w : World) (hK : K w) (hs : s.size ≤ maxLen) (hc0 : -9223372036854775808 ≤ c) (hc1 : c ≤ 9223372036854775807) : Calls Tryz.prog 3 #[.int .i64 c, .string s] w fun e w' => e = .returned (.bool true) ∧ Below w.heap.size w w' := by
  have HAW := Lib.hid (fun w2 h2 => awake_any L w2 h2)
  have HL := Lib.hid L.stay
  have K0 : Hid (Kb K w w) := Lib.hid ⟨hK, Below.refl _ _⟩
  unfold maxLen at hs
  by_cases h : 150 < s.size
  · have h1 : (150 : Int) < s.size := by omega
    clear L hK h
    go_enter Tryz.func3, Tryz.ntmps3
    go_wp2_with (go_at_call 9; refine (HAW.out _ K0.out.k).mono ?_; rintro e2 w2 ⟨rfl, hb2⟩)
    go_ret
    exact ⟨rfl, hb2⟩
  · have h1 : ¬ (150 : Int) < s.size := by omega
    have HS := Lib.hid (fun W h => L.score c s W h hc0 hc1 (by omega))
    have HR := Lib.hid (fun W => Score_any c s W (by omega))
    unfold ScP at HR
    clear L hK h
    generalize scV c s = V at *
    generalize scO c s = O at *
    go_enter Tryz.func3, Tryz.ntmps3
    go_wp2_with (first
      | (go_at_call 9; refine (HAW.out _ K2.out.k).mono ?_; rintro e3 w3 ⟨rfl, hb3⟩; have K3 := Lib.hid (K2.out.below HL.out hb3); clear hb3)
      | (go_at_call 11; refine (HR.out _).mono ?_; rintro e2 w2 ⟨rfl, hb2⟩; have K2 := Lib.hid (K1.out.below HL.out hb2); clear hb2)
      | (go_at_call 10; refine (HS.out _ K0.out.k).mono ?_; rintro e1 w1 ⟨rfl, hb1⟩; have K1 := Lib.hid (K0.out.below HL.out hb1); clear hb1))
    go_ret
    exact ⟨by simp, K3.out.b⟩
end Go.Proofs.YtiigknimfibdpaaGreatDoor.de
namespace Go.Proofs.YtiigknimfibdpaaGreatDoor.de
open Go.RowKit Go.Lib
open Go.Proofs.YtiigknimfibdpaaGreatDoor.ch
set_option linter.unusedVariables false
theorem getD_take (zs : List Int) (j : Nat) (h : j < zs.length) : zs.take (j + 1) = zs.take j ++ [zs.getD j 0] ∧ zs.drop j = zs.getD j 0 :: zs.drop (j + 1) := by
  constructor
  · rw [List.take_add_one, List.getElem?_eq_getElem h]; simp [List.getD, List.getElem?_eq_getElem h]
  · rw [List.drop_eq_getElem_cons h]; simp [List.getD, List.getElem?_eq_getElem h]
theorem most_take (s : ByteArray) (zs : List Int) (j : Nat) (h : j < zs.length) : most s (zs.take (j + 1)) = if scO (zs.getD j 0) s = true ∧ most s (zs.take j) < scV (zs.getD j 0) s then scV (zs.getD j 0) s else most s (zs.take j) := by
  rw [(getD_take zs j h).1]
  unfold most
  rw [List.foldl_append]; rfl
/-- Is a charset as likely as the likeliest? -/
def lks (s : ByteArray) (m : Int) (c : Int) : Bool := scO c s && (scV c s == m)
theorem find_hit (s : ByteArray) (m : Int) (zs : List Int) (j : Nat) (h : j < zs.length) (hp : lks s m (zs.getD j 0) = true) : (zs.drop j).find? (lks s m) = some (zs.getD j 0) := by
  rw [(getD_take zs j h).2, List.find?_cons, hp]
theorem find_miss (s : ByteArray) (m : Int) (zs : List Int) (j : Nat) (h : j < zs.length) (hp : lks s m (zs.getD j 0) = false) : (zs.drop j).find? (lks s m) = (zs.drop (j + 1)).find? (lks s m) := by
  conv => lhs; rw [(getD_take zs j h).2, List.find?_cons, hp]
theorem gz_zero {s : ByteArray} {zs : List Int} (h : most s zs = 0) : gz s zs = none := by unfold gz; rw [if_pos h]
theorem gz_find {s : ByteArray} {zs : List Int} (h : most s zs ≠ 0) : gz s zs = zs.find? (lks s (most s zs)) := by unfold gz; rw [if_neg h]; rfl
theorem scO_range {c : Int} {s : ByteArray} (h : scO c s = true) : 0 ≤ c ∧ c ≤ 6 := by
  unfold scO scZ at h
  by_cases hc : 0 ≤ c ∧ c ≤ 6 ∧ (dz c s).2 = none
  · exact ⟨hc.1, hc.2.1⟩
  · rw [if_neg hc] at h; cases h
theorem gz_range {s : ByteArray} {zs : List Int} {c : Int} (h : gz s zs = some c) : 0 ≤ c ∧ c ≤ 6 := by
  unfold gz at h
  by_cases hm : most s zs = 0
  · rw [if_pos hm] at h; cases h
  · rw [if_neg hm] at h
    have := List.find?_some h
    rw [Bool.and_eq_true] at this
    exact scO_range this.1
/-- The charset of bytes. -/
def rzZ (s d : ByteArray) (f : Int) (g : Bool) : Int := if (pt.scan s).2 = none then 7 else if 0 ≤ nmd d then nmd d else if g = true then (gz s ordL).getD f else f
theorem sc_rangeV (c : Int) (s : ByteArray) (hs : s.size ≤ 900) : -10000 ≤ scV c s ∧ scV c s ≤ 10000 := by
  unfold scV scZ
  by_cases hc : 0 ≤ c ∧ c ≤ 6 ∧ (dz c s).2 = none
  · rw [if_pos hc]
    have h1 := dz_len (s := s) hc.1 hc.2.1
    have h2 := scB_range c (dz c s).1 0
    unfold scL
    simp only [Option.getD_some]
    omega
  · rw [if_neg hc]; simp
theorem most_range (s : ByteArray) (hs : s.size ≤ 900) : ∀ (zs : List Int) (m : Int), 0 ≤ m → m ≤ 10000 → 0 ≤ zs.foldl (fun m c => if scO c s = true ∧ m < scV c s then scV c s else m) m ∧ zs.foldl (fun m c => if scO c s = true ∧ m < scV c s then scV c s else m) m ≤ 10000
  | [], m, h0, h1 => ⟨h0, h1⟩
  | c :: zs, m, h0, h1 => by
    have h2 := sc_rangeV c s hs
    rw [List.foldl_cons]
    by_cases h : scO c s = true ∧ m < scV c s
    · rw [if_pos h]; exact most_range s hs zs _ (by omega) (by omega)
    · rw [if_neg h]; exact most_range s hs zs _ h0 h1
end Go.Proofs.YtiigknimfibdpaaGreatDoor.de
namespace Go.Proofs.YtiigknimfibdpaaGreatDoor.de
open Go.RowKit Go.Lib
open Go.Proofs.YtiigknimfibdpaaGreatDoor.ch
set_option linter.unusedVariables false
theorem rowZ_new (w : World) (l : List Int) (t : TypeId) (hl : l.length ≤ 1000) : RowZ (w.alloc (.cells (nv l).toArray t)) (some ⟨w.heap.size, 0, none⟩) l.length l.length l := by
  refine .inr ⟨_, rfl, Nat.le_refl _, by unfold maxLen; omega, rfl, fun i hi => ?_⟩
  have e : (⟨w.heap.size, 0, none⟩ : Addr).add i = ⟨w.heap.size, i, none⟩ := by rw [Addr.add_lit, Nat.zero_add]
  rw [e, World.cell?_alloc_mark]
  simp [nv, List.getElem?_eq_getElem hi, List.getD]
theorem refOrder_any (w : World) : Calls Tryz.prog 15 #[] w fun e w' => ∃ A k, e = .returned (.slice A 7 k) ∧ RowZ w' A 7 k ordL ∧ Below w.heap.size w w' := by
  have HR : Hid (RowZ (w.alloc (.cells #[.int .i64 4, .int .i64 6, .int .i64 5, .int .i64 1, .int .i64 2, .int .i64 3, .int .i64 0] 3)) (some ⟨w.heap.size, 0, none⟩) 7 7 ordL) := Lib.hid (rowZ_new w ordL 3 (by decide))
  go_enter Tryz.func15, Tryz.ntmps15
  go_wp2_with fail
  go_ret
  exact ⟨_, _, rfl, HR.out, (Below.refl _ _).alloc (Nat.le_refl _) _⟩
set_option maxRecDepth 100000 in
set_option maxHeartbeats 8000000 in
theorem refGuess_any (s : ByteArray) (zs : List Int) (A : Option Addr) (n k : Nat) (w : World) (hs : s.size ≤ 900) (hn : n ≤ 1000) (hr : RowZ w A n k zs) :
    Calls Tryz.prog 13 #[.string s, .slice A n k] w fun e w' => e = .returned (.int .i64 ((gz s zs).getD (-1))) ∧ Below w.heap.size w w' := by
  obtain ⟨PP, hPP⟩ : ∃ PP, PP = (gz s zs).getD (-1) := ⟨_, rfl⟩
  rw [← hPP]
  have HPP := Lib.hid hPP
  have hlen := hr.len
  have HR := Lib.hid hr
  have HS := Lib.hid (fun c W => Score_any c s W (by omega))
  unfold ScP at HS
  have hRV : Hid (∀ c, -10000 ≤ scV c s ∧ scV c s ≤ 10000) := Lib.hid (fun c => sc_rangeV c s hs)
  have hMR : Hid (∀ j, 0 ≤ most s (zs.take j) ∧ most s (zs.take j) ≤ 10000) := Lib.hid (fun j => most_range s hs (zs.take j) 0 (by omega) (by omega))
  clear hPP hr
  go_enter Tryz.func13, Tryz.ntmps13
  go_wp2_with fail
  go_loopw [5, 6] (fun m i wr => ∃ j : Nat, j ≤ n ∧ i = .int .i64 j ∧ m = .int .i64 (most s (zs.take j)) ∧ Below w.heap.size w wr) (fun _ i _ => n - (RowKit.intOf i).toNat)
  case atStart => exact ⟨0, by omega, rfl, rfl, Below.refl _ _⟩
  case round =>
    obtain ⟨j, hj, rfl, rfl, hB⟩ := hrel
    have HB := Lib.hid hB
    clear hB
    by_cases hlt : j < n
    · obtain ⟨a, rfl, a1, a2, a3⟩ := (HR.out.below HB.out).at j hlt
      unfold maxLen at a2
      have HT := Lib.hid (most_take s zs j (by omega))
      have HD := Lib.hid (fun W => HS.out (zs.getD j 0) W)
      obtain ⟨v0, v1⟩ := hRV.out (zs.getD j 0)
      obtain ⟨m0, m1⟩ := hMR.out j
      generalize most s (zs.take j) = M at *
      generalize zs.getD j 0 = z at *
      generalize scV z s = V at *
      generalize scO z s = O at *
      cases O with
      | false =>
        have HT2 : Hid (most s (zs.take (j + 1)) = M) := Lib.hid (by rw [HT.out, if_neg (by simp)])
        clear HT
        go_wp2_with (go_at_call 11; refine (HD.out _).mono ?_; rintro e1 w1 ⟨rfl, hb1⟩; have B1 := Lib.hid (HB.out.trans (hb1.mono HB.out.size)); clear hb1)
        go_roundw
        case rel => exact ⟨j + 1, by omega, by go_num, by rw [HT2.out], B1.out⟩
        case measure => simp [RowKit.intOf]; omega
      | true =>
        by_cases hv : M < V
        · have HT2 : Hid (most s (zs.take (j + 1)) = V) := Lib.hid (by rw [HT.out, if_pos ⟨rfl, hv⟩])
          clear HT
          go_wp2_with (go_at_call 11; refine (HD.out _).mono ?_; rintro e1 w1 ⟨rfl, hb1⟩; have B1 := Lib.hid (HB.out.trans (hb1.mono HB.out.size)); clear hb1)
          go_roundw
          case rel => exact ⟨j + 1, by omega, by go_num, by rw [HT2.out], B1.out⟩
          case measure => simp [RowKit.intOf]; omega
        · have HT2 : Hid (most s (zs.take (j + 1)) = M) := Lib.hid (by rw [HT.out, if_neg (fun h => hv h.2)])
          clear HT
          go_wp2_with (go_at_call 11; refine (HD.out _).mono ?_; rintro e1 w1 ⟨rfl, hb1⟩; have B1 := Lib.hid (HB.out.trans (hb1.mono HB.out.size)); clear hb1)
          go_roundw
          case rel => exact ⟨j + 1, by omega, by go_num, by rw [HT2.out], B1.out⟩
          case measure => simp [RowKit.intOf]; omega
    · obtain rfl : j = n := by omega
      have hall : zs.take j = zs := List.take_of_length_le (by omega)
      obtain ⟨m0, m1⟩ := hMR.out j
      rw [hall] at m0 m1 ⊢
      by_cases hz : most s zs = 0
      · have HV : Hid (PP = -1) := Lib.hid (by rw [HPP.out, gz_zero hz]; rfl)
        rw [hz]
        clear hlt hall m0 m1
        go_wp2_with fail
        go_ret
        exact ⟨by rw [HV.out]; rfl, HB.out⟩
      · have HF : Hid (PP = (zs.find? (lks s (most s zs))).getD (-1)) := Lib.hid (by rw [HPP.out, gz_find hz])
        have HMM := Lib.hid (rfl : lks s (most s zs) = lks s (most s zs))
        obtain ⟨M, hM⟩ : ∃ M, M = most s zs := ⟨_, rfl⟩
        rw [← hM] at hz m0 m1 HF ⊢
        have hmz : (M == 0) = false := by simp [hz]
        clear hlt hall hM HMM
        go_wp2_with fail
        go_loopw [9] (fun i wr2 => ∃ j2 : Nat, j2 ≤ j ∧ i = .int .i64 j2 ∧ zs.find? (lks s M) = (zs.drop j2).find? (lks s M) ∧ Below w.heap.size w wr2) (fun i _ => j - (RowKit.intOf i).toNat)
        case atStart => exact ⟨0, by omega, rfl, rfl, HB.out⟩
        case round =>
          obtain ⟨i, hi, rfl, hf, hB2⟩ := hrel
          have HB2 := Lib.hid hB2; have HFF := Lib.hid hf
          clear hB2 hf
          by_cases hlt2 : i < j
          · obtain ⟨a, rfl, a1, a2, a3⟩ := (HR.out.below HB2.out).at i hlt2
            unfold maxLen at a2
            have HD := Lib.hid (fun W => HS.out (zs.getD i 0) W)
            have HY := Lib.hid (find_hit s M zs i (by omega))
            have HN := Lib.hid (find_miss s M zs i (by omega))
            unfold lks at HY HN
            obtain ⟨v0, v1⟩ := hRV.out (zs.getD i 0)
            generalize zs.getD i 0 = z at *
            generalize scV z s = V at *
            generalize scO z s = O at *
            have a4 := a3
            by_cases hh : O = true ∧ V = M
            · obtain ⟨rfl, rfl⟩ := hh
              have HV : Hid (PP = z) := Lib.hid (by
                rw [HF.out, HFF.out]
                have h := HY.out (by simp)
                unfold lks
                rw [h]; rfl)
              clear HY HN
              have AA := Lib.hid (World.block_lt_of_cell? wr _ a3)
              go_wp2_with (go_at_call 11; refine (HD.out _).mono ?_; rintro e1 w1 ⟨rfl, hb1⟩; have B1 := Lib.hid (HB2.out.trans (hb1.mono HB2.out.size)); have a5 := (hb1.cell AA.out).trans a4; clear hb1)
              go_ret
              exact ⟨by rw [HV.out]; rfl, B1.out⟩
            · have HFN : Hid (zs.find? (lks s M) = (zs.drop (i + 1)).find? (lks s M)) := Lib.hid (by
                rw [HFF.out]
                have h := HN.out (by
                  cases O with
                  | false => rfl
                  | true => simp; intro e; exact hh ⟨rfl, e⟩)
                unfold lks
                exact h)
              clear HY HN
              cases O with
              | false =>
                go_wp2_with (go_at_call 11; refine (HD.out _).mono ?_; rintro e1 w1 ⟨rfl, hb1⟩; have B1 := Lib.hid (HB2.out.trans (hb1.mono HB2.out.size)); clear hb1)
                go_roundw
                case rel => exact ⟨i + 1, by omega, by go_num, HFN.out, B1.out⟩
                case measure => simp [RowKit.intOf]; omega
              | true =>
                have hvm : (V == M) = false := by
                  rw [beq_eq_false_iff_ne]; intro e; exact hh ⟨rfl, e⟩
                go_wp2_with (go_at_call 11; refine (HD.out _).mono ?_; rintro e1 w1 ⟨rfl, hb1⟩; have B1 := Lib.hid (HB2.out.trans (hb1.mono HB2.out.size)); clear hb1)
                go_roundw
                case rel => exact ⟨i + 1, by omega, by go_num, HFN.out, B1.out⟩
                case measure => simp [RowKit.intOf]; omega
          · obtain rfl : i = j := by omega
            have HV : Hid (PP = -1) := Lib.hid (by rw [HF.out, HFF.out, List.drop_eq_nil_of_le (by omega)]; rfl)
            go_wp2_with fail
            go_ret
            exact ⟨by rw [HV.out]; rfl, HB2.out⟩
end Go.Proofs.YtiigknimfibdpaaGreatDoor.de
namespace Go.Proofs.YtiigknimfibdpaaGreatDoor.df
open Go.RowKit Go.Lib
set_option linter.unusedVariables false
open Go.Proofs.YtiigknimfibdpaaGreatDoor.ch
open Go.Proofs.YtiigknimfibdpaaGreatDoor.de
theorem fold_ge (s : ByteArray) : ∀ (zs : List Int) (m : Int), m ≤ zs.foldl (fun m c => if scO c s = true ∧ m < scV c s then scV c s else m) m ∧ ∀ z ∈ zs, scO z s = true → scV z s ≤ zs.foldl (fun m c => if scO c s = true ∧ m < scV c s then scV c s else m) m
  | [], m => ⟨Int.le_refl _, by simp⟩
  | c :: zs, m => by
    rw [List.foldl_cons]
    by_cases h : scO c s = true ∧ m < scV c s
    · rw [if_pos h]
      obtain ⟨h1, h2⟩ := fold_ge s zs (scV c s)
      refine ⟨by omega, fun z hz ho => ?_⟩
      rcases List.mem_cons.1 hz with rfl | hz
      · exact h1
      · exact h2 z hz ho
    · rw [if_neg h]
      obtain ⟨h1, h2⟩ := fold_ge s zs m
      refine ⟨h1, fun z hz ho => ?_⟩
      rcases List.mem_cons.1 hz with rfl | hz
      · have : ¬ m < scV z s := fun q => h ⟨ho, q⟩
        omega
      · exact h2 z hz ho
/-- The best so far, with its score. -/
structure Bs (s : ByteArray) (zs : List Int) (best : Int) : Prop where
  z : most s zs = 0 → best = 0
  f : most s zs ≠ 0 → zs.find? (lks s (most s zs)) = some best
theorem bs_nil (s : ByteArray) : Bs s [] 0 := ⟨fun _ => rfl, fun h => absurd rfl h⟩
theorem bs_new {s : ByteArray} {zs : List Int} {best : Int} (j : Nat) (hj : j < zs.length) (h : Bs s (zs.take j) best) (ho : scO (zs.getD j 0) s = true) (hv : most s (zs.take j) < scV (zs.getD j 0) s) : most s (zs.take (j + 1)) = scV (zs.getD j 0) s ∧ Bs s (zs.take (j + 1)) (zs.getD j 0) := by
  have hm := most_take s zs j hj
  rw [if_pos ⟨ho, hv⟩] at hm
  have h0 : 0 ≤ most s (zs.take j) := (fold_ge s (zs.take j) 0).1
  refine ⟨hm, fun e => ?_, fun _ => ?_⟩
  · rw [hm] at e; omega
  · rw [hm, (getD_take zs j hj).1, List.find?_append]
    have hn : (zs.take j).find? (lks s (scV (zs.getD j 0) s)) = none := by
      rw [List.find?_eq_none]
      intro x hx hl
      unfold lks at hl
      rw [Bool.and_eq_true] at hl
      have h1 := (fold_ge s (zs.take j) 0).2 x hx hl.1
      have h2 : scV x s = scV (zs.getD j 0) s := by simpa using hl.2
      unfold most at hv
      omega
    have hp : lks s (scV (zs.getD j 0) s) (zs.getD j 0) = true := by unfold lks; rw [ho]; simp
    rw [hn]
    simp only [Option.none_or, List.find?_cons, hp]
theorem bs_old {s : ByteArray} {zs : List Int} {best : Int} (j : Nat) (hj : j < zs.length) (h : Bs s (zs.take j) best) (hv : ¬ (scO (zs.getD j 0) s = true ∧ most s (zs.take j) < scV (zs.getD j 0) s)) : most s (zs.take (j + 1)) = most s (zs.take j) ∧ Bs s (zs.take (j + 1)) best := by
  have hm := most_take s zs j hj
  rw [if_neg hv] at hm
  refine ⟨hm, fun e => h.z (by rwa [hm] at e), fun e => ?_⟩
  rw [hm] at e ⊢
  rw [(getD_take zs j hj).1, List.find?_append, h.f e]
  rfl
theorem bs_end {s : ByteArray} {zs : List Int} {best : Int} (h : Bs s zs best) : (gz s zs).getD 0 = best ∧ (gz s zs).isSome = decide (0 < most s zs) := by
  have h0 : 0 ≤ most s zs := (fold_ge s zs 0).1
  by_cases hz : most s zs = 0
  · rw [gz_zero hz, h.z hz, hz]; exact ⟨rfl, rfl⟩
  · rw [gz_find hz, h.f hz]
    refine ⟨rfl, ?_⟩
    rw [decide_eq_true (by omega)]; rfl
theorem Order_any (w : World) : Calls Tryz.prog 14 #[] w fun e w' => ∃ A k, e = .returned (.slice A 7 k) ∧ RowZ w' A 7 k ordL ∧ Below w.heap.size w w' := by
  have HR : ∀ t, Hid (RowZ (w.alloc (.cells #[.int .i64 4, .int .i64 6, .int .i64 5, .int .i64 1, .int .i64 2, .int .i64 3, .int .i64 0] t)) (some ⟨w.heap.size, 0, none⟩) 7 7 ordL) := fun t => Lib.hid (rowZ_new w ordL t (by decide))
  go_enter Tryz.func14, Tryz.ntmps14
  go_wp2_with fail
  go_ret
  exact ⟨_, _, rfl, (HR _).out, (Below.refl _ _).alloc (Nat.le_refl _) _⟩
set_option maxRecDepth 100000 in
set_option maxHeartbeats 8000000 in
theorem Guess_any {K : World → Prop} (stay : ∀ w w', K w → Below w.heap.size w w' → K w') (score : ∀ (c : Int) (s : ByteArray) w, K w → s.size ≤ 900 → Calls Tryz.prog 10 #[.int .i64 c, .string s] w fun e w' => e = .returned (.tuple #[.int .i64 (scV c s), .bool (scO c s)]) ∧ Below w.heap.size w w')
    (s : ByteArray) (zs : List Int) (A : Option Addr) (n k : Nat) (w : World) (hK : K w) (hs : s.size ≤ 900) (hn : n ≤ 1000) (hr : RowZ w A n k zs) :
    Calls Tryz.prog 12 #[.string s, .slice A n k] w fun e w' => e = .returned (.tuple #[.int .i64 ((gz s zs).getD 0), .bool (gz s zs).isSome]) ∧ Below w.heap.size w w' := by
  have hlen := hr.len
  have HR := Lib.hid hr
  have HST := Lib.hid stay
  have HSC := Lib.hid (fun c W h => score c s W h hs)
  have hRV : Hid (∀ c, -10000 ≤ scV c s ∧ scV c s ≤ 10000) := Lib.hid (fun c => sc_rangeV c s hs)
  have hMR : Hid (∀ j, 0 ≤ most s (zs.take j) ∧ most s (zs.take j) ≤ 10000) := Lib.hid (fun j => most_range s hs (zs.take j) 0 (by omega) (by omega))
  obtain ⟨G, hG⟩ : ∃ G, G = (gz s zs).getD 0 := ⟨_, rfl⟩
  obtain ⟨O, hO⟩ : ∃ O, O = (gz s zs).isSome := ⟨_, rfl⟩
  rw [← hG, ← hO]
  have HG := Lib.hid hG; have HO := Lib.hid hO
  have K0 : Hid (Kb K w w) := Lib.hid ⟨hK, Below.refl _ _⟩
  clear hr stay score hK hG hO
  go_enter Tryz.func12, Tryz.ntmps12
  go_wp2_with fail
  go_loopw [6, 7, 14] (fun b m i wr => ∃ (j : Nat) (best : Int), j ≤ n ∧ i = .int .i64 j ∧ b = .int .i64 best ∧ m = .int .i64 (most s (zs.take j)) ∧ Bs s (zs.take j) best ∧ Kb K w wr) (fun _ _ i _ => n - (RowKit.intOf i).toNat)
  case atStart => exact ⟨0, 0, Nat.zero_le _, rfl, rfl, rfl, bs_nil s, K0.out⟩
  case round =>
    obtain ⟨j, best, hj, rfl, rfl, rfl, hbs, hk⟩ := hrel
    have KR := Lib.hid hk; have BS := Lib.hid hbs
    clear hk hbs
    by_cases hlt : j < n
    · obtain ⟨a, rfl, a1, a2, a3⟩ := (HR.out.below KR.out.b).at j hlt
      unfold maxLen at a2
      have HN := Lib.hid (fun h1 h2 => bs_new j (by omega) BS.out h1 h2)
      have HD := Lib.hid (fun h1 => bs_old j (by omega) BS.out h1)
      have HC := Lib.hid (fun W h => HSC.out (zs.getD j 0) W h)
      obtain ⟨v0, v1⟩ := hRV.out (zs.getD j 0)
      obtain ⟨m0, m1⟩ := hMR.out j
      generalize most s (zs.take j) = M at *
      generalize zs.getD j 0 = z at *
      generalize scV z s = V at *
      generalize scO z s = Q at *
      cases Q with
      | false =>
        have HT := Lib.hid (HD.out (by simp))
        clear HN HD
        go_wp2_with (go_at_call 10; refine (HC.out _ KR.out.k).mono ?_; rintro e1 w1 ⟨rfl, hb1⟩; have K1 := Lib.hid (KR.out.below HST.out hb1); clear hb1)
        go_roundw
        case rel => exact ⟨j + 1, best, by omega, by go_num, rfl, by rw [HT.out.1], HT.out.2, K1.out⟩
        case measure => simp [RowKit.intOf]; omega
      | true =>
        by_cases hv : M < V
        · have HT := Lib.hid (HN.out rfl hv)
          clear HN HD
          go_wp2_with (go_at_call 10; refine (HC.out _ KR.out.k).mono ?_; rintro e1 w1 ⟨rfl, hb1⟩; have K1 := Lib.hid (KR.out.below HST.out hb1); clear hb1)
          go_roundw
          case rel => exact ⟨j + 1, z, by omega, by go_num, rfl, by rw [HT.out.1], HT.out.2, K1.out⟩
          case measure => simp [RowKit.intOf]; omega
        · have HT := Lib.hid (HD.out (fun h => hv h.2))
          clear HN HD
          go_wp2_with (go_at_call 10; refine (HC.out _ KR.out.k).mono ?_; rintro e1 w1 ⟨rfl, hb1⟩; have K1 := Lib.hid (KR.out.below HST.out hb1); clear hb1)
          go_roundw
          case rel => exact ⟨j + 1, best, by omega, by go_num, rfl, by rw [HT.out.1], HT.out.2, K1.out⟩
          case measure => simp [RowKit.intOf]; omega
    · obtain rfl : j = n := by omega
      have hall : zs.take j = zs := List.take_of_length_le (by omega)
      have hbs := BS.out
      rw [hall] at hbs ⊢
      obtain ⟨q1, q2⟩ := bs_end hbs
      have HV : Hid (G = best) := Lib.hid (by rw [HG.out, q1])
      have HW : Hid (O = decide (0 < most s zs)) := Lib.hid (by rw [HO.out, q2])
      have hm0 := (fold_ge s zs 0).1
      have hm1 : 0 ≤ most s zs := hm0
      generalize most s zs = M at *
      clear hlt hall hbs q1 q2 BS hm0
      by_cases hpos : 0 < M
      · have HX : Hid (O = true) := Lib.hid (by rw [HW.out, decide_eq_true hpos])
        go_wp2_with fail
        go_ret2
        exact ⟨by rw [HV.out, HX.out]; rfl, KR.out.b⟩
      · have HX : Hid (O = false) := Lib.hid (by rw [HW.out, decide_eq_false hpos])
        go_wp2_with fail
        go_ret2
        exact ⟨by rw [HV.out, HX.out]; rfl, KR.out.b⟩
end Go.Proofs.YtiigknimfibdpaaGreatDoor.df
namespace Go.Proofs.YtiigknimfibdpaaGreatDoor.de
open Go.RowKit Go.Lib
open Go.Proofs.YtiigknimfibdpaaGreatDoor.ch
set_option linter.unusedVariables false
def RzP (s d : ByteArray) (f : Int) (g : Bool) (w : World) : Ending → World → Prop := fun e w' => e = .returned (.int .i64 (rzZ s d f g)) ∧ Below w.heap.size w w'
theorem rzP {s d : ByteArray} {f : Int} {g : Bool} {w w' : World} {v : Int} (h : rzZ s d f g = v) (hb : Below w.heap.size w w') : RzP s d f g w (.returned (.int .i64 v)) w' := ⟨by rw [h], hb⟩
set_option maxRecDepth 100000 in
set_option maxHeartbeats 4000000 in
theorem refResolve_any (s d : ByteArray) (f : Int) (g : Bool) (w : World) (hs : s.size ≤ 900) (hd : d.size ≤ 4000) : Calls Tryz.prog 19 #[.string s, .string d, .int .i64 f, .bool g] w (RzP s d f g w) := by
  have HN := Lib.hid (fun W => Named_any d W hd)
  have HO := Lib.hid (fun W => refOrder_any W)
  have HG := Lib.hid (fun A k W h => refGuess_any s ordL A 7 k W hs (by omega) h)
  cases hsc : (pt.scan s).2 with
  | none =>
    have HV : Hid (rzZ s d f g = 7) := Lib.hid (by unfold rzZ; rw [if_pos hsc])
    have HP := Lib.hid (fun W => pt.refPoints_row s _ W (by omega) hsc rfl)
    generalize (pt.zsOf s).length = n at *
    clear hsc
    go_enter Tryz.func19, Tryz.ntmps19
    go_wp2_with (go_at_call 26; refine (HP.out _).mono ?_; rintro e1 w1 ⟨q, k, rfl, _, hb1⟩; have B1 := Lib.hid hb1; clear hb1)
    go_ret
    exact rzP HV.out B1.out
  | some a =>
    have HP := Lib.hid (fun W => pt.refPoints_none s a W (by omega) hsc)
    have hne : ¬ (pt.scan s).2 = none := by rw [hsc]; simp
    have a0 : ¬ ((a : Int) < 0) := by omega
    by_cases hn : 0 ≤ nmd d
    · have HV : Hid (rzZ s d f g = nmd d) := Lib.hid (by unfold rzZ; rw [if_neg hne, if_pos hn])
      generalize nmd d = D at *
      clear hsc hne
      go_enter Tryz.func19, Tryz.ntmps19
      go_wp2_with (first
        | (go_at_call 26; refine (HP.out _).mono ?_; rintro e1 w1 ⟨rfl, hb1⟩; have B1 := Lib.hid hb1; clear hb1)
        | (go_at_call 33; refine (HN.out _).mono ?_; rintro e2 w2 ⟨rfl, hb2⟩; have B2 := Lib.hid (B1.out.trans (hb2.mono B1.out.size)); clear hb2))
      go_ret
      exact rzP HV.out B2.out
    · cases g with
      | false =>
        have HV : Hid (rzZ s d f false = f) := Lib.hid (by unfold rzZ; rw [if_neg hne, if_neg hn, if_neg (by simp)])
        generalize nmd d = D at *
        clear hsc hne
        go_enter Tryz.func19, Tryz.ntmps19
        go_wp2_with (first
          | (go_at_call 26; refine (HP.out _).mono ?_; rintro e1 w1 ⟨rfl, hb1⟩; have B1 := Lib.hid hb1; clear hb1)
          | (go_at_call 33; refine (HN.out _).mono ?_; rintro e2 w2 ⟨rfl, hb2⟩; have B2 := Lib.hid (B1.out.trans (hb2.mono B1.out.size)); clear hb2))
        go_ret
        exact rzP HV.out B2.out
      | true =>
        have HV : Hid (rzZ s d f true = (gz s ordL).getD f) := Lib.hid (by unfold rzZ; rw [if_neg hne, if_neg hn, if_pos rfl])
        cases hg : gz s ordL with
        | none =>
          rw [hg] at HG HV
          replace HG : Hid (∀ (A : Option Addr) (k : Nat) W, RowZ W A 7 k ordL → Calls Tryz.prog 13 #[.string s, .slice A 7 k] W fun e w' => e = .returned (.int .i64 (-1)) ∧ Below W.heap.size W w') := HG
          replace HV : Hid (rzZ s d f true = f) := HV
          generalize nmd d = D at *
          clear hsc hne hg
          go_enter Tryz.func19, Tryz.ntmps19
          go_wp2_with (first
            | (go_at_call 26; refine (HP.out _).mono ?_; rintro e1 w1 ⟨rfl, hb1⟩; have B1 := Lib.hid hb1; clear hb1)
            | (go_at_call 33; refine (HN.out _).mono ?_; rintro e2 w2 ⟨rfl, hb2⟩; have B2 := Lib.hid (B1.out.trans (hb2.mono B1.out.size)); clear hb2)
            | (go_at_call 15; refine (HO.out _).mono ?_; rintro e3 w3 ⟨A, k, rfl, hr3, hb3⟩; have R3 := Lib.hid hr3; have B3 := Lib.hid (B2.out.trans (hb3.mono B2.out.size)); clear hb3 hr3)
            | (go_at_call 13; refine (HG.out _ _ _ R3.out).mono ?_; rintro e4 w4 ⟨rfl, hb4⟩; have B4 := Lib.hid (B3.out.trans (hb4.mono B3.out.size)); clear hb4))
          go_ret
          exact rzP HV.out B4.out
        | some c =>
          have hc := gz_range hg
          have c0 : 0 ≤ c := hc.1
          rw [hg] at HG HV
          replace HG : Hid (∀ (A : Option Addr) (k : Nat) W, RowZ W A 7 k ordL → Calls Tryz.prog 13 #[.string s, .slice A 7 k] W fun e w' => e = .returned (.int .i64 c) ∧ Below W.heap.size W w') := HG
          replace HV : Hid (rzZ s d f true = c) := HV
          generalize nmd d = D at *
          clear hsc hne hg hc
          go_enter Tryz.func19, Tryz.ntmps19
          go_wp2_with (first
            | (go_at_call 26; refine (HP.out _).mono ?_; rintro e1 w1 ⟨rfl, hb1⟩; have B1 := Lib.hid hb1; clear hb1)
            | (go_at_call 33; refine (HN.out _).mono ?_; rintro e2 w2 ⟨rfl, hb2⟩; have B2 := Lib.hid (B1.out.trans (hb2.mono B1.out.size)); clear hb2)
            | (go_at_call 15; refine (HO.out _).mono ?_; rintro e3 w3 ⟨A, k, rfl, hr3, hb3⟩; have R3 := Lib.hid hr3; have B3 := Lib.hid (B2.out.trans (hb3.mono B2.out.size)); clear hb3 hr3)
            | (go_at_call 13; refine (HG.out _ _ _ R3.out).mono ?_; rintro e4 w4 ⟨rfl, hb4⟩; have B4 := Lib.hid (B3.out.trans (hb4.mono B3.out.size)); clear hb4))
          go_ret
          exact rzP HV.out B4.out
/-- What the walks of Resolves and Signs ask beside. -/
structure DeR (K : World → Prop) : Prop where
  res : ∀ (s d : ByteArray) (k f b : Int) (g : Bool) w, K w → s.size ≤ 900 → d.size ≤ 100 → -9223372036854775808 ≤ f → f ≤ 9223372036854775807 → Calls Tryz.prog 18 #[.string s, .string d, .agg #[.int .i64 k, .int .i64 f, .bool g, .int .i64 b]] w fun e w' => e = .returned (.int .i64 (rzZ s d f g)) ∧ Below w.heap.size w w'
set_option maxRecDepth 100000 in
set_option maxHeartbeats 4000000 in
theorem resolves_walk {K : World → Prop} (L : De K) (LR : DeR K) (s d : ByteArray) (f : Int) (g : Bool) (w : World) (hK : K w) (hs : s.size ≤ maxLen) (hd : d.size ≤ maxLen) (f0 : -9223372036854775808 ≤ f) (f1 : f ≤ 9223372036854775807) : Calls Tryz.prog 6 #[.string s, .string d, .int .i64 f, .bool g] w fun e w' => e = .returned (.bool true) ∧ Below w.heap.size w w' := by
  have HAW := Lib.hid (fun w2 h2 => awake_any L w2 h2)
  have HL := Lib.hid L.stay
  have K0 : Hid (Kb K w w) := Lib.hid ⟨hK, Below.refl _ _⟩
  unfold maxLen at hs hd
  by_cases h : 100 < s.size ∨ 100 < d.size
  · have hh : ((100 : Int) < s.size) ∨ (¬ ((100 : Int) < s.size) ∧ (100 : Int) < d.size) := by omega
    clear L LR hK h
    rcases hh with h | ⟨h1, h2⟩
    all_goals
      go_enter Tryz.func6, Tryz.ntmps6
      go_wp2_with (go_at_call 9; refine (HAW.out _ K0.out.k).mono ?_; rintro e2 w2 ⟨rfl, hb2⟩)
      go_ret
      exact ⟨rfl, hb2⟩
  · have h1 : ¬ (100 : Int) < s.size := by omega
    have h2 : ¬ (100 : Int) < d.size := by omega
    have HS := Lib.hid (fun k b W h => LR.res s d k f b g W h (by omega) (by omega) f0 f1)
    have HR := Lib.hid (fun W => refResolve_any s d f g W (by omega) (by omega))
    unfold RzP at HR
    clear L LR hK h
    generalize rzZ s d f g = V at *
    go_enter Tryz.func6, Tryz.ntmps6
    go_wp2_with (first
      | (go_at_call 9; refine (HAW.out _ K1.out.k).mono ?_; rintro e3 w3 ⟨rfl, hb3⟩; have K2 := Lib.hid (K1.out.below HL.out hb3); clear hb3)
      | (go_at_call 19; refine (HR.out _).mono ?_; rintro e2 w2 ⟨rfl, hb2⟩; have K3 := Lib.hid (K2.out.below HL.out hb2); clear hb2)
      | (go_at_call 18; refine (HS.out _ _ _ K0.out.k).mono ?_; rintro e1 w1 ⟨rfl, hb1⟩; have K1 := Lib.hid (K0.out.below HL.out hb1); clear hb1))
    go_ret
    exact ⟨by simp, K3.out.b⟩
end Go.Proofs.YtiigknimfibdpaaGreatDoor.de
namespace Go.Proofs.YtiigknimfibdpaaGreatDoor.de
open Go.RowKit Go.Lib
open Go.Proofs.YtiigknimfibdpaaGreatDoor.ch
set_option linter.unusedVariables false
theorem dcT_most {c : Int} {s : ByteArray} (h : dcE c s = 0) : (pt.scan (dcT c s)).2 = none ∧ (dcT c s).size ≤ 4 * s.size := by
  have hc : inC c ∧ (dz c s).2 = none := by
    unfold dcE at h
    by_cases hi : inC c
    · rw [if_pos hi] at h
      by_cases hd : (dz c s).2 = none
      · exact ⟨hi, hd⟩
      · rw [if_neg hd] at h; cases h
    · rw [if_neg hi] at h; cases h
  have e : dcT c s = pt.txt (dz c s).1 := by unfold dcT; rw [if_pos hc]
  rw [e]
  refine ⟨(dz_back s hc.1).1, ?_⟩
  by_cases h7 : c ≤ 7
  · exact dz_most h7 hc.2
  · have e2 : dz c s = wd.wscan s (c == 9) := by unfold dz; rw [if_neg (by omega), if_neg (by omega), if_pos (by omega)]
    rw [e2]
    have h1 := txt_most (wd.wscan s (c == 9)).1
    have h2 := wd.wd_len s (c == 9) s.size 0
    unfold wd.wscan at *
    omega
set_option maxRecDepth 100000 in
set_option maxHeartbeats 4000000 in
theorem signs_walk {K : World → Prop} (L : De K) (LR : DeR K) (c : Int) (s d : ByteArray) (f : Int) (g : Bool) (w : World) (hK : K w) (hs : s.size ≤ maxLen) (hd : d.size ≤ maxLen) (f0 : -9223372036854775808 ≤ f) (f1 : f ≤ 9223372036854775807) : Calls Tryz.prog 8 #[.int .i64 c, .string s, .string d, .int .i64 f, .bool g] w fun e w' => e = .returned (.bool true) ∧ Below w.heap.size w w' := by
  have HAW := Lib.hid (fun w2 h2 => awake_any L w2 h2)
  have HL := Lib.hid L.stay
  have K0 : Hid (Kb K w w) := Lib.hid ⟨hK, Below.refl _ _⟩
  unfold maxLen at hs hd
  by_cases h : 100 < s.size ∨ 50 < d.size
  · have hh : ((100 : Int) < s.size) ∨ (¬ ((100 : Int) < s.size) ∧ (50 : Int) < d.size) := by omega
    clear L LR hK h
    rcases hh with h | ⟨h1, h2⟩
    all_goals
      go_enter Tryz.func8, Tryz.ntmps8
      go_wp2_with (go_at_call 9; refine (HAW.out _ K0.out.k).mono ?_; rintro e2 w2 ⟨rfl, hb2⟩)
      go_ret
      exact ⟨rfl, hb2⟩
  · have h1 : ¬ (100 : Int) < s.size := by omega
    have h2 : ¬ (50 : Int) < d.size := by omega
    have HD := Lib.hid (fun W => refDecode9_any c s W (by omega))
    unfold DcP at HD
    by_cases hE : dcE c s = 0
    · obtain ⟨hv, hm⟩ := dcT_most hE
      have HS := Lib.hid (fun k b W h => LR.res (dcT c s) d k f b g W h (by omega) (by omega) f0 f1)
      rw [show rzZ (dcT c s) d f g = 7 by unfold rzZ; rw [if_pos hv]] at HS
      rw [hE] at HD
      clear L LR hK h hv hm hE
      generalize dcT c s = T at *
      generalize dcA c s = A at *
      go_enter Tryz.func8, Tryz.ntmps8
      go_wp2_with (first
        | (go_at_call 18; refine (HS.out _ _ _ K2.out.k).mono ?_; rintro e3 w3 ⟨rfl, hb3⟩; have K3 := Lib.hid (K2.out.below HL.out hb3); clear hb3)
        | (go_at_call 9; refine (HAW.out _ K1.out.k).mono ?_; rintro e2 w2 ⟨rfl, hb2⟩; have K2 := Lib.hid (K1.out.below HL.out hb2); clear hb2)
        | (go_at_call 20; refine (HD.out _).mono ?_; rintro e1 w1 ⟨rfl, hb1⟩; have K1 := Lib.hid (K0.out.below HL.out hb1); clear hb1))
      go_ret
      exact ⟨rfl, K3.out.b⟩
    · have hne : (dcE c s == 0) = false := by simp [hE]
      clear L LR hK h
      generalize dcT c s = T at *
      generalize dcE c s = E at *
      generalize dcA c s = A at *
      go_enter Tryz.func8, Tryz.ntmps8
      go_wp2_with (first
        | (go_at_call 9; refine (HAW.out _ K1.out.k).mono ?_; rintro e2 w2 ⟨rfl, hb2⟩; have K2 := Lib.hid (K1.out.below HL.out hb2); clear hb2)
        | (go_at_call 20; refine (HD.out _).mono ?_; rintro e1 w1 ⟨rfl, hb1⟩; have K1 := Lib.hid (K0.out.below HL.out hb1); clear hb1))
      go_ret
      exact ⟨rfl, K2.out.b⟩
set_option maxRecDepth 100000 in
set_option maxHeartbeats 4000000 in
theorem guesses_out {K : World → Prop} (L : De K) (s : ByteArray) (A : Option Addr) (n c : Nat) (w : World) (hK : K w) (hs : s.size ≤ maxLen) (hn : n ≤ 9223372036854775807) (h : 100 < s.size ∨ 20 < n) : Calls Tryz.prog 4 #[.string s, .slice A n c] w fun e w' => e = .returned (.bool true) ∧ Below w.heap.size w w' := by
  have HAW := Lib.hid (awake_any L w hK)
  unfold maxLen at hs
  clear L hK
  have hh : ((100 : Int) < s.size) ∨ (¬ ((100 : Int) < s.size) ∧ (20 : Int) < n) := by omega
  clear h
  rcases hh with h | ⟨h1, h2⟩
  all_goals
    go_enter Tryz.func4, Tryz.ntmps4
    go_wp2_with (go_at_call 9; refine (HAW.out).mono ?_; rintro e2 w2 ⟨rfl, hb2⟩)
    go_ret
    exact ⟨rfl, hb2⟩
/-- A guess, as both tell it. -/
def Gs (C R : Int) (O : Bool) : Prop := (O = false ∧ C = 0 ∧ R = -1) ∨ (O = true ∧ C = R ∧ 0 ≤ R)
theorem gs_of (s : ByteArray) (zs : List Int) : Gs ((gz s zs).getD 0) ((gz s zs).getD (-1)) (gz s zs).isSome := by
  unfold Gs
  cases h : gz s zs with
  | none => exact .inl ⟨rfl, rfl, rfl⟩
  | some c => exact .inr ⟨rfl, rfl, (gz_range h).1⟩
set_option maxRecDepth 100000 in
set_option maxHeartbeats 8000000 in
theorem guesses_core {K : World → Prop} (L : De K) (s : ByteArray) (A : Option Addr) (n c : Nat) (zs : List Int) (w : World) (hK : K w) (hs : s.size ≤ 100) (hn : n ≤ 20) (hr : RowZ w A n c zs) (C1 R1 C2 R2 : Int) (O1 O2 : Bool) (g1 : Gs C1 R1 O1) (g2 : Gs C2 R2 O2)
    (HG1 : Hid (∀ (B : Option Addr) (k : Nat) W, K W → RowZ W B n k zs → Calls Tryz.prog 12 #[.string s, .slice B n k] W fun e w' => e = .returned (.tuple #[.int .i64 C1, .bool O1]) ∧ Below W.heap.size W w'))
    (HR1 : Hid (∀ (B : Option Addr) (k : Nat) W, RowZ W B n k zs → Calls Tryz.prog 13 #[.string s, .slice B n k] W fun e w' => e = .returned (.int .i64 R1) ∧ Below W.heap.size W w'))
    (HG2 : Hid (∀ (B : Option Addr) (k : Nat) W, K W → RowZ W B 7 k ordL → Calls Tryz.prog 12 #[.string s, .slice B 7 k] W fun e w' => e = .returned (.tuple #[.int .i64 C2, .bool O2]) ∧ Below W.heap.size W w'))
    (HR2 : Hid (∀ (B : Option Addr) (k : Nat) W, RowZ W B 7 k ordL → Calls Tryz.prog 13 #[.string s, .slice B 7 k] W fun e w' => e = .returned (.int .i64 R2) ∧ Below W.heap.size W w')) :
    Calls Tryz.prog 4 #[.string s, .slice A n c] w fun e w' => e = .returned (.bool true) ∧ Below w.heap.size w w' := by
  have HAW := Lib.hid (fun w2 h2 => awake_any L w2 h2)
  have HL := Lib.hid L.stay
  have HO := Lib.hid L.order
  have HRO := Lib.hid (fun W => refOrder_any W)
  have hlen := hr.len
  have HR := Lib.hid hr
  have HK := Lib.hid hK
  have n2 : ¬ (100 : Int) < (s.size : Int) := by omega
  have n3 : ¬ (20 : Int) < (n : Int) := by omega
  clear L hK hr
  go_enter Tryz.func4, Tryz.ntmps4
  go_wp2_with fail
  go_loopw [5, 28] (fun v i wr => ∃ j : Nat, j ≤ n ∧ i = .int .i64 j ∧ Two w wr v (zs.take j) (.slice none 0 0) []) (fun _ i _ => n - (RowKit.intOf i).toNat)
  case atStart => exact ⟨0, Nat.zero_le _, rfl, two_nil w⟩
  case round =>
    obtain ⟨j, hj, rfl, T⟩ := hrel
    have T0 := Lib.hid T
    clear T
    by_cases hlt : j < n
    · obtain ⟨a, rfl, a1, a2, a3⟩ := (HR.out.below T0.out.lt).at j hlt
      unfold maxLen at a2
      have hTS : Hid (zs.take (j + 1) = zs.take j ++ [zs.getD j 0]) := Lib.hid (getD_take zs j (by omega)).1
      have q1 : (zs.take j).length ≤ 1000 := by rw [List.length_take]; omega
      generalize zs.getD j 0 = z at *
      generalize hZ : zs.take j = Z at *
      clear hZ
      go_wp2_with (at_builtin; refine append_z rfl _ _ rfl _ _ _ _ rfl T0.out z rfl q1 ?_; intro v1 w1 T1'; have T1 := Lib.hid T1'; clear T1')
      go_roundw
      case rel => exact ⟨j + 1, by omega, by go_num, by rw [hTS.out]; exact T1.out⟩
      case measure => simp [RowKit.intOf]; omega
    · obtain rfl : j = n := by omega
      have hT2 := T0.out
      rw [List.take_of_length_le (by omega)] at hT2
      obtain ⟨B, k, rfl, hrow⟩ := hT2.a.row
      rw [hlen] at hrow ⊢
      have RB := Lib.hid hrow
      have K0 : Hid (Kb K w wr) := Lib.hid ⟨HL.out _ _ HK.out hT2.lt, hT2.lt⟩
      have RA := Lib.hid (HR.out.below hT2.lt)
      clear T0 hT2 hrow hlt
      rcases g1 with ⟨rfl, rfl, rfl⟩ | ⟨rfl, rfl, h1⟩ <;> rcases g2 with ⟨rfl, rfl, rfl⟩ | ⟨rfl, rfl, h2⟩
      all_goals
        go_wp2_with (first
          | (go_at_call 15; refine (HRO.out _).mono ?_; rintro e4 w4 ⟨A4, k4, rfl, r4, hb4⟩; have K4 := Lib.hid (K3.out.below HL.out hb4); have Q3 := Lib.hid (Q3.out.below hb4); have Q4 := Lib.hid r4; clear hb4 r4)
          | (go_at_call 14; refine (HO.out _ K2.out.k).mono ?_; rintro e3 w3 ⟨A3, k3, rfl, r3, hb3⟩; have K3 := Lib.hid (K2.out.below HL.out hb3); have Q3 := Lib.hid r3; clear hb3 r3)
          | (go_at_call 13; refine (HR1.out _ _ _ RA1.out).mono ?_; rintro e2 w2 ⟨rfl, hb2⟩; have K2 := Lib.hid (K1.out.below HL.out hb2); clear hb2)
          | (go_at_call 12; refine (HG1.out _ _ _ K0.out.k RB.out).mono ?_; rintro e1 w1 ⟨rfl, hb1⟩; have K1 := Lib.hid (K0.out.below HL.out hb1); have RA1 := Lib.hid (RA.out.below hb1); clear hb1))
      all_goals
        go_loopw [69] (fun t wr2 => ∃ i : Nat, i ≤ 7 ∧ t = .int .i64 i ∧ Kb K w wr2 ∧ RowZ wr2 A3 7 k3 ordL ∧ RowZ wr2 A4 7 k4 ordL) (fun t _ => 7 - (RowKit.intOf t).toNat)
      all_goals
        first
          | (case atStart => exact ⟨0, by omega, rfl, K4.out, Q3.out, Q4.out⟩)
          | skip
      all_goals
        obtain ⟨i, hi, rfl, hkb, hq3, hq4⟩ := hrel
        have KX := Lib.hid hkb; have X3 := Lib.hid hq3; have X4 := Lib.hid hq4
        clear hkb hq3 hq4
        by_cases hlt : i < 7
        · obtain ⟨a3, rfl, u1, u2, u3⟩ := X3.out.at i hlt
          obtain ⟨a4, rfl, v1, v2, v3⟩ := X4.out.at i hlt
          unfold maxLen at u2 v2
          generalize ordL.getD i 0 = z at *
          have i0 : (0 : Int) ≤ (i : Int) := by omega
          have i1 : (i : Int) < 7 := by omega
          go_wp2_with fail
          go_roundw
          case rel => exact ⟨i + 1, by omega, by go_num, KX.out, X3.out, X4.out⟩
          case measure => simp [RowKit.intOf]; omega
        · obtain rfl : i = 7 := by omega
          clear hlt
          go_wp2_with (first
            | (go_at_call 9; refine (HAW.out _ Y3.out.k).mono ?_; rintro e8 w8 ⟨rfl, hb8⟩; have Y4 := Lib.hid (Y3.out.below HL.out hb8); clear hb8)
            | (go_at_call 13; refine (HR2.out _ _ _ Q7.out).mono ?_; rintro e7 w7 ⟨rfl, hb7⟩; have Y3 := Lib.hid (Y2.out.below HL.out hb7); clear hb7)
            | (go_at_call 15; refine (HRO.out _).mono ?_; rintro e6 w6 ⟨A6, k6, rfl, r6, hb6⟩; have Y2 := Lib.hid (Y1.out.below HL.out hb6); have Q7 := Lib.hid r6; clear hb6 r6)
            | (go_at_call 12; refine (HG2.out _ _ _ KX.out.k X3.out).mono ?_; rintro e5 w5 ⟨rfl, hb5⟩; have Y1 := Lib.hid (KX.out.below HL.out hb5); clear hb5))
          go_ret
          exact ⟨rfl, Y4.out.b⟩
theorem guesses_walk {K : World → Prop} (L : De K) (s : ByteArray) (A : Option Addr) (n c : Nat) (zs : List Int) (w : World) (hK : K w) (hs : s.size ≤ maxLen) (hn : n ≤ 9223372036854775807) (hr : RowZ w A n c zs) (hz : ∀ z ∈ zs, -9223372036854775808 ≤ z ∧ z ≤ 9223372036854775807) : Calls Tryz.prog 4 #[.string s, .slice A n c] w fun e w' => e = .returned (.bool true) ∧ Below w.heap.size w w' := by
  by_cases h : 100 < s.size ∨ 20 < n
  · exact guesses_out L s A n c w hK hs hn h
  · exact guesses_core L s A n c zs w hK (by omega) (by omega) hr _ _ _ _ _ _ (gs_of s zs) (gs_of s ordL)
      (Lib.hid fun B k W hk h2 => L.guess s zs B n k W hk (by omega) (by omega) h2 hz)
      (Lib.hid fun B k W h2 => refGuess_any s zs B n k W (by omega) (by omega) h2)
      (Lib.hid fun B k W hk h2 => L.guess s ordL B 7 k W hk (by omega) (by omega) h2 (by decide))
      (Lib.hid fun B k W h2 => refGuess_any s ordL B 7 k W (by omega) (by omega) h2)
end Go.Proofs.YtiigknimfibdpaaGreatDoor.de
