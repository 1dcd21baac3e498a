/- Several texts in one. -/
import Derived.Test.YtbgbgigpcegenaaGreatDoorZ29
import Derived.Maps.AppendAt
import Derived.Laws.AppendOwnNone
namespace Go.Proofs.YtbgbgigpcegenaaGreatDoor.ch
open Go.RowKit Go.Lib
set_option linter.unusedVariables false
/-- A slice of ints, none or a row. -/
def RowZ (w : World) (p : Option Addr) (len cap : Nat) (zs : List Int) : Prop :=
  (p = none ∧ len = 0 ∧ cap = 0 ∧ zs = []) ∨ ∃ a, p = some a ∧ len ≤ cap ∧ cap ≤ maxLen ∧ zs.length = len ∧ ∀ i, i < len → w.cell? (a.add i) = some (.int .i64 (zs.getD i 0))
theorem RowZ.len {w : World} {p : Option Addr} {len cap : Nat} {zs : List Int} (h : RowZ w p len cap zs) : zs.length = len := by
  rcases h with ⟨_, h1, _, h2⟩ | ⟨a, _, _, _, h, _⟩
  · rw [h1, h2]; rfl
  · exact h
theorem RowZ.below {w w' : World} {p : Option Addr} {len cap : Nat} {zs : List Int} (h : RowZ w p len cap zs) (hb : Below w.heap.size w w') : RowZ w' p len cap zs := by
  rcases h with h | ⟨a, h1, h2, h3, h4, h5⟩
  · exact .inl h
  · exact .inr ⟨a, h1, h2, h3, h4, fun i hi => (hb.cell (World.block_lt_of_cell? w _ (h5 i hi))).trans (h5 i hi)⟩
theorem RowZ.at {w : World} {p : Option Addr} {len cap : Nat} {zs : List Int} (h : RowZ w p len cap zs) (i : Nat) (hi : i < len) : ∃ a, p = some a ∧ len ≤ cap ∧ cap ≤ maxLen ∧ w.cell? (a.add i) = some (.int .i64 (zs.getD i 0)) := by
  rcases h with ⟨_, h1, _, _⟩ | ⟨a, h1, h2, h3, _, h5⟩
  · omega
  · exact ⟨a, h1, h2, h3, h5 i hi⟩
/-- The cells of some numbers. -/
def nv (l : List Int) : List Value := l.map (Value.int .i64)
theorem nv_snoc (l : List Int) (z : Int) : nv l ++ [.int .i64 z] = nv (l ++ [z]) := by simp [nv]
/-- A row of the call's own. -/
def Rz (w : World) (B : Nat) (v : Value) (l : List Int) : Prop := w.ownsRow B 25 1 v l.length (nv l)
theorem rz_nil (w : World) (B : Nat) : Rz w B (.slice none 0 0) [] := ⟨rfl, .inl ⟨rfl, rfl⟩⟩
theorem Rz.row {w : World} {B : Nat} {v : Value} {L : List Int} (h : Rz w B v L) : ∃ A c, v = .slice A L.length c ∧ RowZ w A L.length c L := by
  obtain ⟨h1, ⟨rfl, h3⟩ | ⟨g, cap, cur, rfl, hb, hg, hn, hm, hs, ht⟩⟩ := h
  · rw [h3]; exact ⟨none, 0, rfl, .inl ⟨rfl, rfl, rfl, by rw [List.length_eq_zero_iff.1 h3]⟩⟩
  · refine ⟨_, cap, rfl, .inr ⟨⟨g, 0, none⟩, rfl, hn, hm, rfl, fun i hi => ?_⟩⟩
    have e : (⟨g, 0, none⟩ : Addr).add i = ⟨g, i, none⟩ := by unfold Addr.add; by_cases h : i = 0 <;> simp [h]
    have hu : (nv L)[i]? = some (.int .i64 (L.getD i 0)) := by simp [nv, List.getElem?_eq_getElem hi, List.getD]
    rw [e]
    rw [← ht, List.getElem?_take, if_pos (by omega), Array.getElem?_toList] at hu
    simp only [World.cell?, hg, Option.isSome_none, Bool.false_eq_true, if_false]
    exact hu
theorem Rz.below {w w' : World} {B : Nat} {v : Value} {l : List Int} (h : Rz w B v l) (hb : Below w.heap.size w w') : Rz w' B v l := pt.owns_below h hb
/-- Two rows of the call's own, apart. -/
structure Two (w0 w : World) (v : Value) (l : List Int) (u : Value) (m : List Int) : Prop where
  a : Rz w w0.heap.size v l
  b : Rz w w0.heap.size u m
  ne : v.ownBlock = none ∨ v.ownBlock ≠ u.ownBlock
  lt : Below w0.heap.size w0 w
theorem two_nil (w : World) : Two w w (.slice none 0 0) [] (.slice none 0 0) [] := ⟨rz_nil _ _, rz_nil _ _, .inl rfl, Below.refl _ _⟩
theorem Two.below {w0 w w' : World} {v u : Value} {l m : List Int} (h : Two w0 w v l u m) (hb : Below w.heap.size w w') : Two w0 w' v l u m := ⟨h.a.below hb, h.b.below hb, h.ne, h.lt.trans (hb.mono h.lt.size)⟩
theorem Two.swap {w0 w : World} {v u : Value} {l m : List Int} (h : Two w0 w v l u m) : Two w0 w u m v l := ⟨h.b, h.a, by
  rcases h.ne with h1 | h1
  · cases hu : u.ownBlock with
    | none => exact .inl rfl
    | some g => right; rw [h1]; simp
  · exact .inr (fun e => h1 e.symm), h.lt⟩
theorem own_lt {w : World} {B : Nat} {v : Value} {l : List Int} (h : Rz w B v l) (g : Nat) (hg : v.ownBlock = some g) : g < w.heap.size := (World.ownsRow.lt h g hg).2
/-- One number more in the first. -/
theorem append_z {ops : Array Oper} {rest : List Oper} {o : Oper} {a : Act} {Q : Exit → Act → World → Prop} {w0 w : World} (hgd : o.guard = none) (s x : Operand)
    (ho : o.op = .call { callee := .builtin .append, args := #[s, x], argTypes := #[24, 24] }) (v u : Value) (l m : List Int) (hs : a.eval s = v) (T : Two w0 w v l u m) (z : Int)
    (hx : a.eval x = .slice (some ⟨w.heap.size, 0, none⟩) 1 1) (hlen : l.length ≤ 1000)
    (h : ∀ v' w', Two w0 w' v' (l ++ [z]) u m → wpList Tryz.prog ops Q rest (a.put o.dst v') w') : wpList Tryz.prog ops Q (o :: rest) a (w.alloc (.cells #[.int .i64 z] 25)) := by
  obtain ⟨i0, hi0, hzz⟩ := Option.map_eq_some_iff.1 (show (Tryz.prog.info? 25).map (fun i => (i.zero, i.size, i.bytes)) = some (some (.int .i64 0), 1, 8) by kernel_rfl)
  simp only [Prod.mk.injEq] at hzz
  obtain ⟨hz, hsi, hby⟩ := hzz
  have hB : w0.heap.size ≤ w.heap.size := T.lt.size
  have hal : Below w.heap.size w (w.alloc (.cells #[.int .i64 z] 25)) := (Below.refl _ _).alloc (Nat.le_refl _) _
  have T1 := T.below hal
  refine wpList_append_own_at _ hgd s x 24 ho w0.heap.size 25 i0 _ 1 8 Tryz.underlying24 hi0 hz hsi hby rfl (by decide) v _ _ hs T1.a ⟨w.heap.size, 0, none⟩ 1 1 [.int .i64 z] hx rfl ?_ ?_ (by unfold maxLen; omega) (by omega) (by simp; omega) ?_
  · intro j u hj
    match j, hj with
    | 0, hj =>
      simp at hj
      subst hj
      have e : (⟨w.heap.size, 0, none⟩ : Addr).add 0 = ⟨w.heap.size, 0, none⟩ := by simp [Addr.add]
      rw [e, World.cell?_alloc_mark]; rfl
    | (j + 1), hj => simp at hj
  · intro u hu; simp at hu; subst hu; rfl
  · intro v' w' h1 h2 _ h4
    have hne : u.ownBlock = none ∨ u.ownBlock ≠ v.ownBlock := T.swap.ne
    refine h v' w' ⟨?_, T1.b.kept h2 hne, ?_, pt.below_grown T.lt hB T.a h2⟩
    · unfold Rz
      rw [← nv_snoc, List.length_append]
      exact h1
    · rcases h4 with h4 | h4
      · rw [h4]; exact T.ne
      · right
        rw [h4]
        intro e
        have := own_lt T.b _ e.symm
        simp at this; omega
end Go.Proofs.YtbgbgigpcegenaaGreatDoor.ch
namespace Go.Proofs.YtbgbgigpcegenaaGreatDoor.ch
open Go.RowKit Go.Lib
set_option linter.unusedVariables false
/-- Those in which bytes are a text. -/
def tryZ (s : ByteArray) (zs : List Int) : List Int := zs.filter fun c => dcE c s == 0
theorem tryZ_snoc (s : ByteArray) (zs : List Int) (c : Int) : tryZ s (zs ++ [c]) = if dcE c s = 0 then tryZ s zs ++ [c] else tryZ s zs := by
  unfold tryZ
  rw [List.filter_append]
  by_cases h : dcE c s = 0
  · rw [if_pos h]; simp [h]
  · rw [if_neg h]; simp [h]
theorem tryZ_le (s : ByteArray) (zs : List Int) : (tryZ s zs).length ≤ zs.length := List.length_filter_le _ _
/-- What this walk asks, beyond 'Ch'. -/
structure ChT (K : World → Prop) : Prop where
  t : ∀ (s : ByteArray) (zs : List Int) (A : Option Addr) (n c : Nat) w, K w → s.size ≤ 100 → n ≤ 30 → RowZ w A n c zs → (∀ z ∈ zs, -9223372036854775808 ≤ z ∧ z ≤ 9223372036854775807) → Calls Tryz.prog 8 #[.string s, .slice A n c] w fun e w' => ∃ A' c', e = .returned (.slice A' (tryZ s zs).length c') ∧ RowZ w' A' (tryZ s zs).length c' (tryZ s zs) ∧ Below w.heap.size w w'
set_option maxRecDepth 100000 in
set_option maxHeartbeats 4000000 in
theorem tries_out {K : World → Prop} (L : Ch K) (s : ByteArray) (A : Option Addr) (n c : Nat) (w : World) (hK : K w) (hs : s.size ≤ maxLen) (hn : n ≤ 9223372036854775807) (h : 100 < s.size ∨ 30 < n) : Calls Tryz.prog 3 #[.string s, .slice A n c] w fun e w' => e = .returned (.bool true) ∧ Below w.heap.size w w' := by
  have HAW := Lib.hid (awake_any L w hK)
  unfold maxLen at hs
  clear L hK
  have hh : ((100 : Int) < s.size) ∨ (¬ ((100 : Int) < s.size) ∧ (30 : Int) < n) := by omega
  clear h
  rcases hh with h | ⟨h1, h2⟩
  all_goals
    go_enter Tryz.func3, Tryz.ntmps3
    go_wp2_with (go_at_call 6; refine (HAW.out).mono ?_; rintro e2 w2 ⟨rfl, hb2⟩)
    go_ret
    exact ⟨rfl, hb2⟩
set_option maxRecDepth 100000 in
set_option maxHeartbeats 8000000 in
theorem tries_in {K : World → Prop} (L : Ch K) (LT : ChT K) (s : ByteArray) (A : Option Addr) (n c : Nat) (zs : List Int) (w : World) (hK : K w) (hs : s.size ≤ 100) (hn : n ≤ 30) (hr : RowZ w A n c zs) (hz : ∀ z ∈ zs, -9223372036854775808 ≤ z ∧ z ≤ 9223372036854775807) : Calls Tryz.prog 3 #[.string s, .slice A n c] w fun e w' => e = .returned (.bool true) ∧ Below w.heap.size w w' := by
  have HAW := Lib.hid (fun w2 h2 => awake_any L w2 h2)
  have HL := Lib.hid L.stay
  have HDC := Lib.hid (fun c W => refDecode9_any c s W (by omega))
  unfold DcP at HDC
  have hlen := hr.len
  have HTR := Lib.hid (fun (B : Option Addr) (k : Nat) W (hk : K W) (h : RowZ W B n k zs) => LT.t s zs B n k W hk hs hn h hz)
  have HR := Lib.hid hr
  have HK := Lib.hid hK
  have n2 : ¬ (100 : Int) < (s.size : Int) := by omega
  have n3 : ¬ (30 : Int) < (n : Int) := by omega
  clear L LT hK hr hz
  go_enter Tryz.func3, Tryz.ntmps3
  go_wp2_with fail
  go_loopw [5, 6, 25] (fun v u i wr => ∃ j : Nat, j ≤ n ∧ i = .int .i64 j ∧ Two w wr v (zs.take j) u (tryZ s (zs.take j))) (fun _ _ i _ => n - (RowKit.intOf i).toNat)
  case atStart => exact ⟨0, Nat.zero_le _, rfl, two_nil w⟩
  case round =>
    obtain ⟨j, hj, rfl, T⟩ := hrel
    have T0 := Lib.hid T
    clear T
    by_cases hlt : j < n
    · obtain ⟨a, rfl, a1, a2, a3⟩ := (HR.out.below T0.out.lt).at j hlt
      unfold maxLen at a2
      have hTS : Hid (zs.take (j + 1) = zs.take j ++ [zs.getD j 0]) := Lib.hid (by
        rw [List.take_add_one]
        simp [List.getD, List.getElem?_eq_getElem (show j < zs.length by omega)])
      have HTZ : Hid (tryZ s (zs.take (j + 1)) = if dcE (zs.getD j 0) s = 0 then tryZ s (zs.take j) ++ [zs.getD j 0] else tryZ s (zs.take j)) := Lib.hid (by rw [hTS.out, tryZ_snoc])
      have q1 : (zs.take j).length ≤ 1000 := by rw [List.length_take]; omega
      have q2 : (tryZ s (zs.take j)).length ≤ 1000 := Nat.le_trans (tryZ_le _ _) q1
      have HD := Lib.hid (fun W => HDC.out (zs.getD j 0) W)
      generalize zs.getD j 0 = z at *
      generalize hY : tryZ s (zs.take j) = Y at *
      generalize hZ : zs.take j = Z at *
      clear hY hZ
      by_cases hd : dcE z s = 0
      · have HTZ2 : Hid (tryZ s (zs.take (j + 1)) = Y ++ [z]) := Lib.hid (by rw [HTZ.out, if_pos hd])
        rw [hd] at HD
        clear hd HTZ
        go_wp2_with (first
          | (at_builtin; refine append_z rfl _ _ rfl _ _ _ _ rfl T2.out z rfl q2 ?_; intro v3 w3 T3'; have T3 := Lib.hid T3'.swap; clear T3')
          | (at_builtin; refine append_z rfl _ _ rfl _ _ _ _ rfl T0.out z rfl q1 ?_; intro v1 w1 T1'; have T1 := Lib.hid T1'; clear T1')
          | (go_at_call 7; refine (HD.out _).mono ?_; rintro e2 w2 ⟨rfl, hb2⟩; have T2 := Lib.hid (T1.out.below hb2).swap; clear hb2))
        go_roundw
        case rel => exact ⟨j + 1, by omega, by go_num, by rw [HTZ2.out, hTS.out]; exact T3.out⟩
        case measure => simp [RowKit.intOf]; omega
      · have HTZ2 : Hid (tryZ s (zs.take (j + 1)) = Y) := Lib.hid (by rw [HTZ.out, if_neg hd])
        clear HTZ
        generalize dcE z s = E at *
        go_wp2_with (first
          | (at_builtin; refine append_z rfl _ _ rfl _ _ _ _ rfl T0.out z rfl q1 ?_; intro v1 w1 T1'; have T1 := Lib.hid T1'; clear T1')
          | (go_at_call 7; refine (HD.out _).mono ?_; rintro e2 w2 ⟨rfl, hb2⟩; have T2 := Lib.hid (T1.out.below hb2); clear hb2))
        go_roundw
        case rel => exact ⟨j + 1, by omega, by go_num, by rw [HTZ2.out, hTS.out]; exact T2.out⟩
        case measure => simp [RowKit.intOf]; omega
    · obtain rfl : j = n := by omega
      have hT2 := T0.out
      rw [List.take_of_length_le (by omega)] at hT2
      obtain ⟨A1, c1, rfl, r1⟩ := hT2.a.row
      obtain ⟨A2, c2, rfl, r2⟩ := hT2.b.row
      have hK1 := HL.out _ _ HK.out hT2.lt
      have B1 := Lib.hid hT2.lt
      subst hlen
      have m1 : (tryZ s zs).length ≤ zs.length := tryZ_le s zs
      have HT := Lib.hid (HTR.out _ _ _ hK1 r1)
      have R2 := Lib.hid r2
      clear hT2 hK1 r1 r2 T0 HTR hlt hj HDC HR
      generalize tryZ s zs = M at *
      go_wp2_with (go_at_call 8; refine HT.out.mono ?_; rintro e3 w3 ⟨A3, c3, rfl, r3, hb3⟩; have R3 := Lib.hid r3; have R2 := Lib.hid (R2.out.below hb3); have B3 := Lib.hid (B1.out.trans (hb3.mono B1.out.size)); clear r3 hb3)
      have K3 := Lib.hid (HL.out _ _ HK.out B3.out)
      go_loopw [57] (fun i wx => ∃ j : Nat, j ≤ M.length ∧ i = .int .i64 j ∧ Below w3.heap.size w3 wx) (fun i _ => M.length - (RowKit.intOf i).toNat)
      case atStart => exact ⟨0, Nat.zero_le _, rfl, Below.refl _ _⟩
      case round =>
        obtain ⟨k, hk, rfl, hB⟩ := hrel
        have HB := Lib.hid hB
        clear hB
        by_cases hlt : k < M.length
        · obtain ⟨a, rfl, a1, a2, a3⟩ := (R3.out.below HB.out).at k hlt
          obtain ⟨b, rfl, b1, b2, b3⟩ := (R2.out.below HB.out).at k hlt
          unfold maxLen at a2 b2
          generalize M.getD k 0 = x at a3 b3
          go_wp2_with fail
          go_quiet (fail)
          all_goals go_wp2_with fail
          go_roundw
          case rel => exact ⟨k + 1, by omega, by go_num, below_drewN HB.out nq⟩
          case measure => simp [RowKit.intOf]; omega
        · obtain rfl : k = M.length := by omega
          clear hlt
          have hB9 := B3.out.trans (HB.out.mono B3.out.size)
          have HB9 := Lib.hid hB9
          have K9 := Lib.hid (HL.out _ _ HK.out hB9)
          clear hB9
          go_wp2_with (go_at_call 6; refine (HAW.out _ K9.out).mono ?_; rintro e4 w4 ⟨rfl, hb4⟩)
          go_ret
          exact ⟨rfl, HB9.out.trans (hb4.mono HB9.out.size)⟩
theorem tries_walk {K : World → Prop} (L : Ch K) (LT : ChT K) (s : ByteArray) (A : Option Addr) (n c : Nat) (zs : List Int) (w : World) (hK : K w) (hs : s.size ≤ maxLen) (hn : n ≤ 9223372036854775807) (hr : RowZ w A n c zs) (hz : ∀ z ∈ zs, -9223372036854775808 ≤ z ∧ z ≤ 9223372036854775807) : Calls Tryz.prog 3 #[.string s, .slice A n c] w fun e w' => e = .returned (.bool true) ∧ Below w.heap.size w w' := by
  by_cases h : 100 < s.size ∨ 30 < n
  · exact tries_out L s A n c w hK hs hn h
  · exact tries_in L LT s A n c zs w hK (by omega) (by omega) hr hz
end Go.Proofs.YtbgbgigpcegenaaGreatDoor.ch
namespace Go.Proofs.YtbgbgigpcegenaaGreatDoor.ch
open Go.RowKit Go.Lib
set_option linter.unusedVariables false
/-- A capital as a small letter. -/
def lowb (n : Nat) : Nat := if 65 ≤ n ∧ n ≤ 90 then n + 32 else n
end Go.Proofs.YtbgbgigpcegenaaGreatDoor.ch
