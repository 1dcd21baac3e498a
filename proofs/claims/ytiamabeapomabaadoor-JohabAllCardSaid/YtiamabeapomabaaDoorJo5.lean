/- The landed johab: what its table of kinds holds; the number of a code: contracts. -/
import Derived.Test.YtiamabeapomabaaDoorJo3
import Derived.Test.YtiamabeapomabaaDoorShelf
import Derived.Laws.BitsLemmas
namespace Go.Proofs.YtiamabeapomabaaDoor.jo
open Go.RowKit Go.Lib
set_option linter.unusedVariables false
def K0 : ByteArray := ⟨#[1, 2, 3, 4, 5, 6, 7, 8, 9, 10, 11, 12, 13, 14, 15, 16, 17, 18, 19, 20]⟩
def K1 : ByteArray := ⟨#[2, 3, 4, 5, 6, 7, 10, 11, 12, 13, 14, 15, 18, 19, 20, 21, 22, 23, 26, 27, 28, 29]⟩
def K2 : ByteArray := ⟨#[1, 2, 3, 4, 5, 6, 7, 8, 9, 10, 11, 12, 13, 14, 15, 16, 17, 19, 20, 21, 22, 23, 24, 25, 26, 27, 28, 29]⟩
/-- The table of kinds holds what the text lays. -/
structure KD (w : World) : Prop where
  c0 : w.cell? ⟨0, 0, none⟩ = some (.string K0)
  c1 : w.cell? ⟨0, 1, none⟩ = some (.int .i64 (-1))
  c2 : w.cell? ⟨0, 2, none⟩ = some (.int .i64 10)
  c3 : w.cell? ⟨0, 3, none⟩ = some (.string K1)
  c4 : w.cell? ⟨0, 4, none⟩ = some (.int .i64 (-1))
  c5 : w.cell? ⟨0, 5, none⟩ = some (.int .i64 5)
  c6 : w.cell? ⟨0, 6, none⟩ = some (.string K2)
  c7 : w.cell? ⟨0, 7, none⟩ = some (.int .i64 0)
  c8 : w.cell? ⟨0, 8, none⟩ = some (.int .i64 0)
theorem KD.lt {w : World} (h : KD w) : 0 < w.heap.size := by
  have h0 := h.c0
  rcases Nat.eq_zero_or_pos w.heap.size with h1 | h1
  · exfalso
    have : w.heap[0]? = none := Array.getElem?_eq_none (by omega)
    simp [World.cell?, this] at h0
  · exact h1
theorem KD.below {w w' : World} (h : KD w) {B : Nat} (hb : Below B w w') (hB : 0 < B) : KD w' :=
  ⟨(hb.cell (p := ⟨0, 0, none⟩) hB).trans h.c0, (hb.cell (p := ⟨0, 1, none⟩) hB).trans h.c1, (hb.cell (p := ⟨0, 2, none⟩) hB).trans h.c2, (hb.cell (p := ⟨0, 3, none⟩) hB).trans h.c3, (hb.cell (p := ⟨0, 4, none⟩) hB).trans h.c4, (hb.cell (p := ⟨0, 5, none⟩) hB).trans h.c5, (hb.cell (p := ⟨0, 6, none⟩) hB).trans h.c6, (hb.cell (p := ⟨0, 7, none⟩) hB).trans h.c7, (hb.cell (p := ⟨0, 8, none⟩) hB).trans h.c8⟩
theorem KD.stay {w w' : World} (h : KD w) (hb : Below w.heap.size w w') : KD w' := h.below hb h.lt
/-- A store elsewhere. -/
theorem KD.set {w : World} (h : KD w) (p : Addr) (v : Value) (hp : 0 < p.block) : KD (w.setCell p v) := h.below ((Below.refl 1 w).setCell (by omega) v) (by omega)
theorem and31 (x : Int) (h0 : 0 ≤ x) (h1 : x < 65536) : bits .and .i64 x 31 = x % 32 := bits_mask .i64 31 (by decide) (fun n a b => wrap64 (by omega) (by omega)) 5 (by decide) x h0 (by omega)
theorem all_top : (List.range 256).all (fun a => (List.range 256).all fun b => decide ((a * 256 + b) &&& 32768 = if a * 256 + b < 32768 then 0 else 32768)) = true := by decide +kernel
theorem nat_top (c : Nat) (h : c < 65536) : c &&& 32768 = if c < 32768 then 0 else 32768 := by
  have h2 := List.all_eq_true.1 all_top (c / 256) (List.mem_range.2 (by omega))
  have h3 := List.all_eq_true.1 h2 (c % 256) (List.mem_range.2 (by omega))
  rw [decide_eq_true_eq, show c / 256 * 256 + c % 256 = c by omega] at h3
  exact h3
theorem and_top (c : Nat) (h : c < 65536) : bits .and .i64 (c : Int) 32768 = if c < 32768 then 0 else 32768 := by
  have := (bits_nat .i64 31 (by decide) (fun n a b => wrap64 (by omega) (by omega)) c 32768 (by omega) (by omega)).1
  rw [nat_top c h] at this
  rw [show (32768 : Int) = ((32768 : Nat) : Int) from rfl, this]
  split <;> rfl
/-- What the codes tell: initials, medials, finals. -/
def nm0 (c : Nat) : Option Int := if c = 0 ∨ 20 < c then none else some ((c : Int) - 2)
def nm1 (c : Nat) : Option Int := if med c = 98 then none else some (nI (med c))
def nm2 (c : Nat) : Option Int := if fin c = 98 then none else some (nI (fin c))
/-- Where it stands in the row of a kind's codes. -/
def ixOf (f : Int) : Option Int → Int
  | none => -1
  | some v => v - f
def nmV : Option Int → Value
  | none => .tuple #[.int .i64 0, .bool false]
  | some v => .tuple #[.int .i64 v, .bool true]
theorem ix0 : ∀ c < 32, Lib.indexByte K0.data.toList (((c : Nat) : Int).toNat.toUInt8) = ixOf (-1) (nm0 c) := by decide +kernel
theorem ix1 : ∀ c < 32, Lib.indexByte K1.data.toList (((c : Nat) : Int).toNat.toUInt8) = ixOf (-1) (nm1 c) := by decide +kernel
theorem ix2 : ∀ c < 32, Lib.indexByte K2.data.toList (((c : Nat) : Int).toNat.toUInt8) = ixOf 0 (nm2 c) := by decide +kernel
theorem nm0_le : ∀ c < 32, ∀ v, nm0 c = some v → -1 ≤ v ∧ v ≤ 30 := by
  have : ∀ c < 32, (nm0 c).all (fun v => decide (-1 ≤ v ∧ v ≤ 30)) = true := by decide
  intro c hc v h; have := this c hc; rw [h] at this; simpa using this
theorem nm1_le : ∀ c < 32, ∀ v, nm1 c = some v → -1 ≤ v ∧ v ≤ 30 := by
  have : ∀ c < 32, (nm1 c).all (fun v => decide (-1 ≤ v ∧ v ≤ 30)) = true := by decide
  intro c hc v h; have := this c hc; rw [h] at this; simpa using this
theorem nm2_le : ∀ c < 32, ∀ v, nm2 c = some v → 0 ≤ v ∧ v ≤ 30 := by
  have : ∀ c < 32, (nm2 c).all (fun v => decide (0 ≤ v ∧ v ≤ 30)) = true := by decide
  intro c hc v h; have := this c hc; rw [h] at this; simpa using this
def IxC (K : ByteArray) (c D : Int) : Prop := ∀ w2, Calls Tryd.prog 28 #[.string K, .int .u8 c] w2 fun e w' => e = .returned (.int .i64 D) ∧ w2 = w'
theorem ixC (K : ByteArray) (c D : Int) (h : Lib.indexByte K.data.toList c.toNat.toUInt8 = D) : IxC K c D := fun w2 => (Tryd.strings_IndexByte K c w2).mono fun e w' h2 => ⟨by rw [h2.1, h], h2.2.symm⟩
set_option maxRecDepth 100000 in
set_option maxHeartbeats 1000000 in
theorem number0 (c : Nat) (w : World) (hc : c < 32) (hK : KD w) : Calls Tryd.prog 24 #[.int .i64 0, .int .i64 c] w fun e w' => e = .returned (nmV (nm0 c)) ∧ Below w.heap.size w w' := by
  have HX := Lib.hid (ixC K0 c _ (ix0 c hc))
  have HL := Lib.hid (nm0_le c hc)
  obtain ⟨c0, c1, c2, c3, c4, c5, c6, c7, c8⟩ := hK
  have g0 : (0 : Int) ≤ (c : Int) := by omega
  have g1 : (c : Int) < 32 := by omega
  generalize nm0 c = o at *
  cases o with
  | none =>
    replace HX : Hid (IxC K0 c (-1)) := HX
    clear HL
    go_enter Tryd.func24, Tryd.ntmps24
    go_wp2_with (go_at_call 28; refine (HX.out _).mono ?_; rintro e2 w2 ⟨rfl, rfl⟩)
    go_ret2
    exact ⟨rfl, Below.refl _ _⟩
  | some v =>
    obtain ⟨v0, v1⟩ := HL.out v rfl
    obtain ⟨D, hD⟩ : ∃ D, D = v - (-1) := ⟨_, rfl⟩
    replace HX : Hid (IxC K0 c D) := by rw [hD]; exact HX
    have hv : Hid (v = (-1) + D) := Lib.hid (by omega)
    have d0 : 0 ≤ D := by omega
    have d1 : D ≤ 31 := by omega
    clear HL hD v0 v1
    go_enter Tryd.func24, Tryd.ntmps24
    go_wp2_with (go_at_call 28; refine (HX.out _).mono ?_; rintro e2 w2 ⟨rfl, rfl⟩)
    go_ret2
    exact ⟨by rw [hv.out]; first | rfl | (simp [nmV]), Below.refl _ _⟩
set_option maxRecDepth 100000 in
set_option maxHeartbeats 1000000 in
theorem number1 (c : Nat) (w : World) (hc : c < 32) (hK : KD w) : Calls Tryd.prog 24 #[.int .i64 1, .int .i64 c] w fun e w' => e = .returned (nmV (nm1 c)) ∧ Below w.heap.size w w' := by
  have HX := Lib.hid (ixC K1 c _ (ix1 c hc))
  have HL := Lib.hid (nm1_le c hc)
  obtain ⟨c0, c1, c2, c3, c4, c5, c6, c7, c8⟩ := hK
  have g0 : (0 : Int) ≤ (c : Int) := by omega
  have g1 : (c : Int) < 32 := by omega
  generalize nm1 c = o at *
  cases o with
  | none =>
    replace HX : Hid (IxC K1 c (-1)) := HX
    clear HL
    go_enter Tryd.func24, Tryd.ntmps24
    go_wp2_with (go_at_call 28; refine (HX.out _).mono ?_; rintro e2 w2 ⟨rfl, rfl⟩)
    go_ret2
    exact ⟨rfl, Below.refl _ _⟩
  | some v =>
    obtain ⟨v0, v1⟩ := HL.out v rfl
    obtain ⟨D, hD⟩ : ∃ D, D = v - (-1) := ⟨_, rfl⟩
    replace HX : Hid (IxC K1 c D) := by rw [hD]; exact HX
    have hv : Hid (v = (-1) + D) := Lib.hid (by omega)
    have d0 : 0 ≤ D := by omega
    have d1 : D ≤ 31 := by omega
    clear HL hD v0 v1
    go_enter Tryd.func24, Tryd.ntmps24
    go_wp2_with (go_at_call 28; refine (HX.out _).mono ?_; rintro e2 w2 ⟨rfl, rfl⟩)
    go_ret2
    exact ⟨by rw [hv.out]; first | rfl | (simp [nmV]), Below.refl _ _⟩
set_option maxRecDepth 100000 in
set_option maxHeartbeats 1000000 in
theorem number2 (c : Nat) (w : World) (hc : c < 32) (hK : KD w) : Calls Tryd.prog 24 #[.int .i64 2, .int .i64 c] w fun e w' => e = .returned (nmV (nm2 c)) ∧ Below w.heap.size w w' := by
  have HX := Lib.hid (ixC K2 c _ (ix2 c hc))
  have HL := Lib.hid (nm2_le c hc)
  obtain ⟨c0, c1, c2, c3, c4, c5, c6, c7, c8⟩ := hK
  have g0 : (0 : Int) ≤ (c : Int) := by omega
  have g1 : (c : Int) < 32 := by omega
  generalize nm2 c = o at *
  cases o with
  | none =>
    replace HX : Hid (IxC K2 c (-1)) := HX
    clear HL
    go_enter Tryd.func24, Tryd.ntmps24
    go_wp2_with (go_at_call 28; refine (HX.out _).mono ?_; rintro e2 w2 ⟨rfl, rfl⟩)
    go_ret2
    exact ⟨rfl, Below.refl _ _⟩
  | some v =>
    obtain ⟨v0, v1⟩ := HL.out v rfl
    obtain ⟨D, hD⟩ : ∃ D, D = v - 0 := ⟨_, rfl⟩
    replace HX : Hid (IxC K2 c D) := by rw [hD]; exact HX
    have hv : Hid (v = 0 + D) := Lib.hid (by omega)
    have d0 : 0 ≤ D := by omega
    have d1 : D ≤ 31 := by omega
    clear HL hD v0 v1
    go_enter Tryd.func24, Tryd.ntmps24
    go_wp2_with (go_at_call 28; refine (HX.out _).mono ?_; rintro e2 w2 ⟨rfl, rfl⟩)
    go_ret2
    exact ⟨by rw [hv.out]; first | rfl | (simp [nmV]), Below.refl _ _⟩
end Go.Proofs.YtiamabeapomabaaDoor.jo
