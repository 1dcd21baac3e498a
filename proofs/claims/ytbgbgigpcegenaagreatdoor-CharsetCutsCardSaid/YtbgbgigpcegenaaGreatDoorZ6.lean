/- Several texts in one. -/
import Derived.Test.YtbgbgigpcegenaaGreatDoorZ5
import Derived.Test.YtbgbgigpcegenaaGreatDoorZ1
import Derived.Laws.BitsLemmas
import Derived.Test.YtbgbgigpcegenaaGreatDoorZ0
import Derived.Test.YtbgbgigpcegenaaGreatDoorZ3
namespace Go.Proofs.YtbgbgigpcegenaaGreatDoor.jo
open Go.RowKit Go.Lib
set_option linter.unusedVariables false
def K0 : ByteArray := ⟨#[1, 2, 3, 4, 5, 6, 7, 8, 9, 10, 11, 12, 13, 14, 15, 16, 17, 18, 19, 20]⟩
def K1 : ByteArray := ⟨#[2, 3, 4, 5, 6, 7, 10, 11, 12, 13, 14, 15, 18, 19, 20, 21, 22, 23, 26, 27, 28, 29]⟩
def K2 : ByteArray := ⟨#[1, 2, 3, 4, 5, 6, 7, 8, 9, 10, 11, 12, 13, 14, 15, 16, 17, 19, 20, 21, 22, 23, 24, 25, 26, 27, 28, 29]⟩
/-- The table of kinds holds what the text lays. -/
structure KD (w : World) : Prop where
  c0 : w.cell? ⟨1, 0, none⟩ = some (.string K0)
  c1 : w.cell? ⟨1, 1, none⟩ = some (.int .i64 (-1))
  c2 : w.cell? ⟨1, 2, none⟩ = some (.int .i64 10)
  c3 : w.cell? ⟨1, 3, none⟩ = some (.string K1)
  c4 : w.cell? ⟨1, 4, none⟩ = some (.int .i64 (-1))
  c5 : w.cell? ⟨1, 5, none⟩ = some (.int .i64 5)
  c6 : w.cell? ⟨1, 6, none⟩ = some (.string K2)
  c7 : w.cell? ⟨1, 7, none⟩ = some (.int .i64 0)
  c8 : w.cell? ⟨1, 8, none⟩ = some (.int .i64 0)
theorem KD.lt {w : World} (h : KD w) : 1 < w.heap.size := World.block_lt_of_cell? w _ h.c0
theorem KD.below {w w' : World} (h : KD w) {B : Nat} (hb : Below B w w') (hB : 1 < B) : KD w' :=
  ⟨(hb.cell (p := ⟨1, 0, none⟩) hB).trans h.c0, (hb.cell (p := ⟨1, 1, none⟩) hB).trans h.c1, (hb.cell (p := ⟨1, 2, none⟩) hB).trans h.c2, (hb.cell (p := ⟨1, 3, none⟩) hB).trans h.c3, (hb.cell (p := ⟨1, 4, none⟩) hB).trans h.c4, (hb.cell (p := ⟨1, 5, none⟩) hB).trans h.c5, (hb.cell (p := ⟨1, 6, none⟩) hB).trans h.c6, (hb.cell (p := ⟨1, 7, none⟩) hB).trans h.c7, (hb.cell (p := ⟨1, 8, none⟩) hB).trans h.c8⟩
theorem KD.stay {w w' : World} (h : KD w) (hb : Below w.heap.size w w') : KD w' := h.below hb h.lt
/-- A store elsewhere. -/
theorem KD.set {w : World} (h : KD w) (p : Addr) (v : Value) (hp : 1 < p.block) : KD (w.setCell p v) := h.below ((Below.refl (1 + 1) w).setCell (by omega) v) (by omega)
theorem and31 (x : Int) (h0 : 0 ≤ x) (h1 : x < 65536) : bits .and .i64 x 31 = x % 32 := bits_mask .i64 31 (by decide) (fun n a b => wrap64 (by omega) (by omega)) 5 (by decide) x h0 (by omega)
theorem all_top : (List.range 256).all (fun a => (List.range 256).all fun b => decide ((a * 256 + b) &&& 32768 = if a * 256 + b < 32768 then 0 else 32768)) = true := by decide +kernel
theorem nat_top (c : Nat) (h : c < 65536) : c &&& 32768 = if c < 32768 then 0 else 32768 := by
  have h2 := List.all_eq_true.1 all_top (c / 256) (List.mem_range.2 (by omega))
  have h3 := List.all_eq_true.1 h2 (c % 256) (List.mem_range.2 (by omega))
  rw [decide_eq_true_eq, show c / 256 * 256 + c % 256 = c by omega] at h3
  exact h3
theorem and_top (c : Nat) (h : c < 65536) : bits .and .i64 (c : Int) 32768 = if c < 32768 then 0 else 32768 := by
  have := (bits_nat .i64 31 (by decide) (fun n a b => wrap64 (by omega) (by omega)) c 32768 (by omega) (by omega)).1
  rw [nat_top c h] at this
  rw [show (32768 : Int) = ((32768 : Nat) : Int) from rfl, this]
  split <;> rfl
/-- What the codes tell: initials, medials, finals. -/
def nm0 (c : Nat) : Option Int := if c = 0 ∨ 20 < c then none else some ((c : Int) - 2)
def nm1 (c : Nat) : Option Int := if med c = 98 then none else some (nI (med c))
def nm2 (c : Nat) : Option Int := if fin c = 98 then none else some (nI (fin c))
/-- Where it stands in the row of a kind's codes. -/
def ixOf (f : Int) : Option Int → Int
  | none => -1
  | some v => v - f
def nmV : Option Int → Value
  | none => .tuple #[.int .i64 0, .bool false]
  | some v => .tuple #[.int .i64 v, .bool true]
theorem ix0 : ∀ c < 32, Lib.indexByte K0.data.toList (((c : Nat) : Int).toNat.toUInt8) = ixOf (-1) (nm0 c) := by decide +kernel
theorem ix1 : ∀ c < 32, Lib.indexByte K1.data.toList (((c : Nat) : Int).toNat.toUInt8) = ixOf (-1) (nm1 c) := by decide +kernel
theorem ix2 : ∀ c < 32, Lib.indexByte K2.data.toList (((c : Nat) : Int).toNat.toUInt8) = ixOf 0 (nm2 c) := by decide +kernel
theorem nm0_le : ∀ c < 32, ∀ v, nm0 c = some v → -1 ≤ v ∧ v ≤ 30 := by
  have : ∀ c < 32, (nm0 c).all (fun v => decide (-1 ≤ v ∧ v ≤ 30)) = true := by decide
  intro c hc v h; have := this c hc; rw [h] at this; simpa using this
theorem nm1_le : ∀ c < 32, ∀ v, nm1 c = some v → -1 ≤ v ∧ v ≤ 30 := by
  have : ∀ c < 32, (nm1 c).all (fun v => decide (-1 ≤ v ∧ v ≤ 30)) = true := by decide
  intro c hc v h; have := this c hc; rw [h] at this; simpa using this
theorem nm2_le : ∀ c < 32, ∀ v, nm2 c = some v → 0 ≤ v ∧ v ≤ 30 := by
  have : ∀ c < 32, (nm2 c).all (fun v => decide (0 ≤ v ∧ v ≤ 30)) = true := by decide
  intro c hc v h; have := this c hc; rw [h] at this; simpa using this
def IxC (K : ByteArray) (c D : Int) : Prop := ∀ w2, Calls Tryz.prog 176 #[.string K, .int .u8 c] w2 fun e w' => e = .returned (.int .i64 D) ∧ w2 = w'
theorem ixC (K : ByteArray) (c D : Int) (h : Lib.indexByte K.data.toList c.toNat.toUInt8 = D) : IxC K c D := fun w2 => (Tryz.strings_IndexByte K c w2).mono fun e w' h2 => ⟨by rw [h2.1, h], h2.2.symm⟩
set_option maxRecDepth 100000 in
set_option maxHeartbeats 1000000 in
theorem number0 (c : Nat) (w : World) (hc : c < 32) (hK : KD w) : Calls Tryz.prog 141 #[.int .i64 0, .int .i64 c] w fun e w' => e = .returned (nmV (nm0 c)) ∧ Below w.heap.size w w' := by
  have HX := Lib.hid (ixC K0 c _ (ix0 c hc))
  have HL := Lib.hid (nm0_le c hc)
  obtain ⟨c0, c1, c2, c3, c4, c5, c6, c7, c8⟩ := hK
  have g0 : (0 : Int) ≤ (c : Int) := by omega
  have g1 : (c : Int) < 32 := by omega
  generalize nm0 c = o at *
  cases o with
  | none =>
    replace HX : Hid (IxC K0 c (-1)) := HX
    clear HL
    go_enter Tryz.func141, Tryz.ntmps141
    go_wp2_with (go_at_call 176; refine (HX.out _).mono ?_; rintro e2 w2 ⟨rfl, rfl⟩)
    go_ret2
    exact ⟨rfl, Below.refl _ _⟩
  | some v =>
    obtain ⟨v0, v1⟩ := HL.out v rfl
    obtain ⟨D, hD⟩ : ∃ D, D = v - (-1) := ⟨_, rfl⟩
    replace HX : Hid (IxC K0 c D) := by rw [hD]; exact HX
    have hv : Hid (v = (-1) + D) := Lib.hid (by omega)
    have d0 : 0 ≤ D := by omega
    have d1 : D ≤ 31 := by omega
    clear HL hD v0 v1
    go_enter Tryz.func141, Tryz.ntmps141
    go_wp2_with (go_at_call 176; refine (HX.out _).mono ?_; rintro e2 w2 ⟨rfl, rfl⟩)
    go_ret2
    exact ⟨by rw [hv.out]; first | rfl | (simp [nmV]), Below.refl _ _⟩
set_option maxRecDepth 100000 in
set_option maxHeartbeats 1000000 in
theorem number1 (c : Nat) (w : World) (hc : c < 32) (hK : KD w) : Calls Tryz.prog 141 #[.int .i64 1, .int .i64 c] w fun e w' => e = .returned (nmV (nm1 c)) ∧ Below w.heap.size w w' := by
  have HX := Lib.hid (ixC K1 c _ (ix1 c hc))
  have HL := Lib.hid (nm1_le c hc)
  obtain ⟨c0, c1, c2, c3, c4, c5, c6, c7, c8⟩ := hK
  have g0 : (0 : Int) ≤ (c : Int) := by omega
  have g1 : (c : Int) < 32 := by omega
  generalize nm1 c = o at *
  cases o with
  | none =>
    replace HX : Hid (IxC K1 c (-1)) := HX
    clear HL
    go_enter Tryz.func141, Tryz.ntmps141
    go_wp2_with (go_at_call 176; refine (HX.out _).mono ?_; rintro e2 w2 ⟨rfl, rfl⟩)
    go_ret2
    exact ⟨rfl, Below.refl _ _⟩
  | some v =>
    obtain ⟨v0, v1⟩ := HL.out v rfl
    obtain ⟨D, hD⟩ : ∃ D, D = v - (-1) := ⟨_, rfl⟩
    replace HX : Hid (IxC K1 c D) := by rw [hD]; exact HX
    have hv : Hid (v = (-1) + D) := Lib.hid (by omega)
    have d0 : 0 ≤ D := by omega
    have d1 : D ≤ 31 := by omega
    clear HL hD v0 v1
    go_enter Tryz.func141, Tryz.ntmps141
    go_wp2_with (go_at_call 176; refine (HX.out _).mono ?_; rintro e2 w2 ⟨rfl, rfl⟩)
    go_ret2
    exact ⟨by rw [hv.out]; first | rfl | (simp [nmV]), Below.refl _ _⟩
set_option maxRecDepth 100000 in
set_option maxHeartbeats 1000000 in
theorem number2 (c : Nat) (w : World) (hc : c < 32) (hK : KD w) : Calls Tryz.prog 141 #[.int .i64 2, .int .i64 c] w fun e w' => e = .returned (nmV (nm2 c)) ∧ Below w.heap.size w w' := by
  have HX := Lib.hid (ixC K2 c _ (ix2 c hc))
  have HL := Lib.hid (nm2_le c hc)
  obtain ⟨c0, c1, c2, c3, c4, c5, c6, c7, c8⟩ := hK
  have g0 : (0 : Int) ≤ (c : Int) := by omega
  have g1 : (c : Int) < 32 := by omega
  generalize nm2 c = o at *
  cases o with
  | none =>
    replace HX : Hid (IxC K2 c (-1)) := HX
    clear HL
    go_enter Tryz.func141, Tryz.ntmps141
    go_wp2_with (go_at_call 176; refine (HX.out _).mono ?_; rintro e2 w2 ⟨rfl, rfl⟩)
    go_ret2
    exact ⟨rfl, Below.refl _ _⟩
  | some v =>
    obtain ⟨v0, v1⟩ := HL.out v rfl
    obtain ⟨D, hD⟩ : ∃ D, D = v - 0 := ⟨_, rfl⟩
    replace HX : Hid (IxC K2 c D) := by rw [hD]; exact HX
    have hv : Hid (v = 0 + D) := Lib.hid (by omega)
    have d0 : 0 ≤ D := by omega
    have d1 : D ≤ 31 := by omega
    clear HL hD v0 v1
    go_enter Tryz.func141, Tryz.ntmps141
    go_wp2_with (go_at_call 176; refine (HX.out _).mono ?_; rintro e2 w2 ⟨rfl, rfl⟩)
    go_ret2
    exact ⟨by rw [hv.out]; first | rfl | (simp [nmV]), Below.refl _ _⟩
end Go.Proofs.YtbgbgigpcegenaaGreatDoor.jo
namespace Go.Proofs.YtbgbgigpcegenaaGreatDoor.jo
open Go.RowKit Go.Lib
set_option linter.unusedVariables false
/-- A block of three numbers. -/
structure F3 (w : World) (b : Nat) (x y z : Int) : Prop where
  lt : b < w.heap.size
  c0 : w.cell? ⟨b, 0, none⟩ = some (.int .i64 x)
  c1 : w.cell? ⟨b, 1, none⟩ = some (.int .i64 y)
  c2 : w.cell? ⟨b, 2, none⟩ = some (.int .i64 z)
  fr : ∀ i, w.frozen? ⟨b, i, none⟩ = false
theorem F3.below {w w' : World} {b B : Nat} {x y z : Int} (h : F3 w b x y z) (hb : Below B w w') (hB : b < B) : F3 w' b x y z :=
  ⟨Nat.lt_of_lt_of_le h.lt hb.size, (hb.cell (p := ⟨b, 0, none⟩) hB).trans h.c0, (hb.cell (p := ⟨b, 1, none⟩) hB).trans h.c1, (hb.cell (p := ⟨b, 2, none⟩) hB).trans h.c2, fun i => (hb.frozen (p := ⟨b, i, none⟩) hB).trans (h.fr i)⟩
theorem f3_new (w : World) (x y z : Int) (t : Nat) : F3 (w.alloc (.cells #[.int .i64 x, .int .i64 y, .int .i64 z] t)) w.heap.size x y z := by
  refine ⟨by simp, ?_, ?_, ?_, fun i => by simp⟩ <;> (rw [World.cell?_alloc_mark]; rfl)
theorem F3.other {w : World} {b : Nat} {x y z : Int} (h : F3 w b x y z) (p : Addr) (v : Value) (hp : b ≠ p.block) : F3 (w.setCell p v) b x y z := by
  have hne : ∀ i, p ≠ (⟨b, i, none⟩ : Addr) := fun i he => hp (by rw [he])
  refine ⟨by simpa using h.lt, ?_, ?_, ?_, fun i => by rw [World.frozen?_setCell]; exact h.fr i⟩
  · rw [World.cell?_setCell_other _ _ _ _ (hne 0)]; exact h.c0
  · rw [World.cell?_setCell_other _ _ _ _ (hne 1)]; exact h.c1
  · rw [World.cell?_setCell_other _ _ _ _ (hne 2)]; exact h.c2
theorem F3.put0 {w : World} {b : Nat} {x y z : Int} (h : F3 w b x y z) (v : Int) : F3 (w.setCell ⟨b, 0, none⟩ (.int .i64 v)) b v y z := by
  refine ⟨by simpa using h.lt, World.cell?_setCell_same _ _ _ h.c0, ?_, ?_, fun i => by rw [World.frozen?_setCell]; exact h.fr i⟩
  · rw [World.cell?_setCell_other _ _ _ _ (by simp)]; exact h.c1
  · rw [World.cell?_setCell_other _ _ _ _ (by simp)]; exact h.c2
theorem F3.put1 {w : World} {b : Nat} {x y z : Int} (h : F3 w b x y z) (v : Int) : F3 (w.setCell ⟨b, 1, none⟩ (.int .i64 v)) b x v z := by
  refine ⟨by simpa using h.lt, ?_, World.cell?_setCell_same _ _ _ h.c1, ?_, fun i => by rw [World.frozen?_setCell]; exact h.fr i⟩
  · rw [World.cell?_setCell_other _ _ _ _ (by simp)]; exact h.c0
  · rw [World.cell?_setCell_other _ _ _ _ (by simp)]; exact h.c2
theorem F3.put2 {w : World} {b : Nat} {x y z : Int} (h : F3 w b x y z) (v : Int) : F3 (w.setCell ⟨b, 2, none⟩ (.int .i64 v)) b x y v := by
  refine ⟨by simpa using h.lt, ?_, ?_, World.cell?_setCell_same _ _ _ h.c2, fun i => by rw [World.frozen?_setCell]; exact h.fr i⟩
  · rw [World.cell?_setCell_other _ _ _ _ (by simp)]; exact h.c0
  · rw [World.cell?_setCell_other _ _ _ _ (by simp)]; exact h.c1
/-- What three codes tell together. -/
def pcV (o0 o1 o2 : Option Int) : Value := match o0, o1, o2 with
  | some a, some b, some d => .tuple #[.agg #[.int .i64 a, .int .i64 b, .int .i64 d], .bool true]
  | _, _, _ => .tuple #[.agg #[.int .i64 0, .int .i64 0, .int .i64 0], .bool false]
def pcNone : Value := .tuple #[.agg #[.int .i64 0, .int .i64 0, .int .i64 0], .bool false]
/-- The two blocks of the call; how far its loop has come. -/
def Pc (w : World) (o0 o1 o2 : Option Int) (k : Nat) (wr : World) : Prop :=
  ∃ x y z : Int, F3 wr w.heap.size 0 0 0 ∧ F3 wr (w.heap.size + 1) x y z ∧ KD wr ∧ Below w.heap.size w wr ∧ (0 < k → o0 = some x) ∧ (1 < k → o1 = some y) ∧ (2 < k → o2 = some z)
def NumC (k : Int) (c : Int) (v : Value) : Prop := ∀ w2, KD w2 → Calls Tryz.prog 141 #[.int .i64 k, .int .i64 c] w2 fun e w' => e = .returned v ∧ Below w2.heap.size w2 w'
set_option maxRecDepth 100000 in
set_option maxHeartbeats 8000000 in
theorem pc_core (c I M F : Int) (o0 o1 o2 : Option Int) (w : World) (hK : KD w) (h0 : 0 ≤ c) (h1 : c < 65536) (ht : bits .and .i64 c 32768 = 32768) (hI : bits .and .i64 (c / 1024) 31 = I) (hM : bits .and .i64 (c / 32) 31 = M) (hF : bits .and .i64 c 31 = F)
    (H0 : Hid (NumC 0 I (nmV o0))) (H1 : Hid (NumC 1 M (nmV o1))) (H2 : Hid (NumC 2 F (nmV o2))) :
    Calls Tryz.prog 102 #[.int .i64 c] w fun e w' => e = .returned (pcV o0 o1 o2) ∧ Below w.heap.size w w' := by
  obtain ⟨V, hV⟩ : ∃ V, V = pcV o0 o1 o2 := ⟨_, rfl⟩
  rw [← hV]
  have HV := Lib.hid hV
  have lt := hK.lt
  have A1 : Below w.heap.size w (w.alloc (.cells #[.int .i64 0, .int .i64 0, .int .i64 0] 130)) := (Below.refl _ _).alloc (Nat.le_refl _) _
  have A2 : Below (w.heap.size + 1) (w.alloc (.cells #[.int .i64 0, .int .i64 0, .int .i64 0] 130)) ((w.alloc (.cells #[.int .i64 0, .int .i64 0, .int .i64 0] 130)).alloc (.cells #[.int .i64 0, .int .i64 0, .int .i64 0] 130)) := (Below.refl _ _).alloc (by simp) _
  have P0 : Hid (Pc w o0 o1 o2 0 ((w.alloc (.cells #[.int .i64 0, .int .i64 0, .int .i64 0] 130)).alloc (.cells #[.int .i64 0, .int .i64 0, .int .i64 0] 130))) := Lib.hid (by
    refine ⟨0, 0, 0, (f3_new w 0 0 0 130).below A2 (by omega), ?_, hK.below (A1.trans (A2.mono (by omega))) lt, A1.trans (A2.mono (by omega)), by omega, by omega, by omega⟩
    have := f3_new (w.alloc (.cells #[.int .i64 0, .int .i64 0, .int .i64 0] 130)) 0 0 0 130
    rwa [World.size_alloc] at this)
  clear A1 A2 hV
  have HK := Lib.hid hK
  clear hK
  go_enter Tryz.func102, Tryz.ntmps102
  go_wp2_with fail
  go_loopw [12] (fun i wr => ∃ (k : Nat) (n : Int), Hid (n = (k : Int) ∧ k ≤ 3) ∧ i = .int .i64 n ∧ Pc w o0 o1 o2 k wr) (fun i _ => 3 - (RowKit.intOf i).toNat)
  case atStart => exact ⟨0, 0, Lib.hid ⟨rfl, by omega⟩, rfl, P0.out⟩
  case round =>
    obtain ⟨k, n, hk, rfl, hP⟩ := hrel
    obtain ⟨x, y, z, f0, f1, kd, hb, q0, q1, q2⟩ := hP
    have HB := Lib.hid hb; have HF0 := Lib.hid f0; have HF1 := Lib.hid f1; have HKR := Lib.hid kd
    have HQ := Lib.hid (⟨q0, q1, q2⟩ : (0 < k → o0 = some x) ∧ (1 < k → o1 = some y) ∧ (2 < k → o2 = some z))
    clear hb f0 f1 kd q0 q1 q2
    have hk4 : k = 0 ∨ k = 1 ∨ k = 2 ∨ k = 3 := by have := hk.out; omega
    rcases hk4 with rfl | rfl | rfl | rfl
    · obtain rfl : n = 0 := hk.out.1
      have c2 := HKR.out.c2
      cases o0 with
      | none =>
        replace H0 : Hid (NumC 0 I (.tuple #[.int .i64 0, .bool false])) := H0
        go_wp2_with (go_at_call 141; refine (H0.out _ HKR.out).mono ?_; rintro e2 w2 ⟨rfl, hb2⟩; have G0 := Lib.hid (HF0.out.below hb2 HF0.out.lt); have HB2 := Lib.hid (HB.out.trans (hb2.mono HB.out.size)); obtain ⟨a3, a0, a1, a2, a4⟩ := G0.out; clear hb2)
        refine bodyPost_ret (v := pcNone) ?_ rfl ⟨by rw [HV.out]; (first | rfl | (cases o0 <;> rfl) | (cases o0 <;> cases o1 <;> rfl)), ((HB2.out.setCell (p := ⟨w.heap.size, 0, none⟩) (Nat.le_refl _) _).setCell (p := ⟨w.heap.size, 1, none⟩) (Nat.le_refl _) _).setCell (p := ⟨w.heap.size, 2, none⟩) (Nat.le_refl _) _⟩
        simp [results, pcNone, Tryz.results102, go_sem, a0, a1, a2]
      | some v =>
        replace H0 : Hid (NumC 0 I (.tuple #[.int .i64 v, .bool true])) := H0
        go_wp2_with (go_at_call 141; refine (H0.out _ HKR.out).mono ?_; rintro e2 w2 ⟨rfl, hb2⟩; have G0 := Lib.hid (HF0.out.below hb2 HF0.out.lt); have G1 := Lib.hid (HF1.out.below hb2 HF1.out.lt); have K2 := Lib.hid (HKR.out.stay hb2); have HB2 := Lib.hid (HB.out.trans (hb2.mono HB.out.size)); obtain ⟨a3, a0, a1, a2, a4⟩ := G1.out; clear hb2)
        go_roundw
        case rel => exact ⟨1, 1, Lib.hid ⟨rfl, by omega⟩, rfl, v, y, z, G0.out.other _ _ (by simp), G1.out.put0 v, K2.out.set _ _ (by have := HK.out.lt; show _ < w.heap.size + 1; omega), HB2.out.setCell (p := ⟨w.heap.size + 1, 0, none⟩) (by simp) _, fun _ => rfl, by omega, by omega⟩
        case measure => simp [RowKit.intOf]
    · obtain rfl : n = 1 := hk.out.1
      have c5 := HKR.out.c5
      cases o1 with
      | none =>
        replace H1 : Hid (NumC 1 M (.tuple #[.int .i64 0, .bool false])) := H1
        go_wp2_with (go_at_call 141; refine (H1.out _ HKR.out).mono ?_; rintro e2 w2 ⟨rfl, hb2⟩; have G0 := Lib.hid (HF0.out.below hb2 HF0.out.lt); have HB2 := Lib.hid (HB.out.trans (hb2.mono HB.out.size)); obtain ⟨a3, a0, a1, a2, a4⟩ := G0.out; clear hb2)
        refine bodyPost_ret (v := pcNone) ?_ rfl ⟨by rw [HV.out]; (first | rfl | (cases o0 <;> rfl) | (cases o0 <;> cases o1 <;> rfl)), ((HB2.out.setCell (p := ⟨w.heap.size, 0, none⟩) (Nat.le_refl _) _).setCell (p := ⟨w.heap.size, 1, none⟩) (Nat.le_refl _) _).setCell (p := ⟨w.heap.size, 2, none⟩) (Nat.le_refl _) _⟩
        simp [results, pcNone, Tryz.results102, go_sem, a0, a1, a2]
      | some v =>
        replace H1 : Hid (NumC 1 M (.tuple #[.int .i64 v, .bool true])) := H1
        go_wp2_with (go_at_call 141; refine (H1.out _ HKR.out).mono ?_; rintro e2 w2 ⟨rfl, hb2⟩; have G0 := Lib.hid (HF0.out.below hb2 HF0.out.lt); have G1 := Lib.hid (HF1.out.below hb2 HF1.out.lt); have K2 := Lib.hid (HKR.out.stay hb2); have HB2 := Lib.hid (HB.out.trans (hb2.mono HB.out.size)); obtain ⟨a3, a0, a1, a2, a4⟩ := G1.out; clear hb2)
        go_roundw
        case rel => exact ⟨2, 2, Lib.hid ⟨rfl, by omega⟩, rfl, x, v, z, G0.out.other _ _ (by simp), G1.out.put1 v, K2.out.set _ _ (by have := HK.out.lt; show _ < w.heap.size + 1; omega), HB2.out.setCell (p := ⟨w.heap.size + 1, 1, none⟩) (by simp) _, fun _ => HQ.out.1 (by omega), fun _ => rfl, by omega⟩
        case measure => simp [RowKit.intOf]
    · obtain rfl : n = 2 := hk.out.1
      have c8 := HKR.out.c8
      cases o2 with
      | none =>
        replace H2 : Hid (NumC 2 F (.tuple #[.int .i64 0, .bool false])) := H2
        go_wp2_with (go_at_call 141; refine (H2.out _ HKR.out).mono ?_; rintro e2 w2 ⟨rfl, hb2⟩; have G0 := Lib.hid (HF0.out.below hb2 HF0.out.lt); have HB2 := Lib.hid (HB.out.trans (hb2.mono HB.out.size)); obtain ⟨a3, a0, a1, a2, a4⟩ := G0.out; clear hb2)
        refine bodyPost_ret (v := pcNone) ?_ rfl ⟨by rw [HV.out]; (first | rfl | (cases o0 <;> rfl) | (cases o0 <;> cases o1 <;> rfl)), ((HB2.out.setCell (p := ⟨w.heap.size, 0, none⟩) (Nat.le_refl _) _).setCell (p := ⟨w.heap.size, 1, none⟩) (Nat.le_refl _) _).setCell (p := ⟨w.heap.size, 2, none⟩) (Nat.le_refl _) _⟩
        simp [results, pcNone, Tryz.results102, go_sem, a0, a1, a2]
      | some v =>
        replace H2 : Hid (NumC 2 F (.tuple #[.int .i64 v, .bool true])) := H2
        go_wp2_with (go_at_call 141; refine (H2.out _ HKR.out).mono ?_; rintro e2 w2 ⟨rfl, hb2⟩; have G0 := Lib.hid (HF0.out.below hb2 HF0.out.lt); have G1 := Lib.hid (HF1.out.below hb2 HF1.out.lt); have K2 := Lib.hid (HKR.out.stay hb2); have HB2 := Lib.hid (HB.out.trans (hb2.mono HB.out.size)); obtain ⟨a3, a0, a1, a2, a4⟩ := G1.out; clear hb2)
        go_roundw
        case rel => exact ⟨3, 3, Lib.hid ⟨rfl, by omega⟩, rfl, x, y, v, G0.out.other _ _ (by simp), G1.out.put2 v, K2.out.set _ _ (by have := HK.out.lt; show _ < w.heap.size + 1; omega), HB2.out.setCell (p := ⟨w.heap.size + 1, 2, none⟩) (by simp) _, fun _ => HQ.out.1 (by omega), fun _ => HQ.out.2.1 (by omega), fun _ => rfl⟩
        case measure => simp [RowKit.intOf]
    · obtain rfl : n = 3 := hk.out.1
      obtain ⟨a3, a0, a1, a2, a4⟩ := HF1.out
      obtain ⟨b3, b0, b1, b2, b4⟩ := HF0.out
      go_wp2_with fail
      refine bodyPost_ret (v := .tuple #[.agg #[.int .i64 x, .int .i64 y, .int .i64 z], .bool true]) ?_ rfl ⟨by rw [HV.out, HQ.out.1 (by omega), HQ.out.2.1 (by omega), HQ.out.2.2 (by omega)]; rfl, ((HB.out.setCell (p := ⟨w.heap.size, 0, none⟩) (Nat.le_refl _) _).setCell (p := ⟨w.heap.size, 1, none⟩) (Nat.le_refl _) _).setCell (p := ⟨w.heap.size, 2, none⟩) (Nat.le_refl _) _⟩
      simp [results, Tryz.results102, go_sem, b0, b1, b2]
set_option maxRecDepth 100000 in
set_option maxHeartbeats 1000000 in
theorem pc_low (c : Int) (w : World) (hK : KD w) (ht : bits .and .i64 c 32768 = 0) : Calls Tryz.prog 102 #[.int .i64 c] w fun e w' => e = .returned pcNone ∧ Below w.heap.size w w' := by
  obtain ⟨a3, a0, a1, a2, a4⟩ := f3_new w 0 0 0 130
  go_enter Tryz.func102, Tryz.ntmps102
  go_wp2_with fail
  refine bodyPost_ret (v := pcNone) ?_ rfl ⟨rfl, (Below.refl w.heap.size w).alloc (Nat.le_refl _) _⟩
  simp [results, pcNone, Tryz.results102, go_sem, a0, a1, a2]
/-- The parts of two bytes. -/
def pcC (c : Nat) : Value := if c < 32768 then pcNone else pcV (nm0 (c / 1024 % 32)) (nm1 (c / 32 % 32)) (nm2 (c % 32))
theorem partsOfCode_any (c : Nat) (w : World) (hc : c < 65536) (hK : KD w) : Calls Tryz.prog 102 #[.int .i64 c] w fun e w' => e = .returned (pcC c) ∧ Below w.heap.size w w' := by
  have ht := and_top c hc
  unfold pcC
  by_cases h : c < 32768
  · rw [if_pos h] at ht ⊢
    exact pc_low c w hK ht
  · rw [if_neg h] at ht ⊢
    refine pc_core c ((c / 1024 % 32 : Nat) : Int) ((c / 32 % 32 : Nat) : Int) ((c % 32 : Nat) : Int) _ _ _ w hK (by omega) (by omega) ht ?_ ?_ ?_ (Lib.hid fun w2 h2 => number0 _ w2 (by omega) h2) (Lib.hid fun w2 h2 => number1 _ w2 (by omega) h2) (Lib.hid fun w2 h2 => number2 _ w2 (by omega) h2)
    · rw [and31 _ (by omega) (by omega)]; omega
    · rw [and31 _ (by omega) (by omega)]; omega
    · rw [and31 _ (by omega) (by omega)]; omega
end Go.Proofs.YtbgbgigpcegenaaGreatDoor.jo
namespace Go.Proofs.YtbgbgigpcegenaaGreatDoor.jo
open Go.RowKit Go.Lib
set_option linter.unusedVariables false
theorem below_any (a n : Int) (w : World) : Calls Tryz.prog 177 #[.int .i64 a, .int .i64 n] w fun e w' => e = .returned (.bool (decide (0 ≤ a ∧ a < n))) ∧ w = w' := by
  by_cases h0 : 0 ≤ a
  · by_cases h1 : a < n
    · rw [decide_eq_true ⟨h0, h1⟩]
      go_enter Tryz.func177, Tryz.ntmps177
      go_wp2
      go_ret
      exact ⟨rfl, rfl⟩
    · rw [decide_eq_false (fun h => h1 h.2)]
      go_enter Tryz.func177, Tryz.ntmps177
      go_wp2
      go_ret
      exact ⟨rfl, rfl⟩
  · rw [decide_eq_false (fun h => h0 h.1)]
    go_enter Tryz.func177, Tryz.ntmps177
    go_wp2
    go_ret
    exact ⟨rfl, rfl⟩
/-- Whether a syllable has these parts; which it is. -/
def has3 (i m f : Int) : Prop := (0 ≤ i ∧ i < 19) ∧ (0 ≤ m ∧ m < 21) ∧ (0 ≤ f ∧ f < 28)
theorem blC {a n : Int} (b : Bool) (h : decide (0 ≤ a ∧ a < n) = b) : Hid (∀ w2, Calls Tryz.prog 177 #[.int .i64 a, .int .i64 n] w2 fun e w' => e = .returned (.bool b) ∧ w2 = w') := Lib.hid (fun w2 => by subst h; exact below_any a n w2)
set_option maxRecDepth 100000 in
set_option maxHeartbeats 1000000 in
theorem syllable_yes (i m f : Int) (w : World) (h : has3 i m f) : Calls Tryz.prog 143 #[.int .i64 i, .int .i64 m, .int .i64 f] w fun e w' => e = .returned (.tuple #[.int .i32 (44032 + (i * 21 + m) * 28 + f), .bool true]) ∧ w = w' := by
  have B0 := blC (a := i) (n := 19) true (decide_eq_true h.1)
  have B1 := blC (a := m) (n := 21) true (decide_eq_true h.2.1)
  have B2 := blC (a := f) (n := 28) true (decide_eq_true h.2.2)
  obtain ⟨⟨i0, i1⟩, ⟨m0, m1⟩, f0, f1⟩ := h
  go_enter Tryz.func143, Tryz.ntmps143
  go_wp2_with (first | (go_at_call 177; (with_reducible refine (B0.out _).mono ?_); rintro e2 w2 ⟨rfl, rfl⟩) | (go_at_call 177; (with_reducible refine (B1.out _).mono ?_); rintro e2 w2 ⟨rfl, rfl⟩) | (go_at_call 177; (with_reducible refine (B2.out _).mono ?_); rintro e2 w2 ⟨rfl, rfl⟩))
  go_ret2
  exact ⟨rfl, rfl⟩
def consB : ByteArray := ⟨#[65, 66, 100, 67, 102, 103, 68, 69, 70, 106, 107, 108, 109, 110, 111, 112, 71, 72, 73, 115, 74, 75, 76, 77, 78, 79, 80, 81, 82, 83]⟩
/-- Where a consonant stands; -1: nowhere. -/
def coI (s : Nat) : Int := if s = 0 then -1 else (s : Int) - 12593
theorem cons_i : ∀ k < 19, Lib.indexByte consB.data.toList ((65 + ((k : Nat) : Int)).toNat.toUInt8) = coI (alo k) := by decide +kernel
theorem cons_f : ∀ f < 28, Lib.indexByte consB.data.toList ((97 + ((f : Nat) : Int)).toNat.toUInt8) = coI (alo (100 + f)) := by decide +kernel
theorem alo_i : ∀ k < 19, 12593 ≤ alo k ∧ alo k ≤ 12622 := by decide +kernel
theorem alo_f : ∀ f < 28, alo (100 + f) = 0 ∨ (12593 ≤ alo (100 + f) ∧ alo (100 + f) ≤ 12622) := by decide +kernel
def sV (S : Nat) : Value := .tuple #[.int .i32 (S : Int), .bool (decide (S ≠ 0))]
set_option maxRecDepth 100000 in
set_option maxHeartbeats 2000000 in
theorem cons_zero (a d b : Int) (w : World) (h : (a = -1 ∧ d = 0) ∨ (0 ≤ a ∧ 0 < d)) : Calls Tryz.prog 142 #[.agg #[.int .i64 a, .int .i64 b, .int .i64 d]] w fun e w' => e = .returned (.tuple #[.int .i32 0, .bool false]) ∧ Below w.heap.size w w' := by
  rcases h with ⟨rfl, rfl⟩ | ⟨h1, h2⟩
  · go_enter Tryz.func142, Tryz.ntmps142
    go_wp2
    go_ret2
    exact ⟨rfl, (Below.refl _ _).alloc (Nat.le_refl _) _⟩
  · have e1 : (a == -1) = false := beq_eq_false_iff_ne.2 (by omega)
    have e2 : (d == 0) = false := beq_eq_false_iff_ne.2 (by omega)
    go_enter Tryz.func142, Tryz.ntmps142
    go_wp2
    go_ret2
    exact ⟨rfl, (Below.refl _ _).alloc (Nat.le_refl _) _⟩
set_option maxRecDepth 100000 in
set_option maxHeartbeats 2000000 in
theorem cons_init (k : Nat) (b : Int) (w : World) (hk : k < 19) : Calls Tryz.prog 142 #[.agg #[.int .i64 k, .int .i64 b, .int .i64 0]] w fun e w' => e = .returned (sV (alo k)) ∧ Below w.heap.size w w' := by
  have h1 := alo_i k hk
  have hs : coI (alo k) = (alo k : Int) - 12593 := by unfold coI; rw [if_neg (by omega)]
  have HX := Lib.hid (ixC consB (65 + (k : Int)) _ (cons_i k hk))
  rw [hs] at HX
  have HV : Hid (sV (alo k) = .tuple #[.int .i32 ((alo k : Nat) : Int), .bool true]) := Lib.hid (by unfold sV; rw [decide_eq_true (by omega)])
  obtain ⟨S, hS⟩ : ∃ S, S = alo k := ⟨_, rfl⟩
  rw [← hS] at h1 HX HV ⊢
  obtain ⟨D, hD⟩ : ∃ D : Int, D = (S : Int) - 12593 := ⟨_, rfl⟩
  rw [← hD] at HX
  have HD := Lib.hid hD
  have d0 : 0 ≤ D := by omega
  have d1 : D ≤ 29 := by omega
  have e0 : (0 : Int) ≤ (k : Int) := by omega
  have e9 : (k : Int) < 19 := by omega
  have e1 : ((k : Int) == -1) = false := beq_eq_false_iff_ne.2 (by omega)
  rw [HV.out]
  have FIN : Hid (∀ v : Int, v = (S : Int) → Ending.returned (.tuple #[.int .i32 v, .bool true]) = .returned (.tuple #[.int .i32 (S : Int), .bool true])) := Lib.hid (fun v h => by rw [h])
  clear hs hS hD h1 HV
  unfold consB at HX
  go_enter Tryz.func142, Tryz.ntmps142
  go_wp2_with (go_at_call 176; refine (HX.out _).mono ?_; rintro e2 w2 ⟨rfl, rfl⟩)
  go_ret2
  exact ⟨FIN.out _ (by have := HD.out; omega), (Below.refl _ _).alloc (Nat.le_refl _) _⟩
set_option maxRecDepth 100000 in
set_option maxHeartbeats 2000000 in
theorem cons_fin (f : Nat) (b : Int) (w : World) (h0 : 0 < f) (hf : f < 28) : Calls Tryz.prog 142 #[.agg #[.int .i64 (-1), .int .i64 b, .int .i64 f]] w fun e w' => e = .returned (sV (alo (100 + f))) ∧ Below w.heap.size w w' := by
  have h1 := alo_f f hf
  have HX := Lib.hid (ixC consB (97 + (f : Int)) _ (cons_f f hf))
  obtain ⟨S, hS⟩ : ∃ S, S = alo (100 + f) := ⟨_, rfl⟩
  rw [← hS] at h1 HX ⊢
  have e0 : (0 : Int) < (f : Int) := by omega
  have e9 : (f : Int) < 28 := by omega
  have e1 : ((f : Int) == 0) = false := beq_eq_false_iff_ne.2 (by omega)
  clear hS
  unfold consB at HX
  rcases h1 with rfl | h1
  · replace HX : Hid (IxC ⟨#[65, 66, 100, 67, 102, 103, 68, 69, 70, 106, 107, 108, 109, 110, 111, 112, 71, 72, 73, 115, 74, 75, 76, 77, 78, 79, 80, 81, 82, 83]⟩ (97 + (f : Int)) (-1)) := HX
    go_enter Tryz.func142, Tryz.ntmps142
    go_wp2_with (go_at_call 176; refine (HX.out _).mono ?_; rintro e2 w2 ⟨rfl, rfl⟩)
    go_ret2
    exact ⟨rfl, (Below.refl _ _).alloc (Nat.le_refl _) _⟩
  · obtain ⟨D, hD⟩ : ∃ D : Int, D = (S : Int) - 12593 := ⟨_, rfl⟩
    have hs : coI S = D := by unfold coI; rw [if_neg (by omega), hD]
    rw [hs] at HX
    have HD := Lib.hid hD
    have d0 : 0 ≤ D := by omega
    have d1 : D ≤ 29 := by omega
    have FIN : Hid (∀ v : Int, v = (S : Int) → Ending.returned (.tuple #[.int .i32 v, .bool true]) = .returned (sV S)) := Lib.hid (fun v h => by rw [h]; unfold sV; rw [decide_eq_true (by omega)])
    clear hs hD h1
    go_enter Tryz.func142, Tryz.ntmps142
    go_wp2_with (go_at_call 176; refine (HX.out _).mono ?_; rintro e2 w2 ⟨rfl, rfl⟩)
    go_ret2
    exact ⟨FIN.out _ (by have := HD.out; omega), (Below.refl _ _).alloc (Nat.le_refl _) _⟩
end Go.Proofs.YtbgbgigpcegenaaGreatDoor.jo
namespace Go.Proofs.YtbgbgigpcegenaaGreatDoor.jo
open Go.RowKit Go.Lib
set_option linter.unusedVariables false
theorem cons_any (I f : Nat) (a : Int) (w : World) (ha : a = (I : Int) - 2) (hI : 1 ≤ I ∧ I ≤ 20) (hf : f ≤ 27) : Calls Tryz.prog 142 #[.agg #[.int .i64 a, .int .i64 (-1), .int .i64 f]] w fun e w' => e = .returned (sV (sgP I 99 f)) ∧ Below w.heap.size w w' := by
  by_cases h1 : I = 1
  · subst h1
    obtain rfl : a = -1 := by omega
    by_cases h2 : f = 0
    · subst h2
      exact cons_zero (-1) 0 (-1) w (.inl ⟨rfl, rfl⟩)
    · have e : sgP 1 99 f = alo (100 + f) := by unfold sgP; rw [if_neg (by omega), if_neg (by omega), if_neg (by omega), if_neg (by omega), if_pos (by omega)]
      rw [e]
      exact cons_fin f (-1) w (by omega) (by omega)
  · obtain ⟨k, rfl⟩ : ∃ k, I = k + 2 := ⟨I - 2, by omega⟩
    obtain rfl : a = (k : Int) := by omega
    by_cases h2 : f = 0
    · subst h2
      have e : sgP (k + 2) 99 0 = alo k := by unfold sgP; rw [if_neg (by omega), if_neg (by omega), if_neg (by omega), if_pos (by omega), Nat.add_sub_cancel]
      rw [e]
      exact cons_init k (-1) w (by omega)
    · have e : sgP (k + 2) 99 f = 0 := by unfold sgP; rw [if_neg (by omega), if_neg (by omega), if_neg (by omega), if_neg (by omega), if_neg (by omega)]
      rw [e]
      exact cons_zero k f (-1) w (.inr ⟨by omega, by omega⟩)
theorem sV_pos {S : Nat} (h : S ≠ 0) : sV S = .tuple #[.int .i32 (S : Int), .bool true] := by unfold sV; rw [decide_eq_true h]
theorem sV_tup (S : Nat) : ∃ (z : Int) (b : Bool), sV S = .tuple #[.int .i32 z, .bool b] := ⟨_, _, rfl⟩
set_option maxRecDepth 100000 in
set_option maxHeartbeats 2000000 in
theorem psign_any (I m f : Nat) (a b : Int) (w : World) (ha : a = (I : Int) - 2) (hb : b = nI m) (hI : 1 ≤ I ∧ I ≤ 20) (hm : m = 99 ∨ m ≤ 20) (hf : f ≤ 27) : Calls Tryz.prog 103 #[.agg #[.int .i64 a, .int .i64 b, .int .i64 f]] w fun e w' => e = .returned (sV (sgP I m f)) ∧ Below w.heap.size w w' := by
  rcases hm with rfl | hm
  · obtain rfl : b = -1 := hb
    have HC := Lib.hid (fun w2 => cons_any I f a w2 ha hI hf)
    obtain ⟨z, t, hz⟩ := sV_tup (sgP I 99 f)
    rw [hz] at HC ⊢
    clear hz ha hI hf
    go_enter Tryz.func103, Tryz.ntmps103
    go_wp2_with (go_at_call 142; refine (HC.out _).mono ?_; rintro e2 w2 ⟨rfl, hb2⟩)
    go_ret2
    exact ⟨rfl, ((Below.refl _ w).alloc (Nat.le_refl _) _).trans (hb2.mono (by simp))⟩
  · rw [nI_le (by omega)] at hb
    subst hb
    have n0 : ((m : Int) == -1) = false := beq_eq_false_iff_ne.2 (by omega)
    by_cases h1 : I = 1
    · subst h1
      obtain rfl : a = -1 := by omega
      by_cases h2 : f = 0
      · subst h2
        have e : sgP 1 m 0 = 12623 + m := by unfold sgP; rw [if_neg (by omega), if_neg (by omega), if_pos (by omega)]
        have HV : Hid (sV (sgP 1 m 0) = .tuple #[.int .i32 (12623 + (m : Int)), .bool true]) := Lib.hid (by rw [e, sV_pos (by omega)]; rw [show ((12623 + m : Nat) : Int) = 12623 + (m : Int) by omega])
        rw [HV.out]
        have m0 : (0 : Int) ≤ (m : Int) := by omega
        have m1 : (m : Int) ≤ 20 := by omega
        clear HV e
        go_enter Tryz.func103, Tryz.ntmps103
        go_wp2_with fail
        go_ret2
        exact ⟨rfl, (Below.refl _ _).alloc (Nat.le_refl _) _⟩
      · have e : sgP 1 m f = 0 := by unfold sgP; rw [if_neg (by omega), if_neg (by omega), if_neg (by omega), if_neg (by omega), if_neg (by omega)]
        rw [e]
        have n1 : ((f : Int) == 0) = false := beq_eq_false_iff_ne.2 (by omega)
        go_enter Tryz.func103, Tryz.ntmps103
        go_wp2_with fail
        go_ret2
        exact ⟨rfl, (Below.refl _ _).alloc (Nat.le_refl _) _⟩
    · obtain ⟨k, rfl⟩ : ∃ k, I = k + 2 := ⟨I - 2, by omega⟩
      obtain rfl : a = (k : Int) := by omega
      have e : sgP (k + 2) m f = 44032 + (k * 21 + m) * 28 + f := by unfold sgP; rw [if_neg (by omega), if_pos (by omega), Nat.add_sub_cancel]
      have HV : Hid (sV (sgP (k + 2) m f) = .tuple #[.int .i32 (44032 + ((k : Int) * 21 + (m : Int)) * 28 + (f : Int)), .bool true]) := Lib.hid (by rw [e, sV_pos (by omega)]; rw [show ((44032 + (k * 21 + m) * 28 + f : Nat) : Int) = 44032 + ((k : Int) * 21 + (m : Int)) * 28 + (f : Int) by omega])
      rw [HV.out]
      have HS := Lib.hid (fun w2 => syllable_yes k m f w2 ⟨⟨by omega, by omega⟩, ⟨by omega, by omega⟩, by omega, by omega⟩)
      generalize 44032 + ((k : Int) * 21 + (m : Int)) * 28 + (f : Int) = Z at *
      have n1 : ((k : Int) == -1) = false := beq_eq_false_iff_ne.2 (by omega)
      have n2 : ((k : Int) != -1) = true := by rw [bne, n1]; rfl
      clear HV e ha
      go_enter Tryz.func103, Tryz.ntmps103
      go_wp2_with (go_at_call 143; refine (HS.out _).mono ?_; rintro e2 w2 ⟨rfl, rfl⟩)
      go_ret2
      exact ⟨rfl, (Below.refl _ _).alloc (Nat.le_refl _) _⟩
/-- What Sign answers. -/
theorem or_bytes (a b : Nat) (ha : a < 256) (hb : b < 256) : bits .or .i64 ((a : Int) * 256) (b : Int) = ((a * 256 + b : Nat) : Int) := by
  rw [bits_join .i64 31 (by decide) (fun n a b => wrap64 (by omega) (by omega)) 8 _ _ (by omega) (by omega) (by omega) (by omega) (by omega) (by omega)]
  omega
theorem pc_cases (c : Nat) (hc : c < 65536) : (pcC c = pcNone ∧ sg c = 0) ∨ ∃ I m f : Nat, (1 ≤ I ∧ I ≤ 20) ∧ (m = 99 ∨ m ≤ 20) ∧ f ≤ 27 ∧ sg c = sgP I m f ∧ pcC c = .tuple #[.agg #[.int .i64 ((I : Int) - 2), .int .i64 (nI m), .int .i64 (f : Int)], .bool true] := by
  unfold pcC sg
  by_cases h : c < 32768
  · left; rw [if_pos h, if_pos h]; exact ⟨rfl, rfl⟩
  rw [if_neg h, if_neg h, sgn_is]
  have hm := med_cases (c / 32 % 32) (by omega)
  have hf := fin_cases (c % 32) (by omega)
  by_cases h1 : c / 1024 % 32 = 0 ∨ 20 < c / 1024 % 32
  · left
    refine ⟨?_, by unfold sgP; rw [if_pos (by omega)]⟩
    unfold nm0; rw [if_pos h1]; rfl
  have e0 : nm0 (c / 1024 % 32) = some (((c / 1024 % 32 : Nat) : Int) - 2) := if_neg h1
  generalize c / 1024 % 32 = I at *
  by_cases h2 : med (c / 32 % 32) = 98
  · left
    refine ⟨?_, by unfold sgP; rw [if_pos (by omega)]⟩
    unfold nm1; rw [if_pos h2, e0]; rfl
  have e1 : nm1 (c / 32 % 32) = some (nI (med (c / 32 % 32))) := if_neg h2
  generalize med (c / 32 % 32) = m at *
  by_cases h3 : fin (c % 32) = 98
  · left
    refine ⟨?_, by unfold sgP; rw [if_pos (by omega)]⟩
    unfold nm2; rw [if_pos h3, e0, e1]; rfl
  have e2 : nm2 (c % 32) = some (nI (fin (c % 32))) := if_neg h3
  generalize fin (c % 32) = f at *
  right
  refine ⟨I, m, f, by omega, by omega, by omega, rfl, ?_⟩
  rw [e0, e1, e2, nI_le (m := f) (by omega)]; rfl
set_option maxRecDepth 100000 in
set_option maxHeartbeats 2000000 in
theorem sign_any (a b : Nat) (w : World) (ha : a < 256) (hb : b < 256) (hK : KD w) : Calls Tryz.prog 55 #[.int .u8 a, .int .u8 b] w fun e w' => e = .returned (sV (sg (a * 256 + b))) ∧ Below w.heap.size w w' := by
  have hor := or_bytes a b ha hb
  have HP := Lib.hid (partsOfCode_any (a * 256 + b) w (by omega) hK)
  have hc := pc_cases (a * 256 + b) (by omega)
  generalize sg (a * 256 + b) = S at *
  generalize pcC (a * 256 + b) = V at *
  generalize ((a * 256 + b : Nat) : Int) = C at *
  have a0 : (0 : Int) ≤ (a : Int) := by omega
  have a1 : (a : Int) < 256 := by omega
  have b0 : (0 : Int) ≤ (b : Int) := by omega
  have b1 : (b : Int) < 256 := by omega
  rcases hc with ⟨rfl, rfl⟩ | ⟨I, m, f, hI, hm, hf, rfl, rfl⟩
  · replace HP : Hid (Calls Tryz.prog 102 #[.int .i64 C] w fun e w' => e = .returned (.tuple #[.agg #[.int .i64 0, .int .i64 0, .int .i64 0], .bool false]) ∧ Below w.heap.size w w') := HP
    go_enter Tryz.func55, Tryz.ntmps55
    go_wp2_with (go_at_call 102; refine (HP.out).mono ?_; rintro e2 w2 ⟨rfl, hb2⟩)
    go_ret2
    exact ⟨rfl, hb2.alloc hb2.size _⟩
  · have HS := Lib.hid (fun w2 => psign_any I m f _ _ w2 rfl rfl hI hm hf)
    obtain ⟨z, t, hz⟩ := sV_tup (sgP I m f)
    rw [hz] at HS ⊢
    generalize (I : Int) - 2 = i at *
    generalize nI m = j at *
    clear hz hI hm hf
    go_enter Tryz.func55, Tryz.ntmps55
    go_wp2_with (first | (go_at_call 102; refine (HP.out).mono ?_; rintro e2 w2 ⟨rfl, hb2⟩) | (go_at_call 103; refine (HS.out _).mono ?_; rintro e3 w3 ⟨rfl, hb3⟩))
    go_ret2
    exact ⟨rfl, (hb2.alloc hb2.size _).trans (hb3.mono (by have := hb2.size; simp; omega))⟩
end Go.Proofs.YtbgbgigpcegenaaGreatDoor.jo
namespace Go.Proofs.YtbgbgigpcegenaaGreatDoor.bg
open Go.Proofs.YtbgbgigpcegenaaGreatDoor.wa (chk chk_apart)
set_option linter.unusedVariables false
/-- The rows, from the first cell on (63: no sign). -/
def l88 : List Nat := [63, 63, 63, 63, 63, 63, 63, 63, 63, 63, 63, 63, 63, 63, 63, 63, 63, 63, 63, 63, 63, 63, 256, 193, 461, 192, 274, 201, 282, 200, 332, 211, 465, 210, 63, 7870, 63, 7872, 202, 257, 225, 462, 224, 593, 275, 233, 283, 232, 299, 237, 464, 236, 333, 243, 466, 242, 363, 250, 468, 249, 470, 472, 474, 476, 252, 63, 7871, 63, 7873, 234, 609]
def lA1 : List Nat := [12288, 65292, 12289, 12290, 65294, 8226, 65307, 65306, 65311, 65281, 65072, 8230, 8229, 65104, 65380, 65106, 183, 65108, 65109, 65110, 65111, 65372, 8211, 65073, 8212, 65075, 9588, 65076, 65103, 65288, 65289, 65077, 65078, 65371, 65373, 65079, 65080, 12308, 12309, 65081, 65082, 12304, 12305, 65083, 65084, 12298, 12299, 65085, 65086, 12296, 12297, 65087, 65088, 12300, 12301, 65089, 65090, 12302, 12303, 65091, 65092, 65113, 65114, 65115, 65116, 65117, 65118, 8216, 8217, 8220, 8221, 12317, 12318, 8245, 8242, 65283, 65286, 65290, 8251, 167, 12291, 9675, 9679, 9651, 9650, 9678, 9734, 9733, 9671, 9670, 9633, 9632, 9661, 9660, 12963, 8453, 8254, 65507, 65343, 717, 65097, 65098, 65101, 65102, 65099, 65100, 65119, 65120, 65121, 65291, 65293, 215, 247, 177, 8730, 65308, 65310, 65309, 8806, 8807, 8800, 8734, 8786, 8801, 65122, 65123, 65124, 65125, 65126, 8764, 8745, 8746, 8869, 8736, 8735, 8895, 13266, 13265, 8747, 8750, 8757, 8756, 9792, 9794, 9793, 9737, 8593, 8595, 8592, 8594, 8598, 8599, 8601, 8600, 8741, 8739, 65295]
def lA3 : List Nat := [65367, 65368, 65369, 65370, 913, 914, 915, 916, 917, 918, 919, 920, 921, 922, 923, 924, 925, 926, 927, 928, 929, 931, 932, 933, 934, 935, 936, 937, 945, 946, 947, 948, 949, 950, 951, 952, 953, 954, 955, 956, 957, 958, 959, 960, 961, 963, 964, 965, 966, 967, 968, 969, 12549, 12550, 12551, 12552, 12553, 12554, 12555, 12556, 12557, 12558, 12559, 12560, 12561, 12562, 12563, 12564, 12565, 12566, 12567, 12568, 12569, 12570, 12571, 12572, 12573, 12574, 12575, 12576, 12577, 12578, 12579, 12580, 12581, 12582, 12583, 12584, 12585, 729, 713, 714, 711, 715]
def lA4 : List Nat := [19968, 20057, 19969, 19971, 20035, 20061, 20102, 20108, 20154, 20799, 20837, 20843, 20960, 20992, 20993, 21147, 21269, 21313, 21340, 21448, 19977, 19979, 19976, 19978, 20011, 20024, 20961, 20037, 20040, 20063, 20062, 20110, 20129, 20800, 20995, 21242, 21315, 21449, 21475, 22303, 22763, 22805, 22823, 22899, 23376, 23377, 23379, 23544, 23567, 23586, 23608, 23665, 24029, 24037, 24049, 24050, 24051, 24062, 24178, 24318, 24331, 24339, 25165, 19985, 19984, 19981, 20013, 20016, 20025, 20043, 23609, 20104, 20113, 20117, 20114, 20116, 20130, 20161, 20160, 20163, 20166, 20167, 20173, 20170, 20171, 20164, 20803, 20801, 20839, 20845, 20846, 20844, 20887, 20982, 20998, 20999, 21000, 21243, 21246, 21247, 21270, 21305, 21320, 21319, 21317, 21342, 21380, 21451, 21450, 21453, 22764, 22825, 22827, 22826, 22829, 23380, 23569, 23588, 23610, 23663, 24052, 24187, 24319, 24340, 24341, 24515, 25096, 25142, 25163, 25166, 25903, 25991, 26007, 26020, 26041, 26085, 26352, 26376, 26408, 27424, 27490, 27513, 27595, 27604, 27611, 27663, 27700, 28779, 29226, 29238, 29243, 29255, 29273, 29275, 29356, 29579, 19993]
def lA5 : List Nat := [19990, 19989, 19988, 19992, 20027, 20045, 20047, 20046, 20197, 20184, 20180, 20181, 20182, 20183, 20195, 20196, 20185, 20190, 20805, 20804, 20873, 20874, 20908, 20985, 20986, 20984, 21002, 21152, 21151, 21253, 21254, 21271, 21277, 20191, 21322, 21321, 21345, 21344, 21359, 21358, 21435, 21487, 21476, 21491, 21484, 21486, 21481, 21480, 21500, 21496, 21493, 21483, 21478, 21482, 21490, 21489, 21488, 21477, 21485, 21499, 22235, 22234, 22806, 22830, 22833, 22900, 22902, 23381, 23427, 23612, 24040, 24039, 24038, 24066, 24067, 24179, 24188, 24321, 24344, 24343, 24517, 25098, 25171, 25172, 25170, 25169, 26021, 26086, 26414, 26412, 26410, 26411, 26413, 27491, 27597, 27665, 27664, 27704, 27713, 27712, 27710, 29359, 29572, 29577, 29916, 29926, 29976, 29983, 29992, 29993, 30000, 30001, 30002, 30003, 30091, 30333, 30382, 30399, 30446, 30683, 30690, 30707, 31034, 31166, 31348, 31435, 19998, 19999, 20050, 20051, 20073, 20121, 20132, 20134, 20133, 20223, 20233, 20249, 20234, 20245, 20237, 20240, 20241, 20239, 20210, 20214, 20219, 20208, 20211, 20221, 20225, 20235, 20809, 20807, 20806, 20808, 20840]
def rowL (l : Nat) : List Nat := if l = 136 then l88 else if l = 161 then lA1 else if l = 163 then lA3 else if l = 164 then lA4 else if l = 165 then lA5 else []
def cell (b : Nat) : Option Nat := if 64 ≤ b ∧ b ≤ 126 then some (b - 64) else if 161 ≤ b ∧ b ≤ 254 then some (b - 98) else none
def cellB (c : Nat) : Nat := if c < 63 then c + 64 else c + 98
theorem cell_back {b c : Nat} (h : cell b = some c) : cellB c = b ∧ c < 157 := by
  unfold cell at h
  unfold cellB
  by_cases h1 : 64 ≤ b ∧ b ≤ 126
  · rw [if_pos h1] at h; injection h with h; subst h
    rw [if_pos (by omega)]; omega
  rw [if_neg h1] at h
  by_cases h2 : 161 ≤ b ∧ b ≤ 254
  · rw [if_pos h2] at h; injection h with h; subst h
    rw [if_neg (by omega)]; omega
  · rw [if_neg h2] at h; cases h
/-- A cell's sign; 0: there is none. -/
def sgC (l c : Nat) : Nat := if (rowL l).getD c 0 = 63 then 0 else (rowL l).getD c 0
def one (l b : Nat) : Nat := match cell b with
  | none => 0
  | some c => sgC l c
def ldL : List Nat := [136, 161, 163, 164, 165]
def ldx (i : Nat) : Nat := ldL.getD i 0
/-- By their places: 157 in each of five rows. -/
def oneJ (j : Nat) : Nat := sgC (ldx (j / 157)) (j % 157)
def oneL : List Nat := (List.range 785).map oneJ
theorem one_rng : oneL.all (fun p => decide (p = 0 ∨ (128 ≤ p ∧ p < 55296) ∨ (57343 < p ∧ p < 65536))) = true := by decide +kernel
theorem oneL_at {j : Nat} (h : j < 785) : oneL[j]? = some (oneJ j) := by unfold oneL; rw [List.getElem?_map, List.getElem?_range h]; rfl
theorem oneJ_rng {j : Nat} (h : j < 785) : oneJ j = 0 ∨ (128 ≤ oneJ j ∧ oneJ j < 55296) ∨ (57343 < oneJ j ∧ oneJ j < 65536) := by
  have := List.all_eq_true.1 one_rng (oneJ j) (List.mem_of_getElem? (oneL_at h))
  simpa using this
theorem sgC_none {l : Nat} (h : ¬ (l = 136 ∨ l = 161 ∨ l = 163 ∨ l = 164 ∨ l = 165)) (c : Nat) : sgC l c = 0 := by
  have e : rowL l = [] := by unfold rowL; rw [if_neg (by omega), if_neg (by omega), if_neg (by omega), if_neg (by omega), if_neg (by omega)]
  unfold sgC
  rw [e]; rfl
/-- A row's number. -/
def ldi (l : Nat) : Nat := if l = 136 then 0 else if l = 161 then 1 else if l = 163 then 2 else if l = 164 then 3 else 4
theorem ldi_is {l : Nat} (h : l = 136 ∨ l = 161 ∨ l = 163 ∨ l = 164 ∨ l = 165) : ldx (ldi l) = l ∧ ldi l < 5 := by
  rcases h with rfl | rfl | rfl | rfl | rfl <;> decide
theorem one_J {l b c : Nat} (h : l = 136 ∨ l = 161 ∨ l = 163 ∨ l = 164 ∨ l = 165) (hc : cell b = some c) : one l b = oneJ (ldi l * 157 + c) ∧ ldi l * 157 + c < 785 := by
  obtain ⟨h1, h2⟩ := ldi_is h
  have h3 := (cell_back hc).2
  unfold oneJ one
  rw [hc, show (ldi l * 157 + c) / 157 = ldi l by omega, show (ldi l * 157 + c) % 157 = c by omega, h1]
  exact ⟨rfl, by omega⟩
/-- The code of a place. -/
def cdJ (j : Nat) : Nat := ldx (j / 157) * 256 + cellB (j % 157)
/-- The first place from j on, of so many, that has a sign. -/
def jF (p : Nat) : Nat → Nat → Option Nat
  | 0, _ => none
  | f + 1, j => if oneJ j = p then some j else jF p f (j + 1)
/-- The place of a sign. -/
def plc (p : Int) : Option Nat := if p ≤ 0 then none else jF p.toNat 785 0
/-- The second byte of two signs at once. -/
def twB (p q : Int) : Option Nat := if p = 202 ∧ q = 772 then some 98 else if p = 202 ∧ q = 780 then some 100 else if p = 234 ∧ q = 772 then some 163 else if p = 234 ∧ q = 780 then some 165 else none
/-- The two signs of a code; noughts: there are none. -/
def tw (k : Nat) : Nat × Nat := if k = 34914 then (202, 772) else if k = 34916 then (202, 780) else if k = 34979 then (234, 772) else if k = 34981 then (234, 780) else (0, 0)
/-- The code of the signs with which some begin, and how many. -/
def codeW : List Int → Option (Nat × Nat)
  | [] => none
  | [p] => (plc p).map fun j => (cdJ j, 1)
  | p :: q :: _ => match twB p q with
    | some b => some (34816 + b, 2)
    | none => (plc p).map fun j => (cdJ j, 1)
/-- The signs of two bytes. -/
def sgL (l b : Nat) : List Nat := if (tw (l * 256 + b)).1 ≠ 0 then [(tw (l * 256 + b)).1, (tw (l * 256 + b)).2] else if one l b ≠ 0 then [one l b] else []
theorem tw_cases (k : Nat) : (k = 34914 ∧ tw k = (202, 772)) ∨ (k = 34916 ∧ tw k = (202, 780)) ∨ (k = 34979 ∧ tw k = (234, 772)) ∨ (k = 34981 ∧ tw k = (234, 780)) ∨ (tw k = (0, 0) ∧ k ≠ 34914 ∧ k ≠ 34916 ∧ k ≠ 34979 ∧ k ≠ 34981) := by
  unfold tw
  by_cases h1 : k = 34914
  · left; exact ⟨h1, if_pos h1⟩
  rw [if_neg h1]
  by_cases h2 : k = 34916
  · right; left; exact ⟨h2, if_pos h2⟩
  rw [if_neg h2]
  by_cases h3 : k = 34979
  · right; right; left; exact ⟨h3, if_pos h3⟩
  rw [if_neg h3]
  by_cases h4 : k = 34981
  · right; right; right; left; exact ⟨h4, if_pos h4⟩
  · right; right; right; right; exact ⟨if_neg h4, h1, h2, h3, h4⟩
theorem one_has {l b : Nat} (h : one l b ≠ 0) : ∃ c, cell b = some c ∧ (l = 136 ∨ l = 161 ∨ l = 163 ∨ l = 164 ∨ l = 165) := by
  unfold one at h
  cases hc : cell b with
  | none => rw [hc] at h; exact absurd rfl h
  | some c =>
    rw [hc] at h
    refine ⟨c, rfl, ?_⟩
    by_cases hl : l = 136 ∨ l = 161 ∨ l = 163 ∨ l = 164 ∨ l = 165
    · exact hl
    · exact absurd (sgC_none hl c) h
end Go.Proofs.YtbgbgigpcegenaaGreatDoor.bg
namespace Go.Proofs.YtbgbgigpcegenaaGreatDoor.bp
open Go Go.Lib
open Go.Proofs.YtbgbgigpcegenaaGreatDoor.tb (Pce)
open Go.Proofs.YtbgbgigpcegenaaGreatDoor.bg
set_option linter.unusedVariables false
set_option maxRecDepth 1000000
def r1 : ByteArray := ⟨#[196, 128, 195, 129, 199, 141, 195, 128, 196, 146, 195, 137, 196, 154, 195, 136, 197, 140, 195, 147, 199, 145, 195, 146]⟩
def r2 : ByteArray := ⟨#[225, 186, 190]⟩
def r3 : ByteArray := ⟨#[225, 187, 128, 195, 138, 196, 129, 195, 161, 199, 142, 195, 160, 201, 145, 196, 147, 195, 169, 196, 155, 195, 168, 196, 171, 195, 173, 199, 144, 195, 172, 197, 141]⟩
def r4 : ByteArray := ⟨#[195, 179, 199, 146, 195, 178, 197, 171, 195, 186, 199, 148, 195, 185, 199, 150, 199, 152, 199, 154]⟩
def r5 : ByteArray := ⟨#[199, 156, 195, 188]⟩
def r6 : ByteArray := ⟨#[225, 186, 191]⟩
def r7 : ByteArray := ⟨#[225, 187, 129, 195, 170, 201, 161]⟩
def m1 : ByteArray := ⟨#[227, 128, 128, 239, 188, 140, 227, 128, 129, 227, 128, 130, 239, 188, 142, 226, 128, 162, 239, 188, 155, 239, 188, 154, 239, 188, 159, 239, 188, 129, 239, 184, 176, 226, 128, 166, 226, 128, 165, 239, 185, 144, 239, 189, 164, 239, 185, 146, 194, 183, 239, 185, 148, 239, 185, 149, 239, 185, 150, 239, 185, 151, 239, 189, 156, 226, 128, 147, 239, 184, 177, 226, 128, 148, 239, 184, 179, 226, 149, 180, 239, 184, 180, 239, 185, 143, 239, 188, 136, 239, 188, 137, 239, 184, 181, 239, 184, 182, 239, 189, 155, 239, 189, 157, 239, 184, 183, 239, 184, 184, 227, 128, 148, 227, 128, 149, 239, 184, 185, 239, 184, 186, 227, 128, 144, 227, 128, 145, 239, 184, 187, 239, 184, 188, 227, 128, 138, 227, 128, 139, 239, 184, 189, 239, 184, 190, 227, 128, 136, 227, 128, 137, 239, 184, 191, 239, 185, 128, 227, 128, 140, 227, 128, 141, 239, 185, 129, 239, 185, 130, 227, 128, 142, 227, 128, 143, 239, 185, 131, 239, 185, 132, 239, 185, 153, 239, 185, 154, 239, 185, 155, 239, 185, 156, 239, 185, 157, 239, 185, 158, 226, 128, 152, 226, 128, 153, 226, 128, 156, 226, 128, 157, 227, 128, 157, 227, 128, 158, 226, 128, 181, 226, 128, 178, 239, 188, 131, 239, 188, 134, 239, 188, 138, 226, 128, 187, 194, 167, 227, 128, 131, 226, 151, 139, 226, 151, 143, 226, 150, 179, 226, 150, 178, 226, 151, 142, 226, 152, 134, 226, 152, 133, 226, 151, 135, 226, 151, 134, 226, 150, 161, 226, 150, 160, 226, 150, 189, 226, 150, 188, 227, 138, 163, 226, 132, 133, 226, 128, 190, 239, 191, 163, 239, 188, 191, 203, 141, 239, 185, 137, 239, 185, 138, 239, 185, 141, 239, 185, 142, 239, 185, 139, 239, 185, 140, 239, 185, 159, 239, 185, 160, 239, 185, 161, 239, 188, 139, 239, 188, 141, 195, 151, 195, 183, 194, 177, 226, 136, 154, 239, 188, 156, 239, 188, 158, 239, 188, 157, 226, 137, 166, 226, 137, 167, 226, 137, 160, 226, 136, 158, 226, 137, 146, 226, 137, 161, 239, 185, 162, 239, 185, 163, 239, 185, 164, 239, 185, 165, 239, 185, 166, 226, 136, 188, 226, 136, 169, 226, 136, 170, 226, 138, 165, 226, 136, 160, 226, 136, 159, 226, 138, 191, 227, 143, 146, 227, 143, 145, 226, 136, 171, 226, 136, 174, 226, 136, 181, 226, 136, 180, 226, 153, 128, 226, 153, 130, 226, 153, 129, 226, 152, 137, 226, 134, 145, 226, 134, 147, 226, 134, 144, 226, 134, 146, 226, 134, 150, 226, 134, 151, 226, 134, 153, 226, 134, 152, 226, 136, 165, 226, 136, 163, 239, 188, 143]⟩
def m3 : ByteArray := ⟨#[239, 189, 151, 239, 189, 152, 239, 189, 153, 239, 189, 154, 206, 145, 206, 146, 206, 147, 206, 148, 206, 149, 206, 150, 206, 151, 206, 152, 206, 153, 206, 154, 206, 155, 206, 156, 206, 157, 206, 158, 206, 159, 206, 160, 206, 161, 206, 163, 206, 164, 206, 165, 206, 166, 206, 167, 206, 168, 206, 169, 206, 177, 206, 178, 206, 179, 206, 180, 206, 181, 206, 182, 206, 183, 206, 184, 206, 185, 206, 186, 206, 187, 206, 188, 206, 189, 206, 190, 206, 191, 207, 128, 207, 129, 207, 131, 207, 132, 207, 133, 207, 134, 207, 135, 207, 136, 207, 137, 227, 132, 133, 227, 132, 134, 227, 132, 135, 227, 132, 136, 227, 132, 137, 227, 132, 138, 227, 132, 139, 227, 132, 140, 227, 132, 141, 227, 132, 142, 227, 132, 143, 227, 132, 144, 227, 132, 145, 227, 132, 146, 227, 132, 147, 227, 132, 148, 227, 132, 149, 227, 132, 150, 227, 132, 151, 227, 132, 152, 227, 132, 153, 227, 132, 154, 227, 132, 155, 227, 132, 156, 227, 132, 157, 227, 132, 158, 227, 132, 159, 227, 132, 160, 227, 132, 161, 227, 132, 162, 227, 132, 163, 227, 132, 164, 227, 132, 165, 227, 132, 166, 227, 132, 167, 227, 132, 168, 227, 132, 169, 203, 153, 203, 137, 203, 138, 203, 135, 203, 139]⟩
def m4 : ByteArray := ⟨#[228, 184, 128, 228, 185, 153, 228, 184, 129, 228, 184, 131, 228, 185, 131, 228, 185, 157, 228, 186, 134, 228, 186, 140, 228, 186, 186, 229, 132, 191, 229, 133, 165, 229, 133, 171, 229, 135, 160, 229, 136, 128, 229, 136, 129, 229, 138, 155, 229, 140, 149, 229, 141, 129, 229, 141, 156, 229, 143, 136, 228, 184, 137, 228, 184, 139, 228, 184, 136, 228, 184, 138, 228, 184, 171, 228, 184, 184, 229, 135, 161, 228, 185, 133, 228, 185, 136, 228, 185, 159, 228, 185, 158, 228, 186, 142, 228, 186, 161, 229, 133, 128, 229, 136, 131, 229, 139, 186, 229, 141, 131, 229, 143, 137, 229, 143, 163, 229, 156, 159, 229, 163, 171, 229, 164, 149, 229, 164, 167, 229, 165, 179, 229, 173, 144, 229, 173, 145, 229, 173, 147, 229, 175, 184, 229, 176, 143, 229, 176, 162, 229, 176, 184, 229, 177, 177, 229, 183, 157, 229, 183, 165, 229, 183, 177, 229, 183, 178, 229, 183, 179, 229, 183, 190, 229, 185, 178, 229, 187, 190, 229, 188, 139, 229, 188, 147, 230, 137, 141, 228, 184, 145, 228, 184, 144, 228, 184, 141, 228, 184, 173, 228, 184, 176, 228, 184, 185, 228, 185, 139, 229, 176, 185, 228, 186, 136, 228, 186, 145, 228, 186, 149, 228, 186, 146, 228, 186, 148, 228, 186, 162, 228, 187, 129, 228, 187, 128, 228, 187, 131, 228, 187, 134, 228, 187, 135, 228, 187, 141, 228, 187, 138, 228, 187, 139, 228, 187, 132, 229, 133, 131, 229, 133, 129, 229, 133, 167, 229, 133, 173, 229, 133, 174, 229, 133, 172, 229, 134, 151, 229, 135, 182, 229, 136, 134, 229, 136, 135, 229, 136, 136, 229, 139, 187, 229, 139, 190, 229, 139, 191, 229, 140, 150, 229, 140, 185, 229, 141, 136, 229, 141, 135, 229, 141, 133, 229, 141, 158, 229, 142, 132, 229, 143, 139, 229, 143, 138, 229, 143, 141, 229, 163, 172, 229, 164, 169, 229, 164, 171, 229, 164, 170, 229, 164, 173, 229, 173, 148, 229, 176, 145, 229, 176, 164, 229, 176, 186, 229, 177, 175, 229, 183, 180, 229, 185, 187, 229, 187, 191, 229, 188, 148, 229, 188, 149, 229, 191, 131, 230, 136, 136, 230, 136, 182, 230, 137, 139, 230, 137, 142, 230, 148, 175, 230, 150, 135, 230, 150, 151, 230, 150, 164, 230, 150, 185, 230, 151, 165, 230, 155, 176, 230, 156, 136, 230, 156, 168, 230, 172, 160, 230, 173, 162, 230, 173, 185, 230, 175, 139, 230, 175, 148, 230, 175, 155, 230, 176, 143, 230, 176, 180, 231, 129, 171, 231, 136, 170, 231, 136, 182, 231, 136, 187, 231, 137, 135, 231, 137, 153, 231, 137, 155, 231, 138, 172, 231, 142, 139, 228, 184, 153]⟩
def m5 : ByteArray := ⟨#[228, 184, 150, 228, 184, 149, 228, 184, 148, 228, 184, 152, 228, 184, 187, 228, 185, 141, 228, 185, 143, 228, 185, 142, 228, 187, 165, 228, 187, 152, 228, 187, 148, 228, 187, 149, 228, 187, 150, 228, 187, 151, 228, 187, 163, 228, 187, 164, 228, 187, 153, 228, 187, 158, 229, 133, 133, 229, 133, 132, 229, 134, 137, 229, 134, 138, 229, 134, 172, 229, 135, 185, 229, 135, 186, 229, 135, 184, 229, 136, 138, 229, 138, 160, 229, 138, 159, 229, 140, 133, 229, 140, 134, 229, 140, 151, 229, 140, 157, 228, 187, 159, 229, 141, 138, 229, 141, 137, 229, 141, 161, 229, 141, 160, 229, 141, 175, 229, 141, 174, 229, 142, 187, 229, 143, 175, 229, 143, 164, 229, 143, 179, 229, 143, 172, 229, 143, 174, 229, 143, 169, 229, 143, 168, 229, 143, 188, 229, 143, 184, 229, 143, 181, 229, 143, 171, 229, 143, 166, 229, 143, 170, 229, 143, 178, 229, 143, 177, 229, 143, 176, 229, 143, 165, 229, 143, 173, 229, 143, 187, 229, 155, 155, 229, 155, 154, 229, 164, 150, 229, 164, 174, 229, 164, 177, 229, 165, 180, 229, 165, 182, 229, 173, 149, 229, 174, 131, 229, 176, 188, 229, 183, 168, 229, 183, 167, 229, 183, 166, 229, 184, 130, 229, 184, 131, 229, 185, 179, 229, 185, 188, 229, 188, 129, 229, 188, 152, 229, 188, 151, 229, 191, 133, 230, 136, 138, 230, 137, 147, 230, 137, 148, 230, 137, 146, 230, 137, 145, 230, 150, 165, 230, 151, 166, 230, 156, 174, 230, 156, 172, 230, 156, 170, 230, 156, 171, 230, 156, 173, 230, 173, 163, 230, 175, 141, 230, 176, 145, 230, 176, 144, 230, 176, 184, 230, 177, 129, 230, 177, 128, 230, 176, 190, 231, 138, 175, 231, 142, 132, 231, 142, 137, 231, 147, 156, 231, 147, 166, 231, 148, 152, 231, 148, 159, 231, 148, 168, 231, 148, 169, 231, 148, 176, 231, 148, 177, 231, 148, 178, 231, 148, 179, 231, 150, 139, 231, 153, 189, 231, 154, 174, 231, 154, 191, 231, 155, 174, 231, 159, 155, 231, 159, 162, 231, 159, 179, 231, 164, 186, 231, 166, 190, 231, 169, 180, 231, 171, 139, 228, 184, 158, 228, 184, 159, 228, 185, 146, 228, 185, 147, 228, 185, 169, 228, 186, 153, 228, 186, 164, 228, 186, 166, 228, 186, 165, 228, 187, 191, 228, 188, 137, 228, 188, 153, 228, 188, 138, 228, 188, 149, 228, 188, 141, 228, 188, 144, 228, 188, 145, 228, 188, 143, 228, 187, 178, 228, 187, 182, 228, 187, 187, 228, 187, 176, 228, 187, 179, 228, 187, 189, 228, 188, 129, 228, 188, 139, 229, 133, 137, 229, 133, 135, 229, 133, 134, 229, 133, 136, 229, 133, 168]⟩
/-- The pieces of the row 88, and those of the others. -/
def p88 : List Pce := [⟨22, 0, 0, r1⟩, ⟨35, 0, 0, r2⟩, ⟨37, 0, 0, r3⟩, ⟨53, 0, 0, r4⟩, ⟨63, 0, 0, r5⟩, ⟨66, 0, 0, r6⟩, ⟨68, 0, 0, r7⟩]
def pA1 : List Pce := [⟨0, 0, 0, m1⟩]
def pA3 : List Pce := [⟨0, 0, 0, m3⟩]
def pA4 : List Pce := [⟨0, 0, 0, m4⟩]
def pA5 : List Pce := [⟨0, 0, 0, m5⟩]
def rowP (l : Nat) : List Pce := if l = 136 then p88 else if l = 161 then pA1 else if l = 163 then pA3 else if l = 164 then pA4 else if l = 165 then pA5 else []
/-- A row's pieces, as cells and signs. -/
def zOf (l : List Pce) : List (Nat × List Nat) := l.map fun p => (p.f.toNat, (pt.scan p.s).1)
/-- What is found of a cell in pieces. -/
def saO (zs : List Nat) (A : Int) : Option Nat := if 0 ≤ A then zs[A.toNat]? else none
def lsS (C : Int) : List (Nat × List Nat) → Option Nat
  | [] => none
  | q :: l => match saO q.2 (C - (q.1 : Int)) with
    | some z => some z
    | none => lsS C l
theorem row_all : (ldL.all fun l => (List.range 157).all fun c => decide (lsS (c : Int) (zOf (rowP l)) = if sgC l c = 0 then none else some (sgC l c))) = true := by decide +kernel
theorem row_ok : (ldL.all fun l => (rowP l).all fun p => decide (0 ≤ p.f ∧ p.f ≤ 156 ∧ p.t = 0 ∧ p.c = 0 ∧ p.s.size ≤ 1000 ∧ (pt.scan p.s).2 = none)) = true := by decide +kernel
theorem ldL_mem {l : Nat} (h : l = 136 ∨ l = 161 ∨ l = 163 ∨ l = 164 ∨ l = 165) : l ∈ ldL := by
  rcases h with rfl | rfl | rfl | rfl | rfl <;> decide
theorem row_far {l : Nat} (h : ¬ (l = 136 ∨ l = 161 ∨ l = 163 ∨ l = 164 ∨ l = 165)) : rowP l = [] := by
  unfold rowP; rw [if_neg (by omega), if_neg (by omega), if_neg (by omega), if_neg (by omega), if_neg (by omega)]
/-- What is found of a cell in a row is the document's. -/
theorem row_at (l c : Nat) (hc : c < 157) : lsS (c : Int) (zOf (rowP l)) = if sgC l c = 0 then none else some (sgC l c) := by
  by_cases h : l = 136 ∨ l = 161 ∨ l = 163 ∨ l = 164 ∨ l = 165
  · have h1 := List.all_eq_true.1 row_all l (ldL_mem h)
    have h2 := List.all_eq_true.1 h1 c (List.mem_range.2 hc)
    exact of_decide_eq_true h2
  · rw [row_far h, sgC_none h]; rfl
theorem row_fine (l : Nat) {p : Pce} (hp : p ∈ rowP l) : 0 ≤ p.f ∧ p.f ≤ 156 ∧ p.t = 0 ∧ p.c = 0 ∧ p.s.size ≤ 1000 ∧ (pt.scan p.s).2 = none := by
  by_cases h : l = 136 ∨ l = 161 ∨ l = 163 ∨ l = 164 ∨ l = 165
  · have h1 := List.all_eq_true.1 row_ok l (ldL_mem h)
    have h2 := List.all_eq_true.1 h1 p hp
    exact of_decide_eq_true h2
  · rw [row_far h] at hp; cases hp
theorem row_pok (l : Nat) : ∀ p ∈ rowP l, p.ok := fun p hp => by
  obtain ⟨h1, h2, h3, h4, h5, _⟩ := row_fine l hp
  exact ⟨by omega, by omega, by omega, by omega, by omega, by omega, by omega⟩
theorem row_len (l : Nat) : (rowP l).length ≤ 7 := by
  by_cases h : l = 136 ∨ l = 161 ∨ l = 163 ∨ l = 164 ∨ l = 165
  · rcases h with rfl | rfl | rfl | rfl | rfl <;> decide
  · rw [row_far h]; decide
theorem zOf_drop (l : List Pce) (j : Nat) (h : j < l.length) : (zOf l).drop j = ((l.getD j tb.p0).f.toNat, (pt.scan (l.getD j tb.p0).s).1) :: (zOf l).drop (j + 1) := by
  have hl : j < (zOf l).length := by unfold zOf; rw [List.length_map]; exact h
  rw [List.drop_eq_getElem_cons hl]
  congr 1
  simp [zOf, List.getD, List.getElem?_eq_getElem h]
theorem saO_past {zs : List Nat} {A : Int} {k : Nat} (h : zs.length ≤ k) (hA : ¬ (0 ≤ A ∧ A < (k : Int))) : saO zs A = none := by
  unfold saO
  by_cases h0 : 0 ≤ A
  · rw [if_pos h0]; exact List.getElem?_eq_none (by omega)
  · rw [if_neg h0]
end Go.Proofs.YtbgbgigpcegenaaGreatDoor.bp
namespace Go.Proofs.YtbgbgigpcegenaaGreatDoor.bg
open Go.RowKit Go.Lib
set_option linter.unusedVariables false
theorem wrap64 {x : Int} (h0 : -9223372036854775808 ≤ x) (h1 : x ≤ 9223372036854775807) : IntKind.i64.wrap x = x := by simp [IntKind.wrap, IntKind.bits, IntKind.signed]; omega
theorem wrap32 {x : Int} (h0 : -2147483648 ≤ x) (h1 : x ≤ 2147483647) : IntKind.i32.wrap x = x := by simp [IntKind.wrap, IntKind.bits, IntKind.signed]; omega
theorem rInt {k : IntKind} {a b : Int} (h : a = b) : Ending.returned (.int k a) = .returned (.int k b) := by rw [h]
/-- The cell of a second byte; -1: it is none. -/
def cellI (b : Nat) : Int := match cell b with
  | some c => (c : Nat)
  | none => -1
theorem cellI_1 {b : Nat} (h : 64 ≤ b ∧ b ≤ 126) : cellI b = (b : Int) - 64 := by unfold cellI cell; rw [if_pos h]; show ((b - 64 : Nat) : Int) = _; omega
theorem cellI_2 {b : Nat} (h : 161 ≤ b ∧ b ≤ 254) : cellI b = (b : Int) - 161 + 63 := by unfold cellI cell; rw [if_neg (by omega), if_pos h]; show ((b - 98 : Nat) : Int) = _; omega
theorem cellI_0 {b : Nat} (h1 : ¬ (64 ≤ b ∧ b ≤ 126)) (h2 : ¬ (161 ≤ b ∧ b ≤ 254)) : cellI b = -1 := by unfold cellI cell; rw [if_neg h1, if_neg h2]
set_option maxRecDepth 100000 in
set_option maxHeartbeats 1000000 in
theorem cell_any (b : Nat) (w : World) (hb : b < 256) : Calls Tryz.prog 117 #[.int .i64 b] w fun e w' => e = .returned (.int .i64 (cellI b)) ∧ w = w' := by
  have hh : b < 64 ∨ (64 ≤ b ∧ b ≤ 126) ∨ (127 ≤ b ∧ b < 161) ∨ (161 ≤ b ∧ b ≤ 254) ∨ b = 255 := by omega
  obtain ⟨V, hV⟩ : ∃ V, V = cellI b := ⟨_, rfl⟩
  rw [← hV]
  generalize hB : (b : Int) = B
  rcases hh with h | h | h | h | h
  · have hv : V = -1 := by rw [hV, cellI_0 (by omega) (by omega)]
    subst hv
    have g0 : ¬ 64 ≤ B := by omega
    have g1 : ¬ 161 ≤ B := by omega
    clear hV hB h
    go_enter Tryz.func117, Tryz.ntmps117
    go_wp2
    go_ret
    exact ⟨rfl, rfl⟩
  · have hv : V = B - 64 := by rw [hV, cellI_1 h]; omega
    subst hv
    have g0 : 64 ≤ B := by omega
    have g1 : B ≤ 126 := by omega
    clear hV hB h
    go_enter Tryz.func117, Tryz.ntmps117
    go_wp2
    go_ret
    exact ⟨rfl, rfl⟩
  · have hv : V = -1 := by rw [hV, cellI_0 (by omega) (by omega)]
    subst hv
    have g0 : 64 ≤ B := by omega
    have g3 : ¬ B ≤ 126 := by omega
    have g1 : ¬ 161 ≤ B := by omega
    clear hV hB h
    go_enter Tryz.func117, Tryz.ntmps117
    go_wp2
    go_ret
    exact ⟨rfl, rfl⟩
  · have hv : V = B - 161 + 63 := by rw [hV, cellI_2 h]; omega
    subst hv
    have g0 : 64 ≤ B := by omega
    have g3 : ¬ B ≤ 126 := by omega
    have g1 : 161 ≤ B := by omega
    have g2 : B ≤ 254 := by omega
    clear hV hB h
    go_enter Tryz.func117, Tryz.ntmps117
    go_wp2
    go_ret
    exact ⟨rfl, rfl⟩
  · have hv : V = -1 := by rw [hV, cellI_0 (by omega) (by omega)]
    subst hv
    obtain rfl : B = 255 := by omega
    clear hV hB h
    go_enter Tryz.func117, Tryz.ntmps117
    go_wp2
    go_ret
    exact ⟨rfl, rfl⟩
def RowPost (w : World) (l : Nat) : Ending → World → Prop := fun e w' => ∃ s, e = .returned (.string s) ∧ pt.scan s = (rowL l, none) ∧ s.size ≤ 2000 ∧ w = w'
set_option maxRecDepth 100000 in
set_option maxHeartbeats 2000000 in
theorem row_any (l : Nat) (w : World) : Calls Tryz.prog 119 #[.int .i64 l] w (RowPost w l) := by
  by_cases hl : l = 136 ∨ l = 161 ∨ l = 163 ∨ l = 164 ∨ l = 165
  · rcases hl with rfl | rfl | rfl | rfl | rfl
    all_goals
      go_enter Tryz.func119, Tryz.ntmps119
      go_wp2_with fail
      go_ret
      exact ⟨_, rfl, by decide +kernel, by decide +kernel, rfl⟩
  · have hr : Hid (rowL l = []) := Lib.hid (by unfold rowL; rw [if_neg (by omega), if_neg (by omega), if_neg (by omega), if_neg (by omega), if_neg (by omega)])
    have e0 : ((l : Int) == 136) = false := beq_eq_false_iff_ne.2 (by omega)
    have e1 : ((l : Int) == 161) = false := beq_eq_false_iff_ne.2 (by omega)
    have e2 : ((l : Int) == 163) = false := beq_eq_false_iff_ne.2 (by omega)
    have e3 : ((l : Int) == 164) = false := beq_eq_false_iff_ne.2 (by omega)
    have e4 : ((l : Int) == 165) = false := beq_eq_false_iff_ne.2 (by omega)
    clear hl
    go_enter Tryz.func119, Tryz.ntmps119
    go_wp2_with fail
    go_ret
    exact ⟨_, rfl, by rw [hr.out]; decide +kernel, by decide +kernel, rfl⟩
set_option maxRecDepth 100000 in
set_option maxHeartbeats 1000000 in
theorem nth_any (L : List Nat) (s : ByteArray) (hs : pt.scan s = (L, none)) (hz : s.size ≤ 2000) (n : Nat) (hn : n ≤ 1000) (w : World) :
    Calls Tryz.prog 118 #[.string s, .int .i64 n] w fun e w' => e = .returned (.int .i32 ((L.getD n 0 : Nat) : Int)) ∧ Below w.heap.size w w' := by
  have hs1 : (pt.sc s s.size 0).1 = L := by have := congrArg Prod.fst hs; exact this
  have hs2 : (pt.sc s s.size 0).2 = none := by have := congrArg Prod.snd hs; exact this
  obtain ⟨V, hV⟩ : ∃ V, V = L.getD n 0 := ⟨_, rfl⟩
  have HV : Hid ((pt.sc s s.size 0).1.getD n 0 = V) := Lib.hid (by rw [hs1, hV])
  rw [← hV]
  have H2 := Lib.hid hs2
  clear hs hs1 hs2 hV
  go_enter Tryz.func118, Tryz.ntmps118
  go_wp2_with fail
  go_loopw [5, 6] (fun a t wr => ∃ (pos f i : Nat), Hid (pos ≤ s.size ∧ s.size ≤ pos + f ∧ i ≤ n) ∧ a = .int .i64 pos ∧ t = .int .i64 i ∧ Hid ((pt.sc s f pos).1.getD (n - i) 0 = V ∧ (pt.sc s f pos).2 = none) ∧ Below w.heap.size w wr) (fun a _ _ => s.size - (RowKit.intOf a).toNat)
  case atStart => exact ⟨0, s.size, 0, Lib.hid ⟨Nat.zero_le _, by omega, Nat.zero_le _⟩, rfl, rfl, Lib.hid ⟨HV.out, H2.out⟩, Below.refl _ _⟩
  case round =>
    obtain ⟨pos, f, i, hp, rfl, rfl, hg, hB⟩ := hrel
    have HB := Lib.hid hB
    clear hB
    by_cases hpt : pos < s.size
    · obtain ⟨f1, rfl⟩ : ∃ f1, f = f1 + 1 := ⟨f - 1, by have := hp.out; omega⟩
      obtain ⟨hg1, hg2⟩ := hg.out
      cases hb : pt.bad s pos with
      | true => rw [pt.sc_bad s (f1 + 1) pos hpt (by have := hp.out; omega) hb] at hg2; cases hg2
      | false =>
        rw [pt.sc_good s f1 pos hpt hb] at hg1 hg2
        have hat := fun w2 => pt.at_any s pos w2 hpt (by omega)
        rw [hb] at hat
        simp only [Bool.false_eq_true, if_false] at hat
        have hw1 := width_pos s pos
        have hw2 := pt.width_fits s pos hpt
        have HG := Lib.hid hg1; have HH2 := Lib.hid hg2
        clear hg1 hg2 hb hg
        generalize Utf8.decode s pos = d at *
        have HAT := Lib.hid hat
        have HW1 := Lib.hid hw1; have HW2 := Lib.hid hw2
        have x1 : (d.2 : Int) ≤ 2000 := by omega
        have x0 : (0 : Int) ≤ (d.2 : Int) := by omega
        have y0 : (0 : Int) ≤ (pos : Int) := by omega
        have y1 : (pos : Int) < (s.size : Int) := by omega
        have y2 : (s.size : Int) ≤ 2000 := by omega
        have z1 : (i : Int) ≤ 1000 := by have := hp.out; omega
        clear hat hw1 hw2
        by_cases hi : i = n
        · have hV2 : Hid (d.1 = V) := Lib.hid (by have := HG.out; rw [hi, Nat.sub_self] at this; simpa using this)
          have e1 : ((i : Int) == (n : Int)) = true := by rw [hi]; exact beq_self_eq_true _
          have FIN : Hid (Ending.returned (.int .i32 ((d.1 : Nat) : Int)) = .returned (.int .i32 ((V : Nat) : Int))) := Lib.hid (by rw [hV2.out])
          clear hi
          go_wp2_with (go_at_call 35; refine (HAT.out _).mono ?_; rintro e1 w1 ⟨rfl, hb1⟩)
          go_ret
          exact ⟨FIN.out, HB.out.trans (hb1.mono HB.out.size)⟩
        · have e1 : ((i : Int) == (n : Int)) = false := beq_eq_false_iff_ne.2 (by omega)
          have hres : Hid ((pt.sc s f1 (pos + d.2)).1.getD (n - (i + 1)) 0 = V) := Lib.hid (by
            have := HG.out
            have h3 := hp.out
            rw [show n - i = (n - (i + 1)) + 1 by omega] at this
            simpa using this)
          have HI := Lib.hid hi
          clear hi
          go_wp2_with (go_at_call 35; refine (HAT.out _).mono ?_; rintro e1 w1 ⟨rfl, hb1⟩)
          go_roundw
          case rel => exact ⟨pos + d.2, f1, i + 1, Lib.hid ⟨HW2.out, by have := hp.out; have := HW1.out; omega, by have := hp.out; have := HI.out; omega⟩, by go_num, by go_num, Lib.hid ⟨hres.out, HH2.out⟩, HB.out.trans (hb1.mono HB.out.size)⟩
          case measure => simp [RowKit.intOf]; have := HW1.out; omega
    · have hV2 : Hid (Ending.returned (.int .i32 0) = .returned (.int .i32 ((V : Nat) : Int))) := Lib.hid (by
        have h1 := hg.out.1
        rw [pt.sc_end s f pos hpt] at h1
        rw [← h1]; simp)
      have y1 : ¬ (pos : Int) < (s.size : Int) := by omega
      go_wp2_with fail
      go_ret
      exact ⟨hV2.out, HB.out⟩
end Go.Proofs.YtbgbgigpcegenaaGreatDoor.bg
