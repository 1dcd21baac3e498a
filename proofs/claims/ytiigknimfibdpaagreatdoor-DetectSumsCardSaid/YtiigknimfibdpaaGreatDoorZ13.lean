/- Several texts in one. -/
import Derived.Test.YtiigknimfibdpaaGreatDoorZ4
import Derived.Test.YtiigknimfibdpaaGreatDoorShelf
import Derived.Laws.BitsLemmas
namespace Go.Proofs.YtiigknimfibdpaaGreatDoor.jo
open Go.RowKit Go.Lib
set_option linter.unusedVariables false
def K0 : ByteArray := ⟨#[1, 2, 3, 4, 5, 6, 7, 8, 9, 10, 11, 12, 13, 14, 15, 16, 17, 18, 19, 20]⟩
def K1 : ByteArray := ⟨#[2, 3, 4, 5, 6, 7, 10, 11, 12, 13, 14, 15, 18, 19, 20, 21, 22, 23, 26, 27, 28, 29]⟩
def K2 : ByteArray := ⟨#[1, 2, 3, 4, 5, 6, 7, 8, 9, 10, 11, 12, 13, 14, 15, 16, 17, 19, 20, 21, 22, 23, 24, 25, 26, 27, 28, 29]⟩
/-- The table of kinds holds what the text lays. -/
structure KD (w : World) : Prop where
  c0 : w.cell? ⟨3, 0, none⟩ = some (.string K0)
  c1 : w.cell? ⟨3, 1, none⟩ = some (.int .i64 (-1))
  c2 : w.cell? ⟨3, 2, none⟩ = some (.int .i64 10)
  c3 : w.cell? ⟨3, 3, none⟩ = some (.string K1)
  c4 : w.cell? ⟨3, 4, none⟩ = some (.int .i64 (-1))
  c5 : w.cell? ⟨3, 5, none⟩ = some (.int .i64 5)
  c6 : w.cell? ⟨3, 6, none⟩ = some (.string K2)
  c7 : w.cell? ⟨3, 7, none⟩ = some (.int .i64 0)
  c8 : w.cell? ⟨3, 8, none⟩ = some (.int .i64 0)
theorem KD.lt {w : World} (h : KD w) : 3 < w.heap.size := World.block_lt_of_cell? w _ h.c0
theorem KD.below {w w' : World} (h : KD w) {B : Nat} (hb : Below B w w') (hB : 3 < B) : KD w' :=
  ⟨(hb.cell (p := ⟨3, 0, none⟩) hB).trans h.c0, (hb.cell (p := ⟨3, 1, none⟩) hB).trans h.c1, (hb.cell (p := ⟨3, 2, none⟩) hB).trans h.c2, (hb.cell (p := ⟨3, 3, none⟩) hB).trans h.c3, (hb.cell (p := ⟨3, 4, none⟩) hB).trans h.c4, (hb.cell (p := ⟨3, 5, none⟩) hB).trans h.c5, (hb.cell (p := ⟨3, 6, none⟩) hB).trans h.c6, (hb.cell (p := ⟨3, 7, none⟩) hB).trans h.c7, (hb.cell (p := ⟨3, 8, none⟩) hB).trans h.c8⟩
theorem KD.stay {w w' : World} (h : KD w) (hb : Below w.heap.size w w') : KD w' := h.below hb h.lt
/-- A store elsewhere. -/
theorem KD.set {w : World} (h : KD w) (p : Addr) (v : Value) (hp : 3 < p.block) : KD (w.setCell p v) := h.below ((Below.refl (3 + 1) w).setCell (by omega) v) (by omega)
theorem and31 (x : Int) (h0 : 0 ≤ x) (h1 : x < 65536) : bits .and .i64 x 31 = x % 32 := bits_mask .i64 31 (by decide) (fun n a b => wrap64 (by omega) (by omega)) 5 (by decide) x h0 (by omega)
theorem all_top : (List.range 256).all (fun a => (List.range 256).all fun b => decide ((a * 256 + b) &&& 32768 = if a * 256 + b < 32768 then 0 else 32768)) = true := by decide +kernel
theorem nat_top (c : Nat) (h : c < 65536) : c &&& 32768 = if c < 32768 then 0 else 32768 := by
  have h2 := List.all_eq_true.1 all_top (c / 256) (List.mem_range.2 (by omega))
  have h3 := List.all_eq_true.1 h2 (c % 256) (List.mem_range.2 (by omega))
  rw [decide_eq_true_eq, show c / 256 * 256 + c % 256 = c by omega] at h3
  exact h3
theorem and_top (c : Nat) (h : c < 65536) : bits .and .i64 (c : Int) 32768 = if c < 32768 then 0 else 32768 := by
  have := (bits_nat .i64 31 (by decide) (fun n a b => wrap64 (by omega) (by omega)) c 32768 (by omega) (by omega)).1
  rw [nat_top c h] at this
  rw [show (32768 : Int) = ((32768 : Nat) : Int) from rfl, this]
  split <;> rfl
/-- What the codes tell: initials, medials, finals. -/
def nm0 (c : Nat) : Option Int := if c = 0 ∨ 20 < c then none else some ((c : Int) - 2)
def nm1 (c : Nat) : Option Int := if med c = 98 then none else some (nI (med c))
def nm2 (c : Nat) : Option Int := if fin c = 98 then none else some (nI (fin c))
/-- Where it stands in the row of a kind's codes. -/
def ixOf (f : Int) : Option Int → Int
  | none => -1
  | some v => v - f
def nmV : Option Int → Value
  | none => .tuple #[.int .i64 0, .bool false]
  | some v => .tuple #[.int .i64 v, .bool true]
theorem ix0 : ∀ c < 32, Lib.indexByte K0.data.toList (((c : Nat) : Int).toNat.toUInt8) = ixOf (-1) (nm0 c) := by decide +kernel
theorem ix1 : ∀ c < 32, Lib.indexByte K1.data.toList (((c : Nat) : Int).toNat.toUInt8) = ixOf (-1) (nm1 c) := by decide +kernel
theorem ix2 : ∀ c < 32, Lib.indexByte K2.data.toList (((c : Nat) : Int).toNat.toUInt8) = ixOf 0 (nm2 c) := by decide +kernel
theorem nm0_le : ∀ c < 32, ∀ v, nm0 c = some v → -1 ≤ v ∧ v ≤ 30 := by
  have : ∀ c < 32, (nm0 c).all (fun v => decide (-1 ≤ v ∧ v ≤ 30)) = true := by decide
  intro c hc v h; have := this c hc; rw [h] at this; simpa using this
theorem nm1_le : ∀ c < 32, ∀ v, nm1 c = some v → -1 ≤ v ∧ v ≤ 30 := by
  have : ∀ c < 32, (nm1 c).all (fun v => decide (-1 ≤ v ∧ v ≤ 30)) = true := by decide
  intro c hc v h; have := this c hc; rw [h] at this; simpa using this
theorem nm2_le : ∀ c < 32, ∀ v, nm2 c = some v → 0 ≤ v ∧ v ≤ 30 := by
  have : ∀ c < 32, (nm2 c).all (fun v => decide (0 ≤ v ∧ v ≤ 30)) = true := by decide
  intro c hc v h; have := this c hc; rw [h] at this; simpa using this
def IxC (K : ByteArray) (c D : Int) : Prop := ∀ w2, Calls Tryz.prog 205 #[.string K, .int .u8 c] w2 fun e w' => e = .returned (.int .i64 D) ∧ w2 = w'
theorem ixC (K : ByteArray) (c D : Int) (h : Lib.indexByte K.data.toList c.toNat.toUInt8 = D) : IxC K c D := fun w2 => (Tryz.strings_IndexByte K c w2).mono fun e w' h2 => ⟨by rw [h2.1, h], h2.2.symm⟩
set_option maxRecDepth 100000 in
set_option maxHeartbeats 1000000 in
theorem number0 (c : Nat) (w : World) (hc : c < 32) (hK : KD w) : Calls Tryz.prog 171 #[.int .i64 0, .int .i64 c] w fun e w' => e = .returned (nmV (nm0 c)) ∧ Below w.heap.size w w' := by
  have HX := Lib.hid (ixC K0 c _ (ix0 c hc))
  have HL := Lib.hid (nm0_le c hc)
  obtain ⟨c0, c1, c2, c3, c4, c5, c6, c7, c8⟩ := hK
  have g0 : (0 : Int) ≤ (c : Int) := by omega
  have g1 : (c : Int) < 32 := by omega
  generalize nm0 c = o at *
  cases o with
  | none =>
    replace HX : Hid (IxC K0 c (-1)) := HX
    clear HL
    go_enter Tryz.func171, Tryz.ntmps171
    go_wp2_with (go_at_call 205; refine (HX.out _).mono ?_; rintro e2 w2 ⟨rfl, rfl⟩)
    go_ret2
    exact ⟨rfl, Below.refl _ _⟩
  | some v =>
    obtain ⟨v0, v1⟩ := HL.out v rfl
    obtain ⟨D, hD⟩ : ∃ D, D = v - (-1) := ⟨_, rfl⟩
    replace HX : Hid (IxC K0 c D) := by rw [hD]; exact HX
    have hv : Hid (v = (-1) + D) := Lib.hid (by omega)
    have d0 : 0 ≤ D := by omega
    have d1 : D ≤ 31 := by omega
    clear HL hD v0 v1
    go_enter Tryz.func171, Tryz.ntmps171
    go_wp2_with (go_at_call 205; refine (HX.out _).mono ?_; rintro e2 w2 ⟨rfl, rfl⟩)
    go_ret2
    exact ⟨by rw [hv.out]; first | rfl | (simp [nmV]), Below.refl _ _⟩
set_option maxRecDepth 100000 in
set_option maxHeartbeats 1000000 in
theorem number1 (c : Nat) (w : World) (hc : c < 32) (hK : KD w) : Calls Tryz.prog 171 #[.int .i64 1, .int .i64 c] w fun e w' => e = .returned (nmV (nm1 c)) ∧ Below w.heap.size w w' := by
  have HX := Lib.hid (ixC K1 c _ (ix1 c hc))
  have HL := Lib.hid (nm1_le c hc)
  obtain ⟨c0, c1, c2, c3, c4, c5, c6, c7, c8⟩ := hK
  have g0 : (0 : Int) ≤ (c : Int) := by omega
  have g1 : (c : Int) < 32 := by omega
  generalize nm1 c = o at *
  cases o with
  | none =>
    replace HX : Hid (IxC K1 c (-1)) := HX
    clear HL
    go_enter Tryz.func171, Tryz.ntmps171
    go_wp2_with (go_at_call 205; refine (HX.out _).mono ?_; rintro e2 w2 ⟨rfl, rfl⟩)
    go_ret2
    exact ⟨rfl, Below.refl _ _⟩
  | some v =>
    obtain ⟨v0, v1⟩ := HL.out v rfl
    obtain ⟨D, hD⟩ : ∃ D, D = v - (-1) := ⟨_, rfl⟩
    replace HX : Hid (IxC K1 c D) := by rw [hD]; exact HX
    have hv : Hid (v = (-1) + D) := Lib.hid (by omega)
    have d0 : 0 ≤ D := by omega
    have d1 : D ≤ 31 := by omega
    clear HL hD v0 v1
    go_enter Tryz.func171, Tryz.ntmps171
    go_wp2_with (go_at_call 205; refine (HX.out _).mono ?_; rintro e2 w2 ⟨rfl, rfl⟩)
    go_ret2
    exact ⟨by rw [hv.out]; first | rfl | (simp [nmV]), Below.refl _ _⟩
set_option maxRecDepth 100000 in
set_option maxHeartbeats 1000000 in
theorem number2 (c : Nat) (w : World) (hc : c < 32) (hK : KD w) : Calls Tryz.prog 171 #[.int .i64 2, .int .i64 c] w fun e w' => e = .returned (nmV (nm2 c)) ∧ Below w.heap.size w w' := by
  have HX := Lib.hid (ixC K2 c _ (ix2 c hc))
  have HL := Lib.hid (nm2_le c hc)
  obtain ⟨c0, c1, c2, c3, c4, c5, c6, c7, c8⟩ := hK
  have g0 : (0 : Int) ≤ (c : Int) := by omega
  have g1 : (c : Int) < 32 := by omega
  generalize nm2 c = o at *
  cases o with
  | none =>
    replace HX : Hid (IxC K2 c (-1)) := HX
    clear HL
    go_enter Tryz.func171, Tryz.ntmps171
    go_wp2_with (go_at_call 205; refine (HX.out _).mono ?_; rintro e2 w2 ⟨rfl, rfl⟩)
    go_ret2
    exact ⟨rfl, Below.refl _ _⟩
  | some v =>
    obtain ⟨v0, v1⟩ := HL.out v rfl
    obtain ⟨D, hD⟩ : ∃ D, D = v - 0 := ⟨_, rfl⟩
    replace HX : Hid (IxC K2 c D) := by rw [hD]; exact HX
    have hv : Hid (v = 0 + D) := Lib.hid (by omega)
    have d0 : 0 ≤ D := by omega
    have d1 : D ≤ 31 := by omega
    clear HL hD v0 v1
    go_enter Tryz.func171, Tryz.ntmps171
    go_wp2_with (go_at_call 205; refine (HX.out _).mono ?_; rintro e2 w2 ⟨rfl, rfl⟩)
    go_ret2
    exact ⟨by rw [hv.out]; first | rfl | (simp [nmV]), Below.refl _ _⟩
end Go.Proofs.YtiigknimfibdpaaGreatDoor.jo
namespace Go.Proofs.YtiigknimfibdpaaGreatDoor.jo
open Go.RowKit Go.Lib
set_option linter.unusedVariables false
/-- A block of three numbers. -/
structure F3 (w : World) (b : Nat) (x y z : Int) : Prop where
  lt : b < w.heap.size
  c0 : w.cell? ⟨b, 0, none⟩ = some (.int .i64 x)
  c1 : w.cell? ⟨b, 1, none⟩ = some (.int .i64 y)
  c2 : w.cell? ⟨b, 2, none⟩ = some (.int .i64 z)
  fr : ∀ i, w.frozen? ⟨b, i, none⟩ = false
theorem F3.below {w w' : World} {b B : Nat} {x y z : Int} (h : F3 w b x y z) (hb : Below B w w') (hB : b < B) : F3 w' b x y z :=
  ⟨Nat.lt_of_lt_of_le h.lt hb.size, (hb.cell (p := ⟨b, 0, none⟩) hB).trans h.c0, (hb.cell (p := ⟨b, 1, none⟩) hB).trans h.c1, (hb.cell (p := ⟨b, 2, none⟩) hB).trans h.c2, fun i => (hb.frozen (p := ⟨b, i, none⟩) hB).trans (h.fr i)⟩
theorem f3_new (w : World) (x y z : Int) (t : Nat) : F3 (w.alloc (.cells #[.int .i64 x, .int .i64 y, .int .i64 z] t)) w.heap.size x y z := by
  refine ⟨by simp, ?_, ?_, ?_, fun i => by simp⟩ <;> (rw [World.cell?_alloc_mark]; rfl)
theorem F3.other {w : World} {b : Nat} {x y z : Int} (h : F3 w b x y z) (p : Addr) (v : Value) (hp : b ≠ p.block) : F3 (w.setCell p v) b x y z := by
  have hne : ∀ i, p ≠ (⟨b, i, none⟩ : Addr) := fun i he => hp (by rw [he])
  refine ⟨by simpa using h.lt, ?_, ?_, ?_, fun i => by rw [World.frozen?_setCell]; exact h.fr i⟩
  · rw [World.cell?_setCell_other _ _ _ _ (hne 0)]; exact h.c0
  · rw [World.cell?_setCell_other _ _ _ _ (hne 1)]; exact h.c1
  · rw [World.cell?_setCell_other _ _ _ _ (hne 2)]; exact h.c2
theorem F3.put0 {w : World} {b : Nat} {x y z : Int} (h : F3 w b x y z) (v : Int) : F3 (w.setCell ⟨b, 0, none⟩ (.int .i64 v)) b v y z := by
  refine ⟨by simpa using h.lt, World.cell?_setCell_same _ _ _ h.c0, ?_, ?_, fun i => by rw [World.frozen?_setCell]; exact h.fr i⟩
  · rw [World.cell?_setCell_other _ _ _ _ (by simp)]; exact h.c1
  · rw [World.cell?_setCell_other _ _ _ _ (by simp)]; exact h.c2
theorem F3.put1 {w : World} {b : Nat} {x y z : Int} (h : F3 w b x y z) (v : Int) : F3 (w.setCell ⟨b, 1, none⟩ (.int .i64 v)) b x v z := by
  refine ⟨by simpa using h.lt, ?_, World.cell?_setCell_same _ _ _ h.c1, ?_, fun i => by rw [World.frozen?_setCell]; exact h.fr i⟩
  · rw [World.cell?_setCell_other _ _ _ _ (by simp)]; exact h.c0
  · rw [World.cell?_setCell_other _ _ _ _ (by simp)]; exact h.c2
theorem F3.put2 {w : World} {b : Nat} {x y z : Int} (h : F3 w b x y z) (v : Int) : F3 (w.setCell ⟨b, 2, none⟩ (.int .i64 v)) b x y v := by
  refine ⟨by simpa using h.lt, ?_, ?_, World.cell?_setCell_same _ _ _ h.c2, fun i => by rw [World.frozen?_setCell]; exact h.fr i⟩
  · rw [World.cell?_setCell_other _ _ _ _ (by simp)]; exact h.c0
  · rw [World.cell?_setCell_other _ _ _ _ (by simp)]; exact h.c1
/-- What three codes tell together. -/
def pcV (o0 o1 o2 : Option Int) : Value := match o0, o1, o2 with
  | some a, some b, some d => .tuple #[.agg #[.int .i64 a, .int .i64 b, .int .i64 d], .bool true]
  | _, _, _ => .tuple #[.agg #[.int .i64 0, .int .i64 0, .int .i64 0], .bool false]
def pcNone : Value := .tuple #[.agg #[.int .i64 0, .int .i64 0, .int .i64 0], .bool false]
/-- The two blocks of the call; how far its loop has come. -/
def Pc (w : World) (o0 o1 o2 : Option Int) (k : Nat) (wr : World) : Prop :=
  ∃ x y z : Int, F3 wr w.heap.size 0 0 0 ∧ F3 wr (w.heap.size + 1) x y z ∧ KD wr ∧ Below w.heap.size w wr ∧ (0 < k → o0 = some x) ∧ (1 < k → o1 = some y) ∧ (2 < k → o2 = some z)
def NumC (k : Int) (c : Int) (v : Value) : Prop := ∀ w2, KD w2 → Calls Tryz.prog 171 #[.int .i64 k, .int .i64 c] w2 fun e w' => e = .returned v ∧ Below w2.heap.size w2 w'
set_option maxRecDepth 100000 in
set_option maxHeartbeats 8000000 in
theorem pc_core (c I M F : Int) (o0 o1 o2 : Option Int) (w : World) (hK : KD w) (h0 : 0 ≤ c) (h1 : c < 65536) (ht : bits .and .i64 c 32768 = 32768) (hI : bits .and .i64 (c / 1024) 31 = I) (hM : bits .and .i64 (c / 32) 31 = M) (hF : bits .and .i64 c 31 = F)
    (H0 : Hid (NumC 0 I (nmV o0))) (H1 : Hid (NumC 1 M (nmV o1))) (H2 : Hid (NumC 2 F (nmV o2))) :
    Calls Tryz.prog 130 #[.int .i64 c] w fun e w' => e = .returned (pcV o0 o1 o2) ∧ Below w.heap.size w w' := by
  obtain ⟨V, hV⟩ : ∃ V, V = pcV o0 o1 o2 := ⟨_, rfl⟩
  rw [← hV]
  have HV := Lib.hid hV
  have lt := hK.lt
  have A1 : Below w.heap.size w (w.alloc (.cells #[.int .i64 0, .int .i64 0, .int .i64 0] 156)) := (Below.refl _ _).alloc (Nat.le_refl _) _
  have A2 : Below (w.heap.size + 1) (w.alloc (.cells #[.int .i64 0, .int .i64 0, .int .i64 0] 156)) ((w.alloc (.cells #[.int .i64 0, .int .i64 0, .int .i64 0] 156)).alloc (.cells #[.int .i64 0, .int .i64 0, .int .i64 0] 156)) := (Below.refl _ _).alloc (by simp) _
  have P0 : Hid (Pc w o0 o1 o2 0 ((w.alloc (.cells #[.int .i64 0, .int .i64 0, .int .i64 0] 156)).alloc (.cells #[.int .i64 0, .int .i64 0, .int .i64 0] 156))) := Lib.hid (by
    refine ⟨0, 0, 0, (f3_new w 0 0 0 156).below A2 (by omega), ?_, hK.below (A1.trans (A2.mono (by omega))) lt, A1.trans (A2.mono (by omega)), by omega, by omega, by omega⟩
    have := f3_new (w.alloc (.cells #[.int .i64 0, .int .i64 0, .int .i64 0] 156)) 0 0 0 156
    rwa [World.size_alloc] at this)
  clear A1 A2 hV
  have HK := Lib.hid hK
  clear hK
  go_enter Tryz.func130, Tryz.ntmps130
  go_wp2_with fail
  go_loopw [12] (fun i wr => ∃ (k : Nat) (n : Int), Hid (n = (k : Int) ∧ k ≤ 3) ∧ i = .int .i64 n ∧ Pc w o0 o1 o2 k wr) (fun i _ => 3 - (RowKit.intOf i).toNat)
  case atStart => exact ⟨0, 0, Lib.hid ⟨rfl, by omega⟩, rfl, P0.out⟩
  case round =>
    obtain ⟨k, n, hk, rfl, hP⟩ := hrel
    obtain ⟨x, y, z, f0, f1, kd, hb, q0, q1, q2⟩ := hP
    have HB := Lib.hid hb; have HF0 := Lib.hid f0; have HF1 := Lib.hid f1; have HKR := Lib.hid kd
    have HQ := Lib.hid (⟨q0, q1, q2⟩ : (0 < k → o0 = some x) ∧ (1 < k → o1 = some y) ∧ (2 < k → o2 = some z))
    clear hb f0 f1 kd q0 q1 q2
    have hk4 : k = 0 ∨ k = 1 ∨ k = 2 ∨ k = 3 := by have := hk.out; omega
    rcases hk4 with rfl | rfl | rfl | rfl
    · obtain rfl : n = 0 := hk.out.1
      have c2 := HKR.out.c2
      cases o0 with
      | none =>
        replace H0 : Hid (NumC 0 I (.tuple #[.int .i64 0, .bool false])) := H0
        go_wp2_with (go_at_call 171; refine (H0.out _ HKR.out).mono ?_; rintro e2 w2 ⟨rfl, hb2⟩; have G0 := Lib.hid (HF0.out.below hb2 HF0.out.lt); have HB2 := Lib.hid (HB.out.trans (hb2.mono HB.out.size)); obtain ⟨a3, a0, a1, a2, a4⟩ := G0.out; clear hb2)
        refine bodyPost_ret (v := pcNone) ?_ rfl ⟨by rw [HV.out]; (first | rfl | (cases o0 <;> rfl) | (cases o0 <;> cases o1 <;> rfl)), ((HB2.out.setCell (p := ⟨w.heap.size, 0, none⟩) (Nat.le_refl _) _).setCell (p := ⟨w.heap.size, 1, none⟩) (Nat.le_refl _) _).setCell (p := ⟨w.heap.size, 2, none⟩) (Nat.le_refl _) _⟩
        simp [results, pcNone, Tryz.results130, go_sem, a0, a1, a2]
      | some v =>
        replace H0 : Hid (NumC 0 I (.tuple #[.int .i64 v, .bool true])) := H0
        go_wp2_with (go_at_call 171; refine (H0.out _ HKR.out).mono ?_; rintro e2 w2 ⟨rfl, hb2⟩; have G0 := Lib.hid (HF0.out.below hb2 HF0.out.lt); have G1 := Lib.hid (HF1.out.below hb2 HF1.out.lt); have K2 := Lib.hid (HKR.out.stay hb2); have HB2 := Lib.hid (HB.out.trans (hb2.mono HB.out.size)); obtain ⟨a3, a0, a1, a2, a4⟩ := G1.out; clear hb2)
        go_roundw
        case rel => exact ⟨1, 1, Lib.hid ⟨rfl, by omega⟩, rfl, v, y, z, G0.out.other _ _ (by simp), G1.out.put0 v, K2.out.set _ _ (by have := HK.out.lt; show _ < w.heap.size + 1; omega), HB2.out.setCell (p := ⟨w.heap.size + 1, 0, none⟩) (by simp) _, fun _ => rfl, by omega, by omega⟩
        case measure => simp [RowKit.intOf]
    · obtain rfl : n = 1 := hk.out.1
      have c5 := HKR.out.c5
      cases o1 with
      | none =>
        replace H1 : Hid (NumC 1 M (.tuple #[.int .i64 0, .bool false])) := H1
        go_wp2_with (go_at_call 171; refine (H1.out _ HKR.out).mono ?_; rintro e2 w2 ⟨rfl, hb2⟩; have G0 := Lib.hid (HF0.out.below hb2 HF0.out.lt); have HB2 := Lib.hid (HB.out.trans (hb2.mono HB.out.size)); obtain ⟨a3, a0, a1, a2, a4⟩ := G0.out; clear hb2)
        refine bodyPost_ret (v := pcNone) ?_ rfl ⟨by rw [HV.out]; (first | rfl | (cases o0 <;> rfl) | (cases o0 <;> cases o1 <;> rfl)), ((HB2.out.setCell (p := ⟨w.heap.size, 0, none⟩) (Nat.le_refl _) _).setCell (p := ⟨w.heap.size, 1, none⟩) (Nat.le_refl _) _).setCell (p := ⟨w.heap.size, 2, none⟩) (Nat.le_refl _) _⟩
        simp [results, pcNone, Tryz.results130, go_sem, a0, a1, a2]
      | some v =>
        replace H1 : Hid (NumC 1 M (.tuple #[.int .i64 v, .bool true])) := H1
        go_wp2_with (go_at_call 171; refine (H1.out _ HKR.out).mono ?_; rintro e2 w2 ⟨rfl, hb2⟩; have G0 := Lib.hid (HF0.out.below hb2 HF0.out.lt); have G1 := Lib.hid (HF1.out.below hb2 HF1.out.lt); have K2 := Lib.hid (HKR.out.stay hb2); have HB2 := Lib.hid (HB.out.trans (hb2.mono HB.out.size)); obtain ⟨a3, a0, a1, a2, a4⟩ := G1.out; clear hb2)
        go_roundw
        case rel => exact ⟨2, 2, Lib.hid ⟨rfl, by omega⟩, rfl, x, v, z, G0.out.other _ _ (by simp), G1.out.put1 v, K2.out.set _ _ (by have := HK.out.lt; show _ < w.heap.size + 1; omega), HB2.out.setCell (p := ⟨w.heap.size + 1, 1, none⟩) (by simp) _, fun _ => HQ.out.1 (by omega), fun _ => rfl, by omega⟩
        case measure => simp [RowKit.intOf]
    · obtain rfl : n = 2 := hk.out.1
      have c8 := HKR.out.c8
      cases o2 with
      | none =>
        replace H2 : Hid (NumC 2 F (.tuple #[.int .i64 0, .bool false])) := H2
        go_wp2_with (go_at_call 171; refine (H2.out _ HKR.out).mono ?_; rintro e2 w2 ⟨rfl, hb2⟩; have G0 := Lib.hid (HF0.out.below hb2 HF0.out.lt); have HB2 := Lib.hid (HB.out.trans (hb2.mono HB.out.size)); obtain ⟨a3, a0, a1, a2, a4⟩ := G0.out; clear hb2)
        refine bodyPost_ret (v := pcNone) ?_ rfl ⟨by rw [HV.out]; (first | rfl | (cases o0 <;> rfl) | (cases o0 <;> cases o1 <;> rfl)), ((HB2.out.setCell (p := ⟨w.heap.size, 0, none⟩) (Nat.le_refl _) _).setCell (p := ⟨w.heap.size, 1, none⟩) (Nat.le_refl _) _).setCell (p := ⟨w.heap.size, 2, none⟩) (Nat.le_refl _) _⟩
        simp [results, pcNone, Tryz.results130, go_sem, a0, a1, a2]
      | some v =>
        replace H2 : Hid (NumC 2 F (.tuple #[.int .i64 v, .bool true])) := H2
        go_wp2_with (go_at_call 171; refine (H2.out _ HKR.out).mono ?_; rintro e2 w2 ⟨rfl, hb2⟩; have G0 := Lib.hid (HF0.out.below hb2 HF0.out.lt); have G1 := Lib.hid (HF1.out.below hb2 HF1.out.lt); have K2 := Lib.hid (HKR.out.stay hb2); have HB2 := Lib.hid (HB.out.trans (hb2.mono HB.out.size)); obtain ⟨a3, a0, a1, a2, a4⟩ := G1.out; clear hb2)
        go_roundw
        case rel => exact ⟨3, 3, Lib.hid ⟨rfl, by omega⟩, rfl, x, y, v, G0.out.other _ _ (by simp), G1.out.put2 v, K2.out.set _ _ (by have := HK.out.lt; show _ < w.heap.size + 1; omega), HB2.out.setCell (p := ⟨w.heap.size + 1, 2, none⟩) (by simp) _, fun _ => HQ.out.1 (by omega), fun _ => HQ.out.2.1 (by omega), fun _ => rfl⟩
        case measure => simp [RowKit.intOf]
    · obtain rfl : n = 3 := hk.out.1
      obtain ⟨a3, a0, a1, a2, a4⟩ := HF1.out
      obtain ⟨b3, b0, b1, b2, b4⟩ := HF0.out
      go_wp2_with fail
      refine bodyPost_ret (v := .tuple #[.agg #[.int .i64 x, .int .i64 y, .int .i64 z], .bool true]) ?_ rfl ⟨by rw [HV.out, HQ.out.1 (by omega), HQ.out.2.1 (by omega), HQ.out.2.2 (by omega)]; rfl, ((HB.out.setCell (p := ⟨w.heap.size, 0, none⟩) (Nat.le_refl _) _).setCell (p := ⟨w.heap.size, 1, none⟩) (Nat.le_refl _) _).setCell (p := ⟨w.heap.size, 2, none⟩) (Nat.le_refl _) _⟩
      simp [results, Tryz.results130, go_sem, b0, b1, b2]
set_option maxRecDepth 100000 in
set_option maxHeartbeats 1000000 in
theorem pc_low (c : Int) (w : World) (hK : KD w) (ht : bits .and .i64 c 32768 = 0) : Calls Tryz.prog 130 #[.int .i64 c] w fun e w' => e = .returned pcNone ∧ Below w.heap.size w w' := by
  obtain ⟨a3, a0, a1, a2, a4⟩ := f3_new w 0 0 0 156
  go_enter Tryz.func130, Tryz.ntmps130
  go_wp2_with fail
  refine bodyPost_ret (v := pcNone) ?_ rfl ⟨rfl, (Below.refl w.heap.size w).alloc (Nat.le_refl _) _⟩
  simp [results, pcNone, Tryz.results130, go_sem, a0, a1, a2]
/-- The parts of two bytes. -/
def pcC (c : Nat) : Value := if c < 32768 then pcNone else pcV (nm0 (c / 1024 % 32)) (nm1 (c / 32 % 32)) (nm2 (c % 32))
theorem partsOfCode_any (c : Nat) (w : World) (hc : c < 65536) (hK : KD w) : Calls Tryz.prog 130 #[.int .i64 c] w fun e w' => e = .returned (pcC c) ∧ Below w.heap.size w w' := by
  have ht := and_top c hc
  unfold pcC
  by_cases h : c < 32768
  · rw [if_pos h] at ht ⊢
    exact pc_low c w hK ht
  · rw [if_neg h] at ht ⊢
    refine pc_core c ((c / 1024 % 32 : Nat) : Int) ((c / 32 % 32 : Nat) : Int) ((c % 32 : Nat) : Int) _ _ _ w hK (by omega) (by omega) ht ?_ ?_ ?_ (Lib.hid fun w2 h2 => number0 _ w2 (by omega) h2) (Lib.hid fun w2 h2 => number1 _ w2 (by omega) h2) (Lib.hid fun w2 h2 => number2 _ w2 (by omega) h2)
    · rw [and31 _ (by omega) (by omega)]; omega
    · rw [and31 _ (by omega) (by omega)]; omega
    · rw [and31 _ (by omega) (by omega)]; omega
end Go.Proofs.YtiigknimfibdpaaGreatDoor.jo
namespace Go.Proofs.YtiigknimfibdpaaGreatDoor.jo
open Go.RowKit Go.Lib
set_option linter.unusedVariables false
theorem below_any (a n : Int) (w : World) : Calls Tryz.prog 206 #[.int .i64 a, .int .i64 n] w fun e w' => e = .returned (.bool (decide (0 ≤ a ∧ a < n))) ∧ w = w' := by
  by_cases h0 : 0 ≤ a
  · by_cases h1 : a < n
    · rw [decide_eq_true ⟨h0, h1⟩]
      go_enter Tryz.func206, Tryz.ntmps206
      go_wp2
      go_ret
      exact ⟨rfl, rfl⟩
    · rw [decide_eq_false (fun h => h1 h.2)]
      go_enter Tryz.func206, Tryz.ntmps206
      go_wp2
      go_ret
      exact ⟨rfl, rfl⟩
  · rw [decide_eq_false (fun h => h0 h.1)]
    go_enter Tryz.func206, Tryz.ntmps206
    go_wp2
    go_ret
    exact ⟨rfl, rfl⟩
/-- Whether a syllable has these parts; which it is. -/
def has3 (i m f : Int) : Prop := (0 ≤ i ∧ i < 19) ∧ (0 ≤ m ∧ m < 21) ∧ (0 ≤ f ∧ f < 28)
theorem blC {a n : Int} (b : Bool) (h : decide (0 ≤ a ∧ a < n) = b) : Hid (∀ w2, Calls Tryz.prog 206 #[.int .i64 a, .int .i64 n] w2 fun e w' => e = .returned (.bool b) ∧ w2 = w') := Lib.hid (fun w2 => by subst h; exact below_any a n w2)
set_option maxRecDepth 100000 in
set_option maxHeartbeats 1000000 in
theorem syllable_yes (i m f : Int) (w : World) (h : has3 i m f) : Calls Tryz.prog 173 #[.int .i64 i, .int .i64 m, .int .i64 f] w fun e w' => e = .returned (.tuple #[.int .i32 (44032 + (i * 21 + m) * 28 + f), .bool true]) ∧ w = w' := by
  have B0 := blC (a := i) (n := 19) true (decide_eq_true h.1)
  have B1 := blC (a := m) (n := 21) true (decide_eq_true h.2.1)
  have B2 := blC (a := f) (n := 28) true (decide_eq_true h.2.2)
  obtain ⟨⟨i0, i1⟩, ⟨m0, m1⟩, f0, f1⟩ := h
  go_enter Tryz.func173, Tryz.ntmps173
  go_wp2_with (first | (go_at_call 206; (with_reducible refine (B0.out _).mono ?_); rintro e2 w2 ⟨rfl, rfl⟩) | (go_at_call 206; (with_reducible refine (B1.out _).mono ?_); rintro e2 w2 ⟨rfl, rfl⟩) | (go_at_call 206; (with_reducible refine (B2.out _).mono ?_); rintro e2 w2 ⟨rfl, rfl⟩))
  go_ret2
  exact ⟨rfl, rfl⟩
def consB : ByteArray := ⟨#[65, 66, 100, 67, 102, 103, 68, 69, 70, 106, 107, 108, 109, 110, 111, 112, 71, 72, 73, 115, 74, 75, 76, 77, 78, 79, 80, 81, 82, 83]⟩
/-- Where a consonant stands; -1: nowhere. -/
def coI (s : Nat) : Int := if s = 0 then -1 else (s : Int) - 12593
theorem cons_i : ∀ k < 19, Lib.indexByte consB.data.toList ((65 + ((k : Nat) : Int)).toNat.toUInt8) = coI (alo k) := by decide +kernel
theorem cons_f : ∀ f < 28, Lib.indexByte consB.data.toList ((97 + ((f : Nat) : Int)).toNat.toUInt8) = coI (alo (100 + f)) := by decide +kernel
theorem alo_i : ∀ k < 19, 12593 ≤ alo k ∧ alo k ≤ 12622 := by decide +kernel
theorem alo_f : ∀ f < 28, alo (100 + f) = 0 ∨ (12593 ≤ alo (100 + f) ∧ alo (100 + f) ≤ 12622) := by decide +kernel
def sV (S : Nat) : Value := .tuple #[.int .i32 (S : Int), .bool (decide (S ≠ 0))]
set_option maxRecDepth 100000 in
set_option maxHeartbeats 2000000 in
theorem cons_zero (a d b : Int) (w : World) (h : (a = -1 ∧ d = 0) ∨ (0 ≤ a ∧ 0 < d)) : Calls Tryz.prog 172 #[.agg #[.int .i64 a, .int .i64 b, .int .i64 d]] w fun e w' => e = .returned (.tuple #[.int .i32 0, .bool false]) ∧ Below w.heap.size w w' := by
  rcases h with ⟨rfl, rfl⟩ | ⟨h1, h2⟩
  · go_enter Tryz.func172, Tryz.ntmps172
    go_wp2
    go_ret2
    exact ⟨rfl, (Below.refl _ _).alloc (Nat.le_refl _) _⟩
  · have e1 : (a == -1) = false := beq_eq_false_iff_ne.2 (by omega)
    have e2 : (d == 0) = false := beq_eq_false_iff_ne.2 (by omega)
    go_enter Tryz.func172, Tryz.ntmps172
    go_wp2
    go_ret2
    exact ⟨rfl, (Below.refl _ _).alloc (Nat.le_refl _) _⟩
set_option maxRecDepth 100000 in
set_option maxHeartbeats 2000000 in
theorem cons_init (k : Nat) (b : Int) (w : World) (hk : k < 19) : Calls Tryz.prog 172 #[.agg #[.int .i64 k, .int .i64 b, .int .i64 0]] w fun e w' => e = .returned (sV (alo k)) ∧ Below w.heap.size w w' := by
  have h1 := alo_i k hk
  have hs : coI (alo k) = (alo k : Int) - 12593 := by unfold coI; rw [if_neg (by omega)]
  have HX := Lib.hid (ixC consB (65 + (k : Int)) _ (cons_i k hk))
  rw [hs] at HX
  have HV : Hid (sV (alo k) = .tuple #[.int .i32 ((alo k : Nat) : Int), .bool true]) := Lib.hid (by unfold sV; rw [decide_eq_true (by omega)])
  obtain ⟨S, hS⟩ : ∃ S, S = alo k := ⟨_, rfl⟩
  rw [← hS] at h1 HX HV ⊢
  obtain ⟨D, hD⟩ : ∃ D : Int, D = (S : Int) - 12593 := ⟨_, rfl⟩
  rw [← hD] at HX
  have HD := Lib.hid hD
  have d0 : 0 ≤ D := by omega
  have d1 : D ≤ 29 := by omega
  have e0 : (0 : Int) ≤ (k : Int) := by omega
  have e9 : (k : Int) < 19 := by omega
  have e1 : ((k : Int) == -1) = false := beq_eq_false_iff_ne.2 (by omega)
  rw [HV.out]
  have FIN : Hid (∀ v : Int, v = (S : Int) → Ending.returned (.tuple #[.int .i32 v, .bool true]) = .returned (.tuple #[.int .i32 (S : Int), .bool true])) := Lib.hid (fun v h => by rw [h])
  clear hs hS hD h1 HV
  unfold consB at HX
  go_enter Tryz.func172, Tryz.ntmps172
  go_wp2_with (go_at_call 205; refine (HX.out _).mono ?_; rintro e2 w2 ⟨rfl, rfl⟩)
  go_ret2
  exact ⟨FIN.out _ (by have := HD.out; omega), (Below.refl _ _).alloc (Nat.le_refl _) _⟩
set_option maxRecDepth 100000 in
set_option maxHeartbeats 2000000 in
theorem cons_fin (f : Nat) (b : Int) (w : World) (h0 : 0 < f) (hf : f < 28) : Calls Tryz.prog 172 #[.agg #[.int .i64 (-1), .int .i64 b, .int .i64 f]] w fun e w' => e = .returned (sV (alo (100 + f))) ∧ Below w.heap.size w w' := by
  have h1 := alo_f f hf
  have HX := Lib.hid (ixC consB (97 + (f : Int)) _ (cons_f f hf))
  obtain ⟨S, hS⟩ : ∃ S, S = alo (100 + f) := ⟨_, rfl⟩
  rw [← hS] at h1 HX ⊢
  have e0 : (0 : Int) < (f : Int) := by omega
  have e9 : (f : Int) < 28 := by omega
  have e1 : ((f : Int) == 0) = false := beq_eq_false_iff_ne.2 (by omega)
  clear hS
  unfold consB at HX
  rcases h1 with rfl | h1
  · replace HX : Hid (IxC ⟨#[65, 66, 100, 67, 102, 103, 68, 69, 70, 106, 107, 108, 109, 110, 111, 112, 71, 72, 73, 115, 74, 75, 76, 77, 78, 79, 80, 81, 82, 83]⟩ (97 + (f : Int)) (-1)) := HX
    go_enter Tryz.func172, Tryz.ntmps172
    go_wp2_with (go_at_call 205; refine (HX.out _).mono ?_; rintro e2 w2 ⟨rfl, rfl⟩)
    go_ret2
    exact ⟨rfl, (Below.refl _ _).alloc (Nat.le_refl _) _⟩
  · obtain ⟨D, hD⟩ : ∃ D : Int, D = (S : Int) - 12593 := ⟨_, rfl⟩
    have hs : coI S = D := by unfold coI; rw [if_neg (by omega), hD]
    rw [hs] at HX
    have HD := Lib.hid hD
    have d0 : 0 ≤ D := by omega
    have d1 : D ≤ 29 := by omega
    have FIN : Hid (∀ v : Int, v = (S : Int) → Ending.returned (.tuple #[.int .i32 v, .bool true]) = .returned (sV S)) := Lib.hid (fun v h => by rw [h]; unfold sV; rw [decide_eq_true (by omega)])
    clear hs hD h1
    go_enter Tryz.func172, Tryz.ntmps172
    go_wp2_with (go_at_call 205; refine (HX.out _).mono ?_; rintro e2 w2 ⟨rfl, rfl⟩)
    go_ret2
    exact ⟨FIN.out _ (by have := HD.out; omega), (Below.refl _ _).alloc (Nat.le_refl _) _⟩
end Go.Proofs.YtiigknimfibdpaaGreatDoor.jo
namespace Go.Proofs.YtiigknimfibdpaaGreatDoor.jo
open Go.RowKit Go.Lib
set_option linter.unusedVariables false
theorem cons_any (I f : Nat) (a : Int) (w : World) (ha : a = (I : Int) - 2) (hI : 1 ≤ I ∧ I ≤ 20) (hf : f ≤ 27) : Calls Tryz.prog 172 #[.agg #[.int .i64 a, .int .i64 (-1), .int .i64 f]] w fun e w' => e = .returned (sV (sgP I 99 f)) ∧ Below w.heap.size w w' := by
  by_cases h1 : I = 1
  · subst h1
    obtain rfl : a = -1 := by omega
    by_cases h2 : f = 0
    · subst h2
      exact cons_zero (-1) 0 (-1) w (.inl ⟨rfl, rfl⟩)
    · have e : sgP 1 99 f = alo (100 + f) := by unfold sgP; rw [if_neg (by omega), if_neg (by omega), if_neg (by omega), if_neg (by omega), if_pos (by omega)]
      rw [e]
      exact cons_fin f (-1) w (by omega) (by omega)
  · obtain ⟨k, rfl⟩ : ∃ k, I = k + 2 := ⟨I - 2, by omega⟩
    obtain rfl : a = (k : Int) := by omega
    by_cases h2 : f = 0
    · subst h2
      have e : sgP (k + 2) 99 0 = alo k := by unfold sgP; rw [if_neg (by omega), if_neg (by omega), if_neg (by omega), if_pos (by omega), Nat.add_sub_cancel]
      rw [e]
      exact cons_init k (-1) w (by omega)
    · have e : sgP (k + 2) 99 f = 0 := by unfold sgP; rw [if_neg (by omega), if_neg (by omega), if_neg (by omega), if_neg (by omega), if_neg (by omega)]
      rw [e]
      exact cons_zero k f (-1) w (.inr ⟨by omega, by omega⟩)
theorem sV_pos {S : Nat} (h : S ≠ 0) : sV S = .tuple #[.int .i32 (S : Int), .bool true] := by unfold sV; rw [decide_eq_true h]
theorem sV_tup (S : Nat) : ∃ (z : Int) (b : Bool), sV S = .tuple #[.int .i32 z, .bool b] := ⟨_, _, rfl⟩
set_option maxRecDepth 100000 in
set_option maxHeartbeats 2000000 in
theorem psign_any (I m f : Nat) (a b : Int) (w : World) (ha : a = (I : Int) - 2) (hb : b = nI m) (hI : 1 ≤ I ∧ I ≤ 20) (hm : m = 99 ∨ m ≤ 20) (hf : f ≤ 27) : Calls Tryz.prog 131 #[.agg #[.int .i64 a, .int .i64 b, .int .i64 f]] w fun e w' => e = .returned (sV (sgP I m f)) ∧ Below w.heap.size w w' := by
  rcases hm with rfl | hm
  · obtain rfl : b = -1 := hb
    have HC := Lib.hid (fun w2 => cons_any I f a w2 ha hI hf)
    obtain ⟨z, t, hz⟩ := sV_tup (sgP I 99 f)
    rw [hz] at HC ⊢
    clear hz ha hI hf
    go_enter Tryz.func131, Tryz.ntmps131
    go_wp2_with (go_at_call 172; refine (HC.out _).mono ?_; rintro e2 w2 ⟨rfl, hb2⟩)
    go_ret2
    exact ⟨rfl, ((Below.refl _ w).alloc (Nat.le_refl _) _).trans (hb2.mono (by simp))⟩
  · rw [nI_le (by omega)] at hb
    subst hb
    have n0 : ((m : Int) == -1) = false := beq_eq_false_iff_ne.2 (by omega)
    by_cases h1 : I = 1
    · subst h1
      obtain rfl : a = -1 := by omega
      by_cases h2 : f = 0
      · subst h2
        have e : sgP 1 m 0 = 12623 + m := by unfold sgP; rw [if_neg (by omega), if_neg (by omega), if_pos (by omega)]
        have HV : Hid (sV (sgP 1 m 0) = .tuple #[.int .i32 (12623 + (m : Int)), .bool true]) := Lib.hid (by rw [e, sV_pos (by omega)]; rw [show ((12623 + m : Nat) : Int) = 12623 + (m : Int) by omega])
        rw [HV.out]
        have m0 : (0 : Int) ≤ (m : Int) := by omega
        have m1 : (m : Int) ≤ 20 := by omega
        clear HV e
        go_enter Tryz.func131, Tryz.ntmps131
        go_wp2_with fail
        go_ret2
        exact ⟨rfl, (Below.refl _ _).alloc (Nat.le_refl _) _⟩
      · have e : sgP 1 m f = 0 := by unfold sgP; rw [if_neg (by omega), if_neg (by omega), if_neg (by omega), if_neg (by omega), if_neg (by omega)]
        rw [e]
        have n1 : ((f : Int) == 0) = false := beq_eq_false_iff_ne.2 (by omega)
        go_enter Tryz.func131, Tryz.ntmps131
        go_wp2_with fail
        go_ret2
        exact ⟨rfl, (Below.refl _ _).alloc (Nat.le_refl _) _⟩
    · obtain ⟨k, rfl⟩ : ∃ k, I = k + 2 := ⟨I - 2, by omega⟩
      obtain rfl : a = (k : Int) := by omega
      have e : sgP (k + 2) m f = 44032 + (k * 21 + m) * 28 + f := by unfold sgP; rw [if_neg (by omega), if_pos (by omega), Nat.add_sub_cancel]
      have HV : Hid (sV (sgP (k + 2) m f) = .tuple #[.int .i32 (44032 + ((k : Int) * 21 + (m : Int)) * 28 + (f : Int)), .bool true]) := Lib.hid (by rw [e, sV_pos (by omega)]; rw [show ((44032 + (k * 21 + m) * 28 + f : Nat) : Int) = 44032 + ((k : Int) * 21 + (m : Int)) * 28 + (f : Int) by omega])
      rw [HV.out]
      have HS := Lib.hid (fun w2 => syllable_yes k m f w2 ⟨⟨by omega, by omega⟩, ⟨by omega, by omega⟩, by omega, by omega⟩)
      generalize 44032 + ((k : Int) * 21 + (m : Int)) * 28 + (f : Int) = Z at *
      have n1 : ((k : Int) == -1) = false := beq_eq_false_iff_ne.2 (by omega)
      have n2 : ((k : Int) != -1) = true := by rw [bne, n1]; rfl
      clear HV e ha
      go_enter Tryz.func131, Tryz.ntmps131
      go_wp2_with (go_at_call 173; refine (HS.out _).mono ?_; rintro e2 w2 ⟨rfl, rfl⟩)
      go_ret2
      exact ⟨rfl, (Below.refl _ _).alloc (Nat.le_refl _) _⟩
/-- What Sign answers. -/
theorem or_bytes (a b : Nat) (ha : a < 256) (hb : b < 256) : bits .or .i64 ((a : Int) * 256) (b : Int) = ((a * 256 + b : Nat) : Int) := by
  rw [bits_join .i64 31 (by decide) (fun n a b => wrap64 (by omega) (by omega)) 8 _ _ (by omega) (by omega) (by omega) (by omega) (by omega) (by omega)]
  omega
theorem pc_cases (c : Nat) (hc : c < 65536) : (pcC c = pcNone ∧ sg c = 0) ∨ ∃ I m f : Nat, (1 ≤ I ∧ I ≤ 20) ∧ (m = 99 ∨ m ≤ 20) ∧ f ≤ 27 ∧ sg c = sgP I m f ∧ pcC c = .tuple #[.agg #[.int .i64 ((I : Int) - 2), .int .i64 (nI m), .int .i64 (f : Int)], .bool true] := by
  unfold pcC sg
  by_cases h : c < 32768
  · left; rw [if_pos h, if_pos h]; exact ⟨rfl, rfl⟩
  rw [if_neg h, if_neg h, sgn_is]
  have hm := med_cases (c / 32 % 32) (by omega)
  have hf := fin_cases (c % 32) (by omega)
  by_cases h1 : c / 1024 % 32 = 0 ∨ 20 < c / 1024 % 32
  · left
    refine ⟨?_, by unfold sgP; rw [if_pos (by omega)]⟩
    unfold nm0; rw [if_pos h1]; rfl
  have e0 : nm0 (c / 1024 % 32) = some (((c / 1024 % 32 : Nat) : Int) - 2) := if_neg h1
  generalize c / 1024 % 32 = I at *
  by_cases h2 : med (c / 32 % 32) = 98
  · left
    refine ⟨?_, by unfold sgP; rw [if_pos (by omega)]⟩
    unfold nm1; rw [if_pos h2, e0]; rfl
  have e1 : nm1 (c / 32 % 32) = some (nI (med (c / 32 % 32))) := if_neg h2
  generalize med (c / 32 % 32) = m at *
  by_cases h3 : fin (c % 32) = 98
  · left
    refine ⟨?_, by unfold sgP; rw [if_pos (by omega)]⟩
    unfold nm2; rw [if_pos h3, e0, e1]; rfl
  have e2 : nm2 (c % 32) = some (nI (fin (c % 32))) := if_neg h3
  generalize fin (c % 32) = f at *
  right
  refine ⟨I, m, f, by omega, by omega, by omega, rfl, ?_⟩
  rw [e0, e1, e2, nI_le (m := f) (by omega)]; rfl
set_option maxRecDepth 100000 in
set_option maxHeartbeats 2000000 in
theorem sign_any (a b : Nat) (w : World) (ha : a < 256) (hb : b < 256) (hK : KD w) : Calls Tryz.prog 96 #[.int .u8 a, .int .u8 b] w fun e w' => e = .returned (sV (sg (a * 256 + b))) ∧ Below w.heap.size w w' := by
  have hor := or_bytes a b ha hb
  have HP := Lib.hid (partsOfCode_any (a * 256 + b) w (by omega) hK)
  have hc := pc_cases (a * 256 + b) (by omega)
  generalize sg (a * 256 + b) = S at *
  generalize pcC (a * 256 + b) = V at *
  generalize ((a * 256 + b : Nat) : Int) = C at *
  have a0 : (0 : Int) ≤ (a : Int) := by omega
  have a1 : (a : Int) < 256 := by omega
  have b0 : (0 : Int) ≤ (b : Int) := by omega
  have b1 : (b : Int) < 256 := by omega
  rcases hc with ⟨rfl, rfl⟩ | ⟨I, m, f, hI, hm, hf, rfl, rfl⟩
  · replace HP : Hid (Calls Tryz.prog 130 #[.int .i64 C] w fun e w' => e = .returned (.tuple #[.agg #[.int .i64 0, .int .i64 0, .int .i64 0], .bool false]) ∧ Below w.heap.size w w') := HP
    go_enter Tryz.func96, Tryz.ntmps96
    go_wp2_with (go_at_call 130; refine (HP.out).mono ?_; rintro e2 w2 ⟨rfl, hb2⟩)
    go_ret2
    exact ⟨rfl, hb2.alloc hb2.size _⟩
  · have HS := Lib.hid (fun w2 => psign_any I m f _ _ w2 rfl rfl hI hm hf)
    obtain ⟨z, t, hz⟩ := sV_tup (sgP I m f)
    rw [hz] at HS ⊢
    generalize (I : Int) - 2 = i at *
    generalize nI m = j at *
    clear hz hI hm hf
    go_enter Tryz.func96, Tryz.ntmps96
    go_wp2_with (first | (go_at_call 130; refine (HP.out).mono ?_; rintro e2 w2 ⟨rfl, hb2⟩) | (go_at_call 131; refine (HS.out _).mono ?_; rintro e3 w3 ⟨rfl, hb3⟩))
    go_ret2
    exact ⟨rfl, (hb2.alloc hb2.size _).trans (hb3.mono (by have := hb2.size; simp; omega))⟩
end Go.Proofs.YtiigknimfibdpaaGreatDoor.jo
