/- partsOfCode of the landed johab: a contract. -/
import Derived.Test.YtiamabeapomabaaDoorJo5
namespace Go.Proofs.YtiamabeapomabaaDoor.jo
open Go.RowKit Go.Lib
set_option linter.unusedVariables false
/-- A block of three numbers. -/
structure F3 (w : World) (b : Nat) (x y z : Int) : Prop where
  lt : b < w.heap.size
  c0 : w.cell? ⟨b, 0, none⟩ = some (.int .i64 x)
  c1 : w.cell? ⟨b, 1, none⟩ = some (.int .i64 y)
  c2 : w.cell? ⟨b, 2, none⟩ = some (.int .i64 z)
  fr : ∀ i, w.frozen? ⟨b, i, none⟩ = false
theorem F3.below {w w' : World} {b B : Nat} {x y z : Int} (h : F3 w b x y z) (hb : Below B w w') (hB : b < B) : F3 w' b x y z :=
  ⟨Nat.lt_of_lt_of_le h.lt hb.size, (hb.cell (p := ⟨b, 0, none⟩) hB).trans h.c0, (hb.cell (p := ⟨b, 1, none⟩) hB).trans h.c1, (hb.cell (p := ⟨b, 2, none⟩) hB).trans h.c2, fun i => (hb.frozen (p := ⟨b, i, none⟩) hB).trans (h.fr i)⟩
theorem f3_new (w : World) (x y z : Int) (t : Nat) : F3 (w.alloc (.cells #[.int .i64 x, .int .i64 y, .int .i64 z] t)) w.heap.size x y z := by
  refine ⟨by simp, ?_, ?_, ?_, fun i => by simp⟩ <;> (rw [World.cell?_alloc_mark]; rfl)
theorem F3.other {w : World} {b : Nat} {x y z : Int} (h : F3 w b x y z) (p : Addr) (v : Value) (hp : b ≠ p.block) : F3 (w.setCell p v) b x y z := by
  have hne : ∀ i, p ≠ (⟨b, i, none⟩ : Addr) := fun i he => hp (by rw [he])
  refine ⟨by simpa using h.lt, ?_, ?_, ?_, fun i => by rw [World.frozen?_setCell]; exact h.fr i⟩
  · rw [World.cell?_setCell_other _ _ _ _ (hne 0)]; exact h.c0
  · rw [World.cell?_setCell_other _ _ _ _ (hne 1)]; exact h.c1
  · rw [World.cell?_setCell_other _ _ _ _ (hne 2)]; exact h.c2
theorem F3.put0 {w : World} {b : Nat} {x y z : Int} (h : F3 w b x y z) (v : Int) : F3 (w.setCell ⟨b, 0, none⟩ (.int .i64 v)) b v y z := by
  refine ⟨by simpa using h.lt, World.cell?_setCell_same _ _ _ h.c0, ?_, ?_, fun i => by rw [World.frozen?_setCell]; exact h.fr i⟩
  · rw [World.cell?_setCell_other _ _ _ _ (by simp)]; exact h.c1
  · rw [World.cell?_setCell_other _ _ _ _ (by simp)]; exact h.c2
theorem F3.put1 {w : World} {b : Nat} {x y z : Int} (h : F3 w b x y z) (v : Int) : F3 (w.setCell ⟨b, 1, none⟩ (.int .i64 v)) b x v z := by
  refine ⟨by simpa using h.lt, ?_, World.cell?_setCell_same _ _ _ h.c1, ?_, fun i => by rw [World.frozen?_setCell]; exact h.fr i⟩
  · rw [World.cell?_setCell_other _ _ _ _ (by simp)]; exact h.c0
  · rw [World.cell?_setCell_other _ _ _ _ (by simp)]; exact h.c2
theorem F3.put2 {w : World} {b : Nat} {x y z : Int} (h : F3 w b x y z) (v : Int) : F3 (w.setCell ⟨b, 2, none⟩ (.int .i64 v)) b x y v := by
  refine ⟨by simpa using h.lt, ?_, ?_, World.cell?_setCell_same _ _ _ h.c2, fun i => by rw [World.frozen?_setCell]; exact h.fr i⟩
  · rw [World.cell?_setCell_other _ _ _ _ (by simp)]; exact h.c0
  · rw [World.cell?_setCell_other _ _ _ _ (by simp)]; exact h.c1
/-- What three codes tell together. -/
def pcV (o0 o1 o2 : Option Int) : Value := match o0, o1, o2 with
  | some a, some b, some d => .tuple #[.agg #[.int .i64 a, .int .i64 b, .int .i64 d], .bool true]
  | _, _, _ => .tuple #[.agg #[.int .i64 0, .int .i64 0, .int .i64 0], .bool false]
def pcNone : Value := .tuple #[.agg #[.int .i64 0, .int .i64 0, .int .i64 0], .bool false]
/-- The two blocks of the call; how far its loop has come. -/
def Pc (w : World) (o0 o1 o2 : Option Int) (k : Nat) (wr : World) : Prop :=
  ∃ x y z : Int, F3 wr w.heap.size 0 0 0 ∧ F3 wr (w.heap.size + 1) x y z ∧ KD wr ∧ Below w.heap.size w wr ∧ (0 < k → o0 = some x) ∧ (1 < k → o1 = some y) ∧ (2 < k → o2 = some z)
def NumC (k : Int) (c : Int) (v : Value) : Prop := ∀ w2, KD w2 → Calls Tryd.prog 24 #[.int .i64 k, .int .i64 c] w2 fun e w' => e = .returned v ∧ Below w2.heap.size w2 w'
set_option maxRecDepth 100000 in
set_option maxHeartbeats 8000000 in
theorem pc_core (c I M F : Int) (o0 o1 o2 : Option Int) (w : World) (hK : KD w) (h0 : 0 ≤ c) (h1 : c < 65536) (ht : bits .and .i64 c 32768 = 32768) (hI : bits .and .i64 (c / 1024) 31 = I) (hM : bits .and .i64 (c / 32) 31 = M) (hF : bits .and .i64 c 31 = F)
    (H0 : Hid (NumC 0 I (nmV o0))) (H1 : Hid (NumC 1 M (nmV o1))) (H2 : Hid (NumC 2 F (nmV o2))) :
    Calls Tryd.prog 14 #[.int .i64 c] w fun e w' => e = .returned (pcV o0 o1 o2) ∧ Below w.heap.size w w' := by
  obtain ⟨V, hV⟩ : ∃ V, V = pcV o0 o1 o2 := ⟨_, rfl⟩
  rw [← hV]
  have HV := Lib.hid hV
  have lt := hK.lt
  have A1 : Below w.heap.size w (w.alloc (.cells #[.int .i64 0, .int .i64 0, .int .i64 0] 39)) := (Below.refl _ _).alloc (Nat.le_refl _) _
  have A2 : Below (w.heap.size + 1) (w.alloc (.cells #[.int .i64 0, .int .i64 0, .int .i64 0] 39)) ((w.alloc (.cells #[.int .i64 0, .int .i64 0, .int .i64 0] 39)).alloc (.cells #[.int .i64 0, .int .i64 0, .int .i64 0] 39)) := (Below.refl _ _).alloc (by simp) _
  have P0 : Hid (Pc w o0 o1 o2 0 ((w.alloc (.cells #[.int .i64 0, .int .i64 0, .int .i64 0] 39)).alloc (.cells #[.int .i64 0, .int .i64 0, .int .i64 0] 39))) := Lib.hid (by
    refine ⟨0, 0, 0, (f3_new w 0 0 0 39).below A2 (by omega), ?_, hK.below (A1.trans (A2.mono (by omega))) lt, A1.trans (A2.mono (by omega)), by omega, by omega, by omega⟩
    have := f3_new (w.alloc (.cells #[.int .i64 0, .int .i64 0, .int .i64 0] 39)) 0 0 0 39
    rwa [World.size_alloc] at this)
  clear A1 A2 hV
  have HK := Lib.hid hK
  clear hK
  go_enter Tryd.func14, Tryd.ntmps14
  go_wp2_with fail
  go_loopw [12] (fun i wr => ∃ (k : Nat) (n : Int), Hid (n = (k : Int) ∧ k ≤ 3) ∧ i = .int .i64 n ∧ Pc w o0 o1 o2 k wr) (fun i _ => 3 - (RowKit.intOf i).toNat)
  case atStart => exact ⟨0, 0, Lib.hid ⟨rfl, by omega⟩, rfl, P0.out⟩
  case round =>
    obtain ⟨k, n, hk, rfl, hP⟩ := hrel
    obtain ⟨x, y, z, f0, f1, kd, hb, q0, q1, q2⟩ := hP
    have HB := Lib.hid hb; have HF0 := Lib.hid f0; have HF1 := Lib.hid f1; have HKR := Lib.hid kd
    have HQ := Lib.hid (⟨q0, q1, q2⟩ : (0 < k → o0 = some x) ∧ (1 < k → o1 = some y) ∧ (2 < k → o2 = some z))
    clear hb f0 f1 kd q0 q1 q2
    have hk4 : k = 0 ∨ k = 1 ∨ k = 2 ∨ k = 3 := by have := hk.out; omega
    rcases hk4 with rfl | rfl | rfl | rfl
    · obtain rfl : n = 0 := hk.out.1
      have c2 := HKR.out.c2
      cases o0 with
      | none =>
        replace H0 : Hid (NumC 0 I (.tuple #[.int .i64 0, .bool false])) := H0
        go_wp2_with (go_at_call 24; refine (H0.out _ HKR.out).mono ?_; rintro e2 w2 ⟨rfl, hb2⟩; have G0 := Lib.hid (HF0.out.below hb2 HF0.out.lt); have HB2 := Lib.hid (HB.out.trans (hb2.mono HB.out.size)); obtain ⟨a3, a0, a1, a2, a4⟩ := G0.out; clear hb2)
        refine bodyPost_ret (v := pcNone) ?_ rfl ⟨by rw [HV.out]; (first | rfl | (cases o0 <;> rfl) | (cases o0 <;> cases o1 <;> rfl)), ((HB2.out.setCell (p := ⟨w.heap.size, 0, none⟩) (Nat.le_refl _) _).setCell (p := ⟨w.heap.size, 1, none⟩) (Nat.le_refl _) _).setCell (p := ⟨w.heap.size, 2, none⟩) (Nat.le_refl _) _⟩
        simp [results, pcNone, Tryd.results14, go_sem, a0, a1, a2]
      | some v =>
        replace H0 : Hid (NumC 0 I (.tuple #[.int .i64 v, .bool true])) := H0
        go_wp2_with (go_at_call 24; refine (H0.out _ HKR.out).mono ?_; rintro e2 w2 ⟨rfl, hb2⟩; have G0 := Lib.hid (HF0.out.below hb2 HF0.out.lt); have G1 := Lib.hid (HF1.out.below hb2 HF1.out.lt); have K2 := Lib.hid (HKR.out.stay hb2); have HB2 := Lib.hid (HB.out.trans (hb2.mono HB.out.size)); obtain ⟨a3, a0, a1, a2, a4⟩ := G1.out; clear hb2)
        go_roundw
        case rel => exact ⟨1, 1, Lib.hid ⟨rfl, by omega⟩, rfl, v, y, z, G0.out.other _ _ (by simp), G1.out.put0 v, K2.out.set _ _ (by simp), HB2.out.setCell (p := ⟨w.heap.size + 1, 0, none⟩) (by simp) _, fun _ => rfl, by omega, by omega⟩
        case measure => simp [RowKit.intOf]
    · obtain rfl : n = 1 := hk.out.1
      have c5 := HKR.out.c5
      cases o1 with
      | none =>
        replace H1 : Hid (NumC 1 M (.tuple #[.int .i64 0, .bool false])) := H1
        go_wp2_with (go_at_call 24; refine (H1.out _ HKR.out).mono ?_; rintro e2 w2 ⟨rfl, hb2⟩; have G0 := Lib.hid (HF0.out.below hb2 HF0.out.lt); have HB2 := Lib.hid (HB.out.trans (hb2.mono HB.out.size)); obtain ⟨a3, a0, a1, a2, a4⟩ := G0.out; clear hb2)
        refine bodyPost_ret (v := pcNone) ?_ rfl ⟨by rw [HV.out]; (first | rfl | (cases o0 <;> rfl) | (cases o0 <;> cases o1 <;> rfl)), ((HB2.out.setCell (p := ⟨w.heap.size, 0, none⟩) (Nat.le_refl _) _).setCell (p := ⟨w.heap.size, 1, none⟩) (Nat.le_refl _) _).setCell (p := ⟨w.heap.size, 2, none⟩) (Nat.le_refl _) _⟩
        simp [results, pcNone, Tryd.results14, go_sem, a0, a1, a2]
      | some v =>
        replace H1 : Hid (NumC 1 M (.tuple #[.int .i64 v, .bool true])) := H1
        go_wp2_with (go_at_call 24; refine (H1.out _ HKR.out).mono ?_; rintro e2 w2 ⟨rfl, hb2⟩; have G0 := Lib.hid (HF0.out.below hb2 HF0.out.lt); have G1 := Lib.hid (HF1.out.below hb2 HF1.out.lt); have K2 := Lib.hid (HKR.out.stay hb2); have HB2 := Lib.hid (HB.out.trans (hb2.mono HB.out.size)); obtain ⟨a3, a0, a1, a2, a4⟩ := G1.out; clear hb2)
        go_roundw
        case rel => exact ⟨2, 2, Lib.hid ⟨rfl, by omega⟩, rfl, x, v, z, G0.out.other _ _ (by simp), G1.out.put1 v, K2.out.set _ _ (by simp), HB2.out.setCell (p := ⟨w.heap.size + 1, 1, none⟩) (by simp) _, fun _ => HQ.out.1 (by omega), fun _ => rfl, by omega⟩
        case measure => simp [RowKit.intOf]
    · obtain rfl : n = 2 := hk.out.1
      have c8 := HKR.out.c8
      cases o2 with
      | none =>
        replace H2 : Hid (NumC 2 F (.tuple #[.int .i64 0, .bool false])) := H2
        go_wp2_with (go_at_call 24; refine (H2.out _ HKR.out).mono ?_; rintro e2 w2 ⟨rfl, hb2⟩; have G0 := Lib.hid (HF0.out.below hb2 HF0.out.lt); have HB2 := Lib.hid (HB.out.trans (hb2.mono HB.out.size)); obtain ⟨a3, a0, a1, a2, a4⟩ := G0.out; clear hb2)
        refine bodyPost_ret (v := pcNone) ?_ rfl ⟨by rw [HV.out]; (first | rfl | (cases o0 <;> rfl) | (cases o0 <;> cases o1 <;> rfl)), ((HB2.out.setCell (p := ⟨w.heap.size, 0, none⟩) (Nat.le_refl _) _).setCell (p := ⟨w.heap.size, 1, none⟩) (Nat.le_refl _) _).setCell (p := ⟨w.heap.size, 2, none⟩) (Nat.le_refl _) _⟩
        simp [results, pcNone, Tryd.results14, go_sem, a0, a1, a2]
      | some v =>
        replace H2 : Hid (NumC 2 F (.tuple #[.int .i64 v, .bool true])) := H2
        go_wp2_with (go_at_call 24; refine (H2.out _ HKR.out).mono ?_; rintro e2 w2 ⟨rfl, hb2⟩; have G0 := Lib.hid (HF0.out.below hb2 HF0.out.lt); have G1 := Lib.hid (HF1.out.below hb2 HF1.out.lt); have K2 := Lib.hid (HKR.out.stay hb2); have HB2 := Lib.hid (HB.out.trans (hb2.mono HB.out.size)); obtain ⟨a3, a0, a1, a2, a4⟩ := G1.out; clear hb2)
        go_roundw
        case rel => exact ⟨3, 3, Lib.hid ⟨rfl, by omega⟩, rfl, x, y, v, G0.out.other _ _ (by simp), G1.out.put2 v, K2.out.set _ _ (by simp), HB2.out.setCell (p := ⟨w.heap.size + 1, 2, none⟩) (by simp) _, fun _ => HQ.out.1 (by omega), fun _ => HQ.out.2.1 (by omega), fun _ => rfl⟩
        case measure => simp [RowKit.intOf]
    · obtain rfl : n = 3 := hk.out.1
      obtain ⟨a3, a0, a1, a2, a4⟩ := HF1.out
      obtain ⟨b3, b0, b1, b2, b4⟩ := HF0.out
      go_wp2_with fail
      refine bodyPost_ret (v := .tuple #[.agg #[.int .i64 x, .int .i64 y, .int .i64 z], .bool true]) ?_ rfl ⟨by rw [HV.out, HQ.out.1 (by omega), HQ.out.2.1 (by omega), HQ.out.2.2 (by omega)]; rfl, ((HB.out.setCell (p := ⟨w.heap.size, 0, none⟩) (Nat.le_refl _) _).setCell (p := ⟨w.heap.size, 1, none⟩) (Nat.le_refl _) _).setCell (p := ⟨w.heap.size, 2, none⟩) (Nat.le_refl _) _⟩
      simp [results, Tryd.results14, go_sem, b0, b1, b2]
set_option maxRecDepth 100000 in
set_option maxHeartbeats 1000000 in
theorem pc_low (c : Int) (w : World) (hK : KD w) (ht : bits .and .i64 c 32768 = 0) : Calls Tryd.prog 14 #[.int .i64 c] w fun e w' => e = .returned pcNone ∧ Below w.heap.size w w' := by
  obtain ⟨a3, a0, a1, a2, a4⟩ := f3_new w 0 0 0 39
  go_enter Tryd.func14, Tryd.ntmps14
  go_wp2_with fail
  refine bodyPost_ret (v := pcNone) ?_ rfl ⟨rfl, (Below.refl w.heap.size w).alloc (Nat.le_refl _) _⟩
  simp [results, pcNone, Tryd.results14, go_sem, a0, a1, a2]
/-- The parts of two bytes. -/
def pcC (c : Nat) : Value := if c < 32768 then pcNone else pcV (nm0 (c / 1024 % 32)) (nm1 (c / 32 % 32)) (nm2 (c % 32))
theorem partsOfCode_any (c : Nat) (w : World) (hc : c < 65536) (hK : KD w) : Calls Tryd.prog 14 #[.int .i64 c] w fun e w' => e = .returned (pcC c) ∧ Below w.heap.size w w' := by
  have ht := and_top c hc
  unfold pcC
  by_cases h : c < 32768
  · rw [if_pos h] at ht ⊢
    exact pc_low c w hK ht
  · rw [if_neg h] at ht ⊢
    refine pc_core c ((c / 1024 % 32 : Nat) : Int) ((c / 32 % 32 : Nat) : Int) ((c % 32 : Nat) : Int) _ _ _ w hK (by omega) (by omega) ht ?_ ?_ ?_ (Lib.hid fun w2 h2 => number0 _ w2 (by omega) h2) (Lib.hid fun w2 h2 => number1 _ w2 (by omega) h2) (Lib.hid fun w2 h2 => number2 _ w2 (by omega) h2)
    · rw [and31 _ (by omega) (by omega)]; omega
    · rw [and31 _ (by omega) (by omega)]; omega
    · rw [and31 _ (by omega) (by omega)]; omega
end Go.Proofs.YtiamabeapomabaaDoor.jo
