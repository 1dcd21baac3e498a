/- The document's example of layer 3. -/
import Derived.Test.YtmogjimiiadmmaaDoorWd9
namespace Go.Proofs.YtmogjimiiadmmaaDoor.wd
open Go.RowKit Go.Lib
set_option linter.unusedVariables false
theorem ex1 : (pt.scan ⟨#[97]⟩).2 = none := by decide +kernel
theorem ex2 : (⟨#[255, 254]⟩ : ByteArray) ++ wb false (pt.zsOf ⟨#[97]⟩) = ⟨#[255, 254, 97, 0]⟩ := by decide +kernel
theorem ex3 : wt (wscan ((⟨#[254, 255, 216, 61, 222, 0]⟩ : ByteArray).extract 2 (⟨#[254, 255, 216, 61, 222, 0]⟩ : ByteArray).size) true) = ⟨#[240, 159, 152, 128]⟩ := by decide +kernel
theorem ex4 : (wscan ((⟨#[254, 255, 216, 61, 222, 0]⟩ : ByteArray).extract 2 (⟨#[254, 255, 216, 61, 222, 0]⟩ : ByteArray).size) true).2 = none := by decide +kernel
theorem ex5 : (wscan ⟨#[216, 0, 0, 65]⟩ true).2 = some 0 := by decide +kernel
set_option maxRecDepth 100000 in
set_option maxHeartbeats 1000000 in
theorem Awake_any (w : World) (hT : pt.Tabs w) : Calls Tryd.prog 36 #[] w fun e w' => e = .returned (.bool true) ∧ Below w.heap.size w w' := by
  have h1 := fun w2 hT2 => WithMark_good ⟨#[97]⟩ w2 (by decide) hT2 ex1
  rw [ex2] at h1
  have h2 := fun w2 => Marked_yes ⟨#[254, 255, 216, 61, 222, 0]⟩ true w2 (by decide) (by decide) (by decide +kernel) (by decide +kernel)
  rw [ex3, ex4] at h2
  have h3 := fun w2 => Decode_any ⟨#[216, 0, 0, 65]⟩ true w2 (by decide)
  rw [ex5] at h3
  simp only [fb, pt.fe, pt.fa] at h2 h3
  have e5 : ((0 : Nat) : Int) = 0 := rfl
  rw [e5] at h3
  have H1 := Lib.hid h1; have H2 := Lib.hid h2; have H3 := Lib.hid h3; have HT := Lib.hid hT
  clear h1 h2 h3 hT e5
  go_enter Tryd.func36, Tryd.ntmps36
  go_wp2_with (first
    | (go_at_call 28; refine (H1.out _ HT.out).mono ?_; rintro e1 w1 ⟨rfl, hb1⟩; have B1 := Lib.hid (hb1.alloc hb1.size (.cells #[.int .i64 0, .int .i64 0] 29)); have F1 := Lib.hid (pt.f2_new w1 0 0 29); have q1 := hb1.size; clear hb1)
    | (go_at_call 27; refine (H2.out _).mono ?_; rintro e2 w2 ⟨rfl, hb2⟩; have q2 : w1.heap.size + 1 ≤ w2.heap.size := (by have := hb2.size; simpa using this); have F2 := Lib.hid (F1.out.below hb2 F1.out.lt); have B2 := Lib.hid (B1.out.trans (hb2.mono (by simp; omega))); have A2 : Below w2.heap.size w2 (w2.alloc (.cells #[.int .i64 0, .int .i64 0] 29)) := (Below.refl _ _).alloc (Nat.le_refl _) _; have F3 := Lib.hid (F2.out.below A2 F2.out.lt); have G3 := Lib.hid (pt.f2_new w2 0 0 29); have B3 := Lib.hid (B2.out.trans (A2.mono (by omega))); clear hb2 A2)
    | (go_at_call 20; refine (H3.out _).mono ?_; rintro e3 w3 ⟨rfl, hb3⟩; have q3 : w2.heap.size + 1 ≤ w3.heap.size := (by have := hb3.size; simpa using this); have F4 := Lib.hid (F3.out.below hb3 F3.out.lt); have G4 := Lib.hid (G3.out.below hb3 G3.out.lt); have B4 := Lib.hid (B3.out.trans (hb3.mono (by simp; omega))); have A3 : Below w3.heap.size w3 (w3.alloc (.cells #[.int .i64 2, .int .i64 0] 29)) := (Below.refl _ _).alloc (Nat.le_refl _) _; have F5 := Lib.hid (F4.out.below A3 F4.out.lt); have G5 := Lib.hid (G4.out.below A3 G4.out.lt); have K5 := Lib.hid (pt.f2_new w3 2 0 29); have B5 := Lib.hid (B4.out.trans (A3.mono (by omega))); clear hb3 A3)
    | (go_at_call 29; refine (pt.Awake_any _ (HT.out.below B5.out)).mono ?_; rintro e4 w4 ⟨rfl, hb4⟩; have q4 : w3.heap.size + 1 ≤ w4.heap.size := (by have := hb4.size; simpa using this); have F6 := Lib.hid (F5.out.below hb4 F5.out.lt); have G6 := Lib.hid (G5.out.below hb4 G5.out.lt); have K6 := Lib.hid (K5.out.below hb4 K5.out.lt); have B6 := Lib.hid (B5.out.trans (hb4.mono (by simp; omega))); obtain ⟨_, c0, c1, _, _⟩ := F6.out; clear hb4)
    | (go_at_call 15; refine (pt.bad_any _ 0 0).mono ?_; rintro e5 w5 ⟨rfl, hb5⟩; have G7 := Lib.hid (G6.out.below hb5 G6.out.lt); have K7 := Lib.hid (K6.out.below hb5 K6.out.lt); have B7 := Lib.hid (B6.out.trans (hb5.mono (by omega))); obtain ⟨_, d0, d1, _, _⟩ := G7.out; have q5 := hb5.size; clear hb5 G6 K6 B6)
    | (go_at_call 15; refine (pt.bad_any _ 0 0).mono ?_; rintro e6 w6 ⟨rfl, hb6⟩; have B8 := Lib.hid (B7.out.trans (hb6.mono (by omega))); obtain ⟨_, k0, k1, _, _⟩ := K7.out.below hb6 K7.out.lt))
  go_ret
  exact ⟨rfl, B8.out⟩
end Go.Proofs.YtmogjimiiadmmaaDoor.wd
