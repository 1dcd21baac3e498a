/- The document's example of layer 2; the walk of PointSigns. -/
import Derived.Test.YtkhcmgnempjjcaaDoorPt4
namespace Go.Proofs.YtkhcmgnempjjcaaDoor
open Go.RowKit Go.Lib
set_option linter.unusedVariables false
theorem scan_example : (scan ⟨#[97, 195, 97]⟩).2 = some 1 := by decide +kernel
theorem txt_example : txt [233] = ⟨#[195, 169]⟩ := by decide +kernel
theorem text_one (p : Int) (V : Bool) (w : World) (b : Nat) (hb : b < w.heap.size) (hc : w.cell? ⟨b, 0, none⟩ = some (.int .i32 p)) (hV : V = validRune p) : Calls Tryd.prog 8 #[.slice (some ⟨b, 0, none⟩) 1 1] w fun e w' => e = .returned (.tuple #[.string (if V then txt [p] else ⟨#[]⟩), .bool V]) ∧ Below w.heap.size w w' := by
  have h := text_any ⟨b, 0, none⟩ 1 1 [p] w rfl (Nat.le_refl _) (by decide) (by decide) (fun i hi => by
    obtain rfl : i = 0 := by omega
    have e : (⟨b, 0, none⟩ : Addr).add 0 = ⟨b, 0, none⟩ := by simp [Addr.add]
    rw [e]; exact hc)
  have e : [p].all validRune = V := by rw [hV]; simp
  rwa [e] at h
set_option maxRecDepth 100000 in
theorem Awake_any (w : World) (hT : Tabs w) : Calls Tryd.prog 25 #[] w fun e w' => e = .returned (.bool true) ∧ Below w.heap.size w w' := by
  have hp := fun w2 hT2 => points_bad ⟨#[97, 195, 97]⟩ 1 w2 (by decide) hT2 scan_example
  have ht := fun w2 b hb hc => text_one 233 true w2 b hb hc (by decide)
  rw [if_pos rfl, txt_example] at ht
  have HP := Lib.hid hp; have HTX := Lib.hid ht; have HT := Lib.hid hT
  clear hp ht hT
  go_enter Tryd.func25, Tryd.ntmps25
  go_wp2_with (first | (go_at_call 8; refine (HTX.out _ _ (by simp) (by rw [World.cell?_alloc_mark]; rfl)).mono ?_; rintro e1 w1 ⟨rfl, hb1⟩; have B1 := Lib.hid (((Below.refl w.heap.size w).alloc (Nat.le_refl _) _).trans (hb1.mono (by simp)))) | (go_at_call 13; refine (HP.out _ (HT.out.below B1.out)).mono ?_; rintro e2 w2 ⟨rfl, hb2⟩))
  go_ret
  have B2 := B1.out.trans (hb2.mono B1.out.size)
  exact ⟨rfl, B2.alloc B2.size _⟩
theorem awake_any (w : World) (hT : Tabs w) : Calls Tryd.prog 11 #[] w fun e w' => e = .returned (.bool true) ∧ Below w.heap.size w w' := by
  have HA := Lib.hid (Awake_any w hT)
  clear hT
  go_enter Tryd.func11, Tryd.ntmps11
  go_wp2_with (go_at_call 25; refine HA.out.mono ?_; rintro e1 w1 ⟨rfl, hb1⟩)
  go_ret
  exact ⟨rfl, hb1⟩
set_option maxRecDepth 100000 in
theorem signs_walk (p : Int) (w : World) (hT : Tabs w) : Calls Tryd.prog 3 #[.int .i32 p] w fun e w' => e = .returned (.bool true) ∧ Below w.heap.size w w' := by
  obtain ⟨V, hV⟩ : ∃ V, V = validRune p := ⟨_, rfl⟩
  have ht := fun w2 b hb hc => text_one p V w2 b hb hc hV
  have hs := fun w2 => scalar_any p w2
  have hr := fun w2 => refScalar_any p w2
  rw [← hV] at hs hr
  have hb := fun w2 (h : V = true) => bytes_any p w2 (hV.symm.trans h)
  have et : txt [p] = strOfNums (encodeRuneZ p) := by simp [txt, nums]
  rw [et] at ht
  have hsz : (strOfNums (encodeRuneZ p)).size ≤ 4 := by rw [strOfNums_size]; exact (encodeRuneZ_length p).2
  generalize strOfNums (encodeRuneZ p) = T at *
  have HTX := Lib.hid ht; have HS := Lib.hid hs; have HR := Lib.hid hr; have HT := Lib.hid hT
  cases V with
  | true =>
    have HB := Lib.hid (fun w2 => hb w2 rfl)
    clear ht hs hr hT hb hV et
    go_enter Tryd.func3, Tryd.ntmps3
    go_wp2_with (first | (go_at_call 8; refine (HTX.out _ _ (by simp) (by rw [World.cell?_alloc_mark]; rfl)).mono ?_; rintro e1 w1 ⟨rfl, hb1⟩; have B1 := Lib.hid (((Below.refl w.heap.size w).alloc (Nat.le_refl _) _).trans (hb1.mono (by simp)))) | (go_at_call 9; refine (HS.out _).mono ?_; rintro e2 w2 ⟨rfl, rfl⟩) | (go_at_call 10; refine (HR.out _).mono ?_; rintro e3 w3 ⟨rfl, rfl⟩) | (go_at_call 11; refine (awake_any _ (HT.out.below B1.out)).mono ?_; rintro e4 w4 ⟨rfl, hb4⟩) | (go_at_call 12; refine (HB.out _).mono ?_; rintro e5 w5 ⟨rfl, hb5⟩))
    go_ret
    have g4 := B1.out.trans (hb4.mono B1.out.size)
    exact ⟨rfl, g4.trans (hb5.mono g4.size)⟩
  | false =>
    clear ht hs hr hT hb hV et
    go_enter Tryd.func3, Tryd.ntmps3
    go_wp2_with (first | (go_at_call 8; refine (HTX.out _ _ (by simp) (by rw [World.cell?_alloc_mark]; rfl)).mono ?_; rintro e1 w1 ⟨rfl, hb1⟩; have B1 := Lib.hid (((Below.refl w.heap.size w).alloc (Nat.le_refl _) _).trans (hb1.mono (by simp)))) | (go_at_call 9; refine (HS.out _).mono ?_; rintro e2 w2 ⟨rfl, rfl⟩) | (go_at_call 10; refine (HR.out _).mono ?_; rintro e3 w3 ⟨rfl, rfl⟩) | (go_at_call 11; refine (awake_any _ (HT.out.below B1.out)).mono ?_; rintro e4 w4 ⟨rfl, hb4⟩))
    go_ret
    exact ⟨rfl, B1.out.trans (hb4.mono B1.out.size)⟩
end Go.Proofs.YtkhcmgnempjjcaaDoor
