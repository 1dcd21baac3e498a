/- The document's example of layer 2; the walk of PointSigns. -/
import Derived.Test.YtiokdeomdeenbaaDoorPt4
namespace Go.Proofs.YtiokdeomdeenbaaDoor.pt
open Go.RowKit Go.Lib
set_option linter.unusedVariables false
theorem scan_example : (scan ⟨#[97, 195, 97]⟩).2 = some 1 := by decide +kernel
theorem txt_example : txt [233] = ⟨#[195, 169]⟩ := by decide +kernel
theorem text_one (p : Int) (V : Bool) (w : World) (b : Nat) (hb : b < w.heap.size) (hc : w.cell? ⟨b, 0, none⟩ = some (.int .i32 p)) (hV : V = validRune p) : Calls Tryd.prog 55 #[.slice (some ⟨b, 0, none⟩) 1 1] w fun e w' => e = .returned (.tuple #[.string (if V then txt [p] else ⟨#[]⟩), .bool V]) ∧ Below w.heap.size w w' := by
  have h := text_any ⟨b, 0, none⟩ 1 1 [p] w rfl (Nat.le_refl _) (by decide) (by decide) (fun i hi => by
    obtain rfl : i = 0 := by omega
    have e : (⟨b, 0, none⟩ : Addr).add 0 = ⟨b, 0, none⟩ := by simp [Addr.add]
    rw [e]; exact hc)
  have e : [p].all validRune = V := by rw [hV]; simp
  rwa [e] at h
set_option maxRecDepth 100000 in
theorem Awake_any (w : World) (hT : Tabs w) : Calls Tryd.prog 78 #[] w fun e w' => e = .returned (.bool true) ∧ Below w.heap.size w w' := by
  have hp := fun w2 hT2 => points_bad ⟨#[97, 195, 97]⟩ 1 w2 (by decide) hT2 scan_example
  have ht := fun w2 b hb hc => text_one 233 true w2 b hb hc (by decide)
  rw [if_pos rfl, txt_example] at ht
  have HP := Lib.hid hp; have HTX := Lib.hid ht; have HT := Lib.hid hT
  clear hp ht hT
  go_enter Tryd.func78, Tryd.ntmps78
  go_wp2_with (first | (go_at_call 55; refine (HTX.out _ _ (by simp) (by rw [World.cell?_alloc_mark]; rfl)).mono ?_; rintro e1 w1 ⟨rfl, hb1⟩; have B1 := Lib.hid (((Below.refl w.heap.size w).alloc (Nat.le_refl _) _).trans (hb1.mono (by simp)))) | (go_at_call 84; refine (HP.out _ (HT.out.below B1.out)).mono ?_; rintro e2 w2 ⟨rfl, hb2⟩))
  go_ret
  have B2 := B1.out.trans (hb2.mono B1.out.size)
  exact ⟨rfl, B2.alloc B2.size _⟩
end Go.Proofs.YtiokdeomdeenbaaDoor.pt
