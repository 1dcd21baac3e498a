/- Check of layer 2: a contract. -/
import Derived.Test.YtiokdeomdeenbaaDoorPt0
namespace Go.Proofs.YtiokdeomdeenbaaDoor.pt
open Go.RowKit Go.Lib
set_option linter.unusedVariables false
/-- A fault by a place. -/
def fe : Option Nat → Int
  | none => 0
  | some _ => 2
def fa : Option Nat → Int
  | none => 0
  | some a => (a : Int)
/-- A block of two numbers. -/
structure F2 (w : World) (b : Nat) (x y : Int) : Prop where
  lt : b < w.heap.size
  c0 : w.cell? ⟨b, 0, none⟩ = some (.int .i64 x)
  c1 : w.cell? ⟨b, 1, none⟩ = some (.int .i64 y)
  f0 : w.frozen? ⟨b, 0, none⟩ = false
  f1 : w.frozen? ⟨b, 1, none⟩ = false
theorem F2.below {w w' : World} {b B : Nat} {x y : Int} (h : F2 w b x y) (hb : Below B w w') (hB : b < B) : F2 w' b x y := by
  have H : ∀ o, w'.cell? ⟨b, o, none⟩ = w.cell? ⟨b, o, none⟩ := fun o => hb.cell (p := ⟨b, o, none⟩) hB
  have F : ∀ o, w'.frozen? ⟨b, o, none⟩ = w.frozen? ⟨b, o, none⟩ := fun o => hb.frozen (p := ⟨b, o, none⟩) hB
  exact ⟨Nat.lt_of_lt_of_le h.lt hb.size, (H 0).trans h.c0, (H 1).trans h.c1, (F 0).trans h.f0, (F 1).trans h.f1⟩
theorem f2_new (w : World) (x y : Int) (t : Nat) : F2 (w.alloc (.cells #[.int .i64 x, .int .i64 y] t)) w.heap.size x y := by
  have F : ∀ o, (w.alloc (.cells #[.int .i64 x, .int .i64 y] t)).frozen? ⟨w.heap.size, o, none⟩ = false := fun o => by
    have := World.frozen?_alloc_mark w #[.int .i64 x, .int .i64 y] t 0 0 o
    rw [this]; simp
  refine ⟨by simp, ?_, ?_, F 0, F 1⟩ <;> rw [World.cell?_alloc_mark] <;> rfl
set_option maxRecDepth 100000 in
theorem check_any (s : ByteArray) (w : World) (hs : s.size ≤ 4000000000) (hT : Tabs w) :
    Calls Tryd.prog 56 #[.string s] w fun e w' => e = .returned (.agg #[.int .i64 (fe (scan s).2), .int .i64 (fa (scan s).2)]) ∧ Below w.heap.size w w' := by
  obtain ⟨A, hA⟩ : ∃ A, A = (scan s).2 := ⟨_, rfl⟩
  rw [← hA]
  have HA := Lib.hid hA
  have HT := Lib.hid hT
  clear hA hT
  go_enter Tryd.func56, Tryd.ntmps56
  go_wp2_with fail
  go_loopw [3] (fun _ wr => ∃ (pos f : Nat), wr.heap[w.heap.size + 1]? = some (.stringIter s pos) ∧ s.size ≤ pos + f ∧ (sc s f pos).2 = A ∧ F2 wr w.heap.size 0 0 ∧ Below w.heap.size w wr) (fun _ wr => s.size - wr.iterPos (w.heap.size + 1))
  case atStart =>
    have h0 : Below w.heap.size w (w.alloc (.cells #[.int .i64 0, .int .i64 0] 30)) := (Below.refl _ _).alloc (Nat.le_refl _) _
    have h1 : Below (w.alloc (.cells #[.int .i64 0, .int .i64 0] 30)).heap.size (w.alloc (.cells #[.int .i64 0, .int .i64 0] 30)) ((w.alloc (.cells #[.int .i64 0, .int .i64 0] 30)).iter s 0) := (Below.refl _ _).alloc (Nat.le_refl _) _
    exact ⟨0, s.size, by have := World.iter_heap (w.alloc (.cells #[.int .i64 0, .int .i64 0] 30)) s 0; rwa [World.size_alloc] at this, by omega, HA.out.symm, (f2_new w 0 0 30).below h1 (by simp), h0.trans (h1.mono (by simp))⟩
  case round =>
    obtain ⟨pos, f, hit, hf, hsc, hR, hB⟩ := hrel
    have HIT := Lib.hid hit; have HSC := Lib.hid hsc; have HR := Lib.hid hR; have HB := Lib.hid hB
    clear hit hsc hR hB
    by_cases hp : pos < s.size
    · have hnx : ∀ ty, (Instr.next (.pointer (some ⟨w.heap.size + 1, 0, none⟩)) true ty).run Tryd.prog wr = _ := fun ty => run_next_any_at wr (w.heap.size + 1) s pos ty HIT.out hp
      have hB1 : Below w.heap.size w (wr.iterAt (w.heap.size + 1) s (pos + (Utf8.decode s pos).2)) := below_iterAt HB.out (by omega) s _
      have hR1 : F2 (wr.iterAt (w.heap.size + 1) s (pos + (Utf8.decode s pos).2)) w.heap.size 0 0 := HR.out.below (below_iterAt (Below.refl (w.heap.size + 1) wr) (Nat.le_refl _) s _) (by omega)
      have hI1 := iterAt_heap wr (w.heap.size + 1) s pos (pos + (Utf8.decode s pos).2) HIT.out
      have hT1 := HT.out.below hB1
      have hsa := sign_at s pos (wr.iterAt (w.heap.size + 1) s (pos + (Utf8.decode s pos).2)) hp hT1
      have hw1 : 1 ≤ (Utf8.decode s pos).2 := width_pos s pos
      have hsc1 := HSC.out
      have hr32 : (Utf8.decode s pos).1 ≤ 1114111 := rune_le s pos
      have hps : pos ≤ 4000000000 := by omega
      have hsl : ∀ wx, (Instr.slice 9 (.string s) (some (.int .i64 (pos : Int))) none none).run Tryd.prog wx = .ok (.string (s.extract pos s.size)) wx := fun wx => by
        rw [run_slice_string_l wx 9 s Tryd.underlying9 .i64 (pos : Int) (by omega) (by omega)]; rfl
      cases hb : bad s pos with
      | true =>
        rw [sc_bad s f pos hp hf hb] at hsc1
        unfold bad at hb
        obtain ⟨e1, e2⟩ : (Utf8.decode s pos).1 = 65533 ∧ (Utf8.decode s pos).2 = 1 := by simpa using hb
        have H1 := Lib.hid hB1; have H2 := Lib.hid hR1; have H3 := Lib.hid hsa; have H4 := Lib.hid hsc1; have H6 := Lib.hid e2
        have hd : decide (1 < ((Utf8.decode s pos).2 : Int)) = false := by rw [e2]; rfl
        rw [hd] at H3
        rw [e1] at hnx
        have H7 : A = some pos := by have := H4.out; simpa using this.symm
        subst H7
        clear hB1 hR1 hI1 hT1 hsa hsc1 hw1 hb hr32 e1 e2 hd H4
        generalize Utf8.decode s pos = d at *
        go_wp2_with (go_at_call 81; refine H3.out.mono ?_; rintro e3 w3 ⟨rfl, hb3⟩; obtain ⟨lR, c0, c1, f0, f1⟩ := H2.out.below hb3 H2.out.lt)
        have HB9 := H1.out.trans (hb3.mono H1.out.size)
        exact bodyPost_ret (v := .agg #[.int .i64 2, .int .i64 pos]) (by simp [results, Tryd.results56, go_sem, c0, c1]) rfl ⟨rfl, by repeat (first | (with_reducible exact HB9) | (with_reducible exact Below.refl _ _) | (with_reducible refine Below.setCell ?_ (by simp) _) | (with_reducible refine Below.alloc ?_ (by simp; omega) _))⟩
      | false =>
        obtain ⟨f1, rfl⟩ : ∃ f1, f = f1 + 1 := ⟨f - 1, by omega⟩
        rw [sc_good s f1 pos hp hb] at hsc1
        unfold bad at hb
        have H1 := Lib.hid hB1; have H2 := Lib.hid hR1; have H3 := Lib.hid hsa; have H4 := Lib.hid hsc1; have H5 := Lib.hid hI1
        have hw2 : (Utf8.decode s pos).1 = 65533 → 1 < (Utf8.decode s pos).2 := fun h => by
          rcases Nat.lt_or_ge 1 (Utf8.decode s pos).2 with h1 | h1
          · exact h1
          · have h2 : (Utf8.decode s pos).2 = 1 := by omega
            simp [h, h2] at hb
        clear hB1 hR1 hI1 hT1 hsa hsc1 hb
        have hpm : s.size - (pos + (Utf8.decode s pos).2) < s.size - pos := by omega
        have hpf : s.size ≤ pos + (Utf8.decode s pos).2 + f1 := by omega
        generalize Utf8.decode s pos = d at *
        by_cases hd : d.1 = 65533
        · have hd2 : decide (1 < (d.2 : Int)) = true := by have := hw2 hd; simp; omega
          rw [hd2] at H3
          rw [hd] at hnx
          clear hw2 hw1 hr32 hd2
          go_wp2_with (go_at_call 81; refine H3.out.mono ?_; rintro e3 w3 ⟨rfl, hb3⟩)
          have i3 : w3.heap[w.heap.size + 1]? = some (.stringIter s (pos + d.2)) := (hb3.block _ (Array.getElem?_eq_some_iff.1 H5.out).1).trans H5.out
          go_roundw
          case rel => exact ⟨pos + d.2, f1, i3, hpf, H4.out, H2.out.below hb3 H2.out.lt, H1.out.trans (hb3.mono H1.out.size)⟩
          case measure => rw [iterPos_of i3, iterPos_of HIT.out]; exact hpm
        · have hdi : ¬ (d.1 : Int) = 65533 := by omega
          clear hw2 hw1
          go_wp2
          go_roundw
          case rel => exact ⟨pos + d.2, f1, H5.out, hpf, H4.out, H2.out, H1.out⟩
          case measure => rw [iterPos_of H5.out, iterPos_of HIT.out]; exact hpm
    · have hnx : ∀ ty, (Instr.next (.pointer (some ⟨w.heap.size + 1, 0, none⟩)) true ty).run Tryd.prog wr = _ := fun ty => run_next_end_at wr (w.heap.size + 1) s pos ty HIT.out hp
      obtain ⟨_, c0, c1, f0, f1⟩ := HR.out
      have HA2 : A = none := by have := HSC.out; rw [sc_end s f pos hp] at this; exact this.symm
      subst HA2
      go_wp2
      have HB9 := HB.out
      exact bodyPost_ret (v := .agg #[.int .i64 0, .int .i64 0]) (by simp [results, Tryd.results56, go_sem, c0, c1]) rfl ⟨rfl, by repeat (first | (with_reducible exact HB9) | (with_reducible exact Below.refl _ _) | (with_reducible refine Below.setCell ?_ (by simp) _) | (with_reducible refine Below.alloc ?_ (by simp; omega) _))⟩
end Go.Proofs.YtiokdeomdeenbaaDoor.pt
