/- The document's answer of layer 2: Points: a contract. -/
import Derived.Test.YtiokdeomdeenbaaDoorPt9
import Derived.Lib.MapLaws
namespace Go.Proofs.YtiokdeomdeenbaaDoor.pt
open Go.RowKit Go.Lib
set_option linter.unusedVariables false
theorem rune_info : (Tryd.prog.info? 21).map (fun i => (i.zero, i.size, i.bytes)) = some (some (.int .i32 0), 1, 4) := by kernel_rfl
def runesV (l : List Nat) : List Value := l.map fun x => Value.int .i32 (Int.ofNat x)
theorem width_fits (s : ByteArray) (pos : Nat) (h : pos < s.size) : pos + (Utf8.decode s pos).2 ≤ s.size := by
  have hl : (s.data.toList.drop pos).length = s.size - pos := by rw [List.length_drop, Array.length_toList]; rfl
  have hne : s.data.toList.drop pos ≠ [] := by
    intro h0
    rw [h0] at hl
    simp at hl; omega
  have := decodeL_le _ hne
  rw [decodeL_drop, hl] at this
  omega
theorem owns_below {B : Nat} {e : TypeId} {v : Value} {n : Nat} {xs : List Value} {wr w1 : World} (h : wr.ownsRow B e 1 v n xs) (hb : Below wr.heap.size wr w1) : w1.ownsRow B e 1 v n xs := by
  obtain ⟨hl, h | ⟨g, cap, cur, rfl, hB, hg, h1, h2, h3, h4⟩⟩ := h
  · exact ⟨hl, .inl h⟩
  · have hlt : g < wr.heap.size := (Array.getElem?_eq_some_iff.1 hg).1
    exact ⟨hl, .inr ⟨g, cap, cur, rfl, hB, (hb.block g hlt).trans hg, h1, h2, h3, h4⟩⟩
theorem runes_snoc (l : List Nat) (p : Nat) : runesV (l ++ [p]) = runesV l ++ [.int .i32 (p : Int)] := by simp [runesV]
set_option maxRecDepth 100000 in
set_option maxHeartbeats 1000000 in
theorem refPoints_any (s : ByteArray) (w : World) (hs : s.size ≤ 4000) : Calls Tryd.prog 33 #[.string s] w fun e w' => ∃ v d, e = .returned (.tuple #[v, .int .i64 d]) ∧ Below w.heap.size w w' ∧
    ((∃ A, (scan s).2 = some A ∧ d = (A : Nat) ∧ v = .slice none 0 0) ∨ ((scan s).2 = none ∧ d = -1 ∧ w'.ownsRow w.heap.size 21 1 v (scan s).1.length (runesV (scan s).1))) := by
  obtain ⟨i0, hi0, hzz⟩ := Option.map_eq_some_iff.1 rune_info
  simp only [Prod.mk.injEq] at hzz
  obtain ⟨hz, hsi, hby⟩ := hzz
  obtain ⟨L, hL⟩ : ∃ L, L = (scan s).1 := ⟨_, rfl⟩
  obtain ⟨D, hD⟩ : ∃ D, D = (scan s).2 := ⟨_, rfl⟩
  rw [← hL, ← hD]
  have HL := Lib.hid hL; have HD := Lib.hid hD
  clear hL hD
  go_enter Tryd.func33, Tryd.ntmps33
  go_wp2_with fail
  go_loopw [4, 5] (fun v i wr => ∃ (pos f : Nat) (pre : List Nat), pos ≤ s.size ∧ i = .int .i64 pos ∧ s.size ≤ pos + f ∧ pre.length ≤ pos ∧ pre ++ (sc s f pos).1 = L ∧ (sc s f pos).2 = D ∧ wr.ownsRow w.heap.size 21 1 v pre.length (runesV pre) ∧ Below w.heap.size w wr) (fun _ i _ => s.size - (RowKit.intOf i).toNat)
  case atStart => exact ⟨0, s.size, [], Nat.zero_le _, rfl, by omega, by simp, HL.out.symm, HD.out.symm, World.ownsRow_nil _ _ _ _, Below.refl _ _⟩
  case round =>
    obtain ⟨pos, f, pre, hps, rfl, hf, hpl, hpre, hsc, hown, hB⟩ := hrel
    have HPR := Lib.hid hpre; have HSC := Lib.hid hsc; have HOW := Lib.hid hown; have HB := Lib.hid hB
    clear hpre hsc hown hB
    by_cases hp : pos < s.size
    · have hat := at_any s pos wr hp (by omega)
      cases hb : bad s pos with
      | true =>
        have hsc1 := HSC.out
        rw [sc_bad s f pos hp hf hb] at hsc1
        rw [hb] at hat
        have HAT := Lib.hid hat; have HS1 := Lib.hid hsc1
        clear hat hsc1 hb
        go_wp2_with (go_at_call 58; refine HAT.out.mono ?_; rintro e1 w1 ⟨rfl, hb1⟩)
        go_ret2
        exact ⟨_, _, rfl, HB.out.trans (hb1.mono HB.out.size), .inl ⟨pos, HS1.out.symm, rfl, rfl⟩⟩
      | false =>
        obtain ⟨f1, rfl⟩ : ∃ f1, f = f1 + 1 := ⟨f - 1, by omega⟩
        have hsc1 := HSC.out
        have hpre1 := HPR.out
        rw [sc_good s f1 pos hp hb] at hsc1 hpre1
        rw [hb] at hat
        simp only [Bool.false_eq_true, if_false] at hat
        have hw1 := width_pos s pos
        have hw2 := width_fits s pos hp
        have hr := rune_le s pos
        have hpf : s.size ≤ pos + (Utf8.decode s pos).2 + f1 := by omega
        have HAT := Lib.hid hat; have HS1 := Lib.hid hsc1; have HP1 := Lib.hid hpre1
        clear hat hsc1 hpre1 hb
        generalize Utf8.decode s pos = d at *
        have hd0 : ¬ (d.2 : Int) = 0 := by omega
        go_wp2_with (first | (go_at_call 58; refine HAT.out.mono ?_; rintro e1 w1 ⟨rfl, hb1⟩; have B1 := Lib.hid (HB.out.trans (hb1.mono HB.out.size)); have O1 := Lib.hid (owns_below HOW.out hb1)) | (at_builtin; refine wpList_append_own _ rfl _ _ 65 rfl w.heap.size 21 i0 (.int .i32 0) 1 4 Tryd.underlying65 hi0 hz hsi hby rfl (by decide) _ _ _ rfl (O1.out.alloc _) ⟨w1.heap.size, 0, none⟩ 1 1 [.int .i32 (d.1 : Int)] rfl rfl ?c1 ?c2 ?c3 ?c4 ?c5 ?_))
        case c1 =>
          intro j u hj
          match j, hj with
          | 0, hj =>
            simp at hj
            subst hj
            have e : (⟨w1.heap.size, 0, none⟩ : Addr).add 0 = ⟨w1.heap.size, 0, none⟩ := by simp [Addr.add]
            rw [e, World.cell?_alloc_mark]; rfl
          | (j + 1), hj => simp at hj
        case c2 => intro u hu; simp at hu; subst hu; rfl
        case c3 => unfold maxLen; omega
        case c4 => omega
        case c5 => have := B1.out.size; simp; omega
        intro v' w2 hown2 hgrow _
        have HO2 := Lib.hid hown2
        clear hown2
        go_wp2
        go_roundw
        case rel => exact ⟨pos + d.2, f1, pre ++ [d.1], hw2, by go_num, hpf, by simp; omega, by rw [List.append_assoc]; exact HP1.out, HS1.out, by rw [runes_snoc, List.length_append]; exact HO2.out, below_grown B1.out B1.out.size O1.out hgrow⟩
        case measure => simp [RowKit.intOf]; omega
    · have hsc1 := HSC.out
      have hpre1 := HPR.out
      rw [sc_end s f pos hp] at hsc1 hpre1
      have HS1 := Lib.hid hsc1; have HP1 := Lib.hid hpre1
      clear hsc1 hpre1
      go_wp2
      go_ret2
      exact ⟨_, _, rfl, HB.out, .inr ⟨HS1.out.symm, rfl, by have := HP1.out; rw [List.append_nil] at this; rw [← this]; exact HOW.out⟩⟩
end Go.Proofs.YtiokdeomdeenbaaDoor.pt
