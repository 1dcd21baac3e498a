/- Points of layer 2; the document's answer: Bytes, more: contracts. -/
import Derived.Test.YtiokdeomdeenbaaDoorPt3
import Derived.Deep.RegionHeld3
import Derived.Deep.DeepCutAuto
namespace Go.Proofs.YtiokdeomdeenbaaDoor.pt
open Go.RowKit Go.Lib
set_option linter.unusedVariables false
theorem conv_nums (w : World) (ns : List Int) (n : Nat) (cs : Array Value) (hn : ns.length = n) (h4 : n ≤ 4) (hc : cs = (ns.map (Value.int .u8)).toArray) : (convert 101 9 (.slice (some ⟨w.heap.size, 0, none⟩) n n)).run Tryd.prog (w.alloc (.cells cs 5)) = .ok (.string (strOfNums ns)) (w.alloc (.cells cs 5)) := by
  subst hn hc
  refine conv_row _ w.heap.size _ ns ⟨by simp, .inr ⟨w.heap.size, ns.length, _, rfl, Nat.le_refl _, heap_alloc_new w _, Nat.le_refl _, ?_, ?_, ?_⟩⟩
  · unfold maxLen; omega
  · simp
  · rw [Nat.mul_one]
    exact List.take_of_length_le (by rw [List.length_map]; exact Nat.le_refl _)
theorem points_bad (s : ByteArray) (A : Nat) (w : World) (hs : s.size ≤ 4000000000) (hT : Tabs w) (h : (scan s).2 = some A) : Calls Tryd.prog 84 #[.string s] w fun e w' => e = .returned (.tuple #[.slice none 0 0, .agg #[.int .i64 2, .int .i64 A]]) ∧ Below w.heap.size w w' := by
  have hc := fun w2 hT2 => check_any s w2 hs hT2
  rw [h] at hc
  simp only [fe, fa] at hc
  have HC := Lib.hid hc; have HT := Lib.hid hT
  clear hc h hT
  go_enter Tryd.func84, Tryd.ntmps84
  go_wp2_with (first | (go_at_call 56; refine (HC.out _ (HT.out.below (by repeat (first | (with_reducible exact Below.refl _ _) | (with_reducible refine Below.setCell ?_ (by simp) _) | (with_reducible refine Below.alloc ?_ (by simp) _))))).mono ?_; rintro e1 w1 ⟨rfl, hb1⟩; have q0 : w.heap.size < w1.heap.size := (by have := hb1.size; simp at this; omega); have FB := Lib.hid ((f2_new w 0 0 30).below hb1 (by simp)); obtain ⟨_, c0, c1, f0, f1⟩ := FB.out) | (go_at_call 17; refine (bad_any _ _ _).mono ?_; rintro e2 w2 ⟨rfl, hb2⟩; obtain ⟨_, a0, a1, g0, g1⟩ := (f2_new w1 2 A 30).below hb2 (by simp); obtain ⟨_, b0, b1, h0, h1⟩ := (FB.out.below ((Below.refl w1.heap.size w1).alloc (Nat.le_refl _) (.cells #[.int .i64 2, .int .i64 A] 30)) q0).below hb2 (by simp; omega); clear FB c0 c1 f0 f1))
  have n0 : ¬ w.heap.size = w1.heap.size := by omega
  have n1 : ¬ w1.heap.size = w.heap.size := by omega
  go_region_held3 (fun w' => w'.cell? ⟨w1.heap.size, 0, none⟩ = some (.int .i64 2) ∧ w'.cell? ⟨w1.heap.size, 1, none⟩ = some (.int .i64 A)) (go_keep) (fail)
  all_goals go_wp2_with fail
  all_goals
    have HB1 : Below w.heap.size w w1 := ((Below.refl w.heap.size w).alloc (Nat.le_refl _) _).trans (hb1.mono (by simp))
    have HB2 : Below w.heap.size w w2 := (HB1.alloc (Nat.le_of_lt q0) _).trans (hb2.mono (by simp; omega))
    have m0 : ¬ (w.heap.size = w1.heap.size) := n0
    exact bodyPost_ret (v := .tuple #[.slice none 0 0, .agg #[.int .i64 2, .int .i64 A]]) (by simp [results, Tryd.results84, go_sem, b0, b1]) rfl ⟨rfl, by refine Below.drew ?_; repeat (first | (with_reducible exact HB2) | (with_reducible exact Below.refl _ _) | (with_reducible refine Below.setCell ?_ (by simp) _) | (with_reducible refine Below.alloc ?_ (by simp; omega) _))⟩
/-- A text's signs, as numbers. -/
def zsOf (s : ByteArray) : List Int := (scan s).1.map Int.ofNat
theorem runes_sc (s : ByteArray) : ∀ f pos acc, (sc s f pos).2 = none → Conv.runesFrom s f pos acc = acc ++ ((sc s f pos).1.map (fun x => Value.int .i32 (Int.ofNat x))).toArray
  | 0, pos, acc, _ => by simp [Conv.runesFrom, sc]
  | f + 1, pos, acc, h => by
    by_cases hp : pos < s.size
    · cases hb : bad s pos with
      | true => simp [sc, hp, hb] at h
      | false =>
        rw [sc_good s f pos hp hb] at h ⊢
        unfold Conv.runesFrom
        rw [if_pos hp]
        have ih := runes_sc s f (pos + (Utf8.decode s pos).2) (acc.push (.int .i32 (Int.ofNat (Utf8.decode s pos).1))) h
        simp only at ih ⊢
        rw [ih]
        simp
    · rw [sc_end s (f + 1) pos hp]
      unfold Conv.runesFrom
      simp [hp]
theorem runes_conv (s : ByteArray) (hs : s.size ≤ 4000000000) (h : (scan s).2 = none) : ∃ (CAP : World → Nat) (CS : World → Array Value), (∀ w2, (convert 9 65 (.string s)).run Tryd.prog w2 = .ok (.slice (some ⟨w2.heap.size, 0, none⟩) (zsOf s).length (CAP w2)) (w2.drew.alloc (.cells (CS w2) 21))) ∧ (∀ w2, (zsOf s).length ≤ CAP w2 ∧ CAP w2 ≤ maxLen) ∧ ∀ w2 i, i < (zsOf s).length → (CS w2)[i]? = some (.int .i32 ((zsOf s).getD i 0)) := by
  have e : Conv.runesFrom s s.size 0 #[] = ((zsOf s).map (Value.int .i32)).toArray := by
    rw [runes_sc s s.size 0 #[] h]
    simp [zsOf, scan, Function.comp_def]
  have hlen : (zsOf s).length ≤ s.size := by unfold zsOf; rw [List.length_map]; exact sc_len s s.size 0
  have hz : (Conv.runesFrom s s.size 0 #[]).size = (zsOf s).length := by rw [e]; simp
  refine ⟨fun w2 => grownCap w2 (zsOf s).length 0 21, fun w2 => Conv.runesFrom s s.size 0 #[] ++ Array.replicate (grownCap w2 (zsOf s).length 0 21 - (zsOf s).length) (.int .i32 0), fun w2 => ?_, fun w2 => ⟨grownCap_ge _ _ _ _, grownCap_le_maxLen _ _ _ _ (by unfold maxLen; omega)⟩, fun w2 i hi => ?_⟩
  · have := run_runes_of_string (P := Tryd.prog) w2 9 65 21 s Tryd.underlying9 Tryd.underlying65 Tryd.underlying21 (by rw [hz]; omega)
    rwa [hz] at this
  · rw [Array.getElem?_append_left (by rw [hz]; exact hi), e]
    simp [List.getElem?_eq_getElem hi, List.getD]
theorem points_good (s : ByteArray) (w : World) (hs : s.size ≤ 4000000000) (hT : Tabs w) (h : (scan s).2 = none) : Calls Tryd.prog 84 #[.string s] w fun e w' => ∃ g cap, e = .returned (.tuple #[.slice (some ⟨g, 0, none⟩) (zsOf s).length cap, .agg #[.int .i64 0, .int .i64 0]]) ∧ (zsOf s).length ≤ cap ∧ cap ≤ maxLen ∧ w.heap.size ≤ g ∧ g < w'.heap.size ∧ (∀ i, i < (zsOf s).length → w'.cell? ⟨g, i, none⟩ = some (.int .i32 ((zsOf s).getD i 0))) ∧ Below w.heap.size w w' := by
  obtain ⟨CAP, CS, hcv, hcap, hcs⟩ := runes_conv s hs h
  have hc := fun w2 hT2 => check_any s w2 hs hT2
  rw [h] at hc
  simp only [fe, fa] at hc
  have HC := Lib.hid hc; have HT := Lib.hid hT; have HCAP := Lib.hid hcap; have HCS := Lib.hid hcs
  generalize zsOf s = zs at *
  clear hc h hT hcap hcs
  go_enter Tryd.func84, Tryd.ntmps84
  go_wp2_with (first | (go_at_call 56; refine (HC.out _ (HT.out.below (by repeat (first | (with_reducible exact Below.refl _ _) | (with_reducible refine Below.setCell ?_ (by simp) _) | (with_reducible refine Below.alloc ?_ (by simp) _))))).mono ?_; rintro e1 w1 ⟨rfl, hb1⟩; have q0 : w.heap.size < w1.heap.size := (by have := hb1.size; simp at this; omega); have FB := Lib.hid ((f2_new w 0 0 30).below hb1 (by simp)); obtain ⟨_, c0, c1, f0, f1⟩ := FB.out) | (go_at_call 17; refine (bad_any _ _ _).mono ?_; rintro e2 w2 ⟨rfl, hb2⟩; have FC := Lib.hid ((FB.out.below ((Below.refl w1.heap.size w1).alloc (Nat.le_refl _) (.cells #[.int .i64 0, .int .i64 0] 30)) q0).below hb2 (by simp; omega)); obtain ⟨_, b0, b1, h0, h1⟩ := FC.out; have FD := Lib.hid ((FC.out.below ((Below.refl w2.heap.size w2).drew) FC.out.lt).below ((Below.refl w2.drew.heap.size w2.drew).alloc (Nat.le_refl _) (.cells (CS w2) 21)) FC.out.lt); obtain ⟨_, d0, d1, i0, i1⟩ := FD.out; clear FB c0 c1 f0 f1))
  have HB1 : Below w.heap.size w w1 := ((Below.refl w.heap.size w).alloc (Nat.le_refl _) _).trans (hb1.mono (by simp))
  have HB2 : Below w.heap.size w w2 := (HB1.alloc (Nat.le_of_lt q0) _).trans (hb2.mono (by simp; omega))
  have lt2 : w.heap.size < w2.heap.size := FC.out.lt
  have n0 : ¬ (w.heap.size = w2.heap.size) := by omega
  have hx : ∀ o, (((w2.setCell ⟨w.heap.size, 0, none⟩ (.int .i64 0)).setCell ⟨w.heap.size, 1, none⟩ (.int .i64 0)).alloc (.cells (CS w2) 21)).cell? ⟨w.heap.size, o, none⟩ = ((w2.setCell ⟨w.heap.size, 0, none⟩ (.int .i64 0)).setCell ⟨w.heap.size, 1, none⟩ (.int .i64 0)).cell? ⟨w.heap.size, o, none⟩ := fun o => ((Below.refl _ _).alloc (Nat.le_refl _) _).cell (p := ⟨w.heap.size, o, none⟩) (by simp; omega)
  refine bodyPost_ret (v := .tuple #[.slice (some ⟨w2.heap.size, 0, none⟩) zs.length (CAP w2), .agg #[.int .i64 0, .int .i64 0]]) (by simp [results, Tryd.results84, go_sem, hx, b0, b1]) rfl ⟨w2.heap.size, CAP w2, rfl, (HCAP.out w2).1, (HCAP.out w2).2, Nat.le_of_lt lt2, by simp, fun i hi => ?_, by refine Below.drew ?_; repeat (first | (with_reducible exact HB2) | (with_reducible exact Below.refl _ _) | (with_reducible refine Below.setCell ?_ (by simp) _) | (with_reducible refine Below.alloc ?_ (by simp; omega) _))⟩
  generalize hX : (w2.setCell ⟨w.heap.size, 0, none⟩ (.int .i64 0)).setCell ⟨w.heap.size, 1, none⟩ (.int .i64 0) = X
  have e : w2.heap.size = X.heap.size := by rw [← hX]; simp
  show (X.alloc (.cells (CS w2) 21)).cell? ⟨w2.heap.size, i, none⟩ = _
  rw [e, World.cell?_alloc_mark]
  exact HCS.out w2 i hi
set_option maxRecDepth 100000 in
theorem more_any (s : ByteArray) (i : Nat) (w : World) (hs : s.size ≤ 4000000000) : Calls Tryd.prog 82 #[.string s, .int .i64 i] w fun x w' => x = .returned (.int .i32 (if h : i < s.size then (if 128 ≤ s[i].toNat ∧ s[i].toNat ≤ 191 then (s[i].toNat : Int) - 128 else -1) else -1)) ∧ w = w' := by
  by_cases h : i < s.size
  · rw [dif_pos h]
    go_enter Tryd.func82, Tryd.ntmps82
    go_wp2
    all_goals
      go_ret
      refine ⟨ret_int ?_, rfl⟩
      try rw [if_pos (by omega)]
      try rw [if_neg (by omega)]
      simp
  · rw [dif_neg h]
    go_enter Tryd.func82, Tryd.ntmps82
    go_wp2
    go_ret
    exact ⟨rfl, rfl⟩
set_option maxRecDepth 100000 in
theorem bytes_one (p : Int) (w : World) (h0 : 0 ≤ p) (h1 : p < 128) : Calls Tryd.prog 57 #[.int .i32 p] w fun x w' => x = .returned (.string (strOfNums (encodeRuneZ p))) ∧ Below w.heap.size w w' := by
  rw [encodeRuneZ_one h0 (by omega)]
  have hcv := conv_nums w [p] 1 #[.int .u8 p] rfl (by decide) rfl
  go_enter Tryd.func57, Tryd.ntmps57
  go_wp2
  go_ret
  exact ⟨rfl, by repeat (first | (with_reducible exact Below.refl _ _) | (with_reducible refine Below.setCell ?_ (by simp) _) | (with_reducible refine Below.alloc ?_ (by simp) _))⟩
set_option maxRecDepth 100000 in
theorem bytes_two (p : Int) (w : World) (h0 : 128 ≤ p) (h1 : p ≤ 2047) : Calls Tryd.prog 57 #[.int .i32 p] w fun x w' => x = .returned (.string (strOfNums (encodeRuneZ p))) ∧ Below w.heap.size w w' := by
  rw [encodeRuneZ_two h0 h1]
  have hcv := conv_nums w [192 + p / 64, 128 + p % 64] 2 #[.int .u8 (192 + p / 64), .int .u8 (128 + p % 64)] rfl (by decide) rfl
  go_enter Tryd.func57, Tryd.ntmps57
  go_wp2
  go_ret
  exact ⟨rfl, by repeat (first | (with_reducible exact Below.refl _ _) | (with_reducible refine Below.setCell ?_ (by simp) _) | (with_reducible refine Below.alloc ?_ (by simp) _))⟩
set_option maxRecDepth 100000 in
theorem bytes_three (p : Int) (w : World) (h : (2048 ≤ p ∧ p < 55296) ∨ (57343 < p ∧ p ≤ 65535)) : Calls Tryd.prog 57 #[.int .i32 p] w fun x w' => x = .returned (.string (strOfNums (encodeRuneZ p))) ∧ Below w.heap.size w w' := by
  rw [encodeRuneZ_three h]
  have h0 : 2048 ≤ p := by omega
  have h1 : p < 65536 := by omega
  have hcv := conv_nums w [224 + p / 4096, 128 + p / 64 % 64, 128 + p % 64] 3 #[.int .u8 (224 + p / 4096), .int .u8 (128 + p / 64 % 64), .int .u8 (128 + p % 64)] rfl (by decide) rfl
  clear h
  go_enter Tryd.func57, Tryd.ntmps57
  go_wp2
  go_ret
  exact ⟨rfl, by repeat (first | (with_reducible exact Below.refl _ _) | (with_reducible refine Below.setCell ?_ (by simp) _) | (with_reducible refine Below.alloc ?_ (by simp) _))⟩
set_option maxRecDepth 100000 in
theorem bytes_four (p : Int) (w : World) (h0 : 65536 ≤ p) (h1 : p ≤ 1114111) : Calls Tryd.prog 57 #[.int .i32 p] w fun x w' => x = .returned (.string (strOfNums (encodeRuneZ p))) ∧ Below w.heap.size w w' := by
  rw [encodeRuneZ_four h0 h1]
  have hcv := conv_nums w [240 + p / 262144, 128 + p / 4096 % 64, 128 + p / 64 % 64, 128 + p % 64] 4 #[.int .u8 (240 + p / 262144), .int .u8 (128 + p / 4096 % 64), .int .u8 (128 + p / 64 % 64), .int .u8 (128 + p % 64)] rfl (by decide) rfl
  go_enter Tryd.func57, Tryd.ntmps57
  go_wp2
  go_ret
  exact ⟨rfl, by repeat (first | (with_reducible exact Below.refl _ _) | (with_reducible refine Below.setCell ?_ (by simp) _) | (with_reducible refine Below.alloc ?_ (by simp) _))⟩
theorem bytes_any (p : Int) (w : World) (h : validRune p = true) : Calls Tryd.prog 57 #[.int .i32 p] w fun x w' => x = .returned (.string (strOfNums (encodeRuneZ p))) ∧ Below w.heap.size w w' := by
  have : (0 ≤ p ∧ p < 55296) ∨ (57343 < p ∧ p ≤ 1114111) := by unfold validRune at h; simpa using h
  by_cases h1 : p < 128
  · exact bytes_one p w (by omega) h1
  · by_cases h2 : p ≤ 2047
    · exact bytes_two p w (by omega) h2
    · by_cases h3 : p ≤ 65535
      · exact bytes_three p w (by omega)
      · exact bytes_four p w (by omega) (by omega)
end Go.Proofs.YtiokdeomdeenbaaDoor.pt
