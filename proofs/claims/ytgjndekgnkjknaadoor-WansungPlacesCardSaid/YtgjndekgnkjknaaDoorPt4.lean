/- Points of layer 2; the document's answer: Bytes, more: contracts. -/
import Derived.Test.YtgjndekgnkjknaaDoorPt3
import Derived.Deep.RegionHeld3
import Derived.Deep.DeepCutAuto
namespace Go.Proofs.YtgjndekgnkjknaaDoor.pt
open Go.RowKit Go.Lib
set_option linter.unusedVariables false
theorem conv_nums (w : World) (ns : List Int) (n : Nat) (cs : Array Value) (hn : ns.length = n) (h4 : n ≤ 4) (hc : cs = (ns.map (Value.int .u8)).toArray) : (convert 37 9 (.slice (some ⟨w.heap.size, 0, none⟩) n n)).run Tryd.prog (w.alloc (.cells cs 5)) = .ok (.string (strOfNums ns)) (w.alloc (.cells cs 5)) := by
  subst hn hc
  refine conv_row _ w.heap.size _ ns ⟨by simp, .inr ⟨w.heap.size, ns.length, _, rfl, Nat.le_refl _, heap_alloc_new w _, Nat.le_refl _, ?_, ?_, ?_⟩⟩
  · unfold maxLen; omega
  · simp
  · rw [Nat.mul_one]
    exact List.take_of_length_le (by rw [List.length_map]; exact Nat.le_refl _)
/-- A text's signs, as numbers. -/
def zsOf (s : ByteArray) : List Int := (scan s).1.map Int.ofNat
theorem runes_sc (s : ByteArray) : ∀ f pos acc, (sc s f pos).2 = none → Conv.runesFrom s f pos acc = acc ++ ((sc s f pos).1.map (fun x => Value.int .i32 (Int.ofNat x))).toArray
  | 0, pos, acc, _ => by simp [Conv.runesFrom, sc]
  | f + 1, pos, acc, h => by
    by_cases hp : pos < s.size
    · cases hb : bad s pos with
      | true => simp [sc, hp, hb] at h
      | false =>
        rw [sc_good s f pos hp hb] at h ⊢
        unfold Conv.runesFrom
        rw [if_pos hp]
        have ih := runes_sc s f (pos + (Utf8.decode s pos).2) (acc.push (.int .i32 (Int.ofNat (Utf8.decode s pos).1))) h
        simp only at ih ⊢
        rw [ih]
        simp
    · rw [sc_end s (f + 1) pos hp]
      unfold Conv.runesFrom
      simp [hp]
set_option maxRecDepth 100000 in
theorem more_any (s : ByteArray) (i : Nat) (w : World) (hs : s.size ≤ 4000000000) : Calls Tryd.prog 55 #[.string s, .int .i64 i] w fun x w' => x = .returned (.int .i32 (if h : i < s.size then (if 128 ≤ s[i].toNat ∧ s[i].toNat ≤ 191 then (s[i].toNat : Int) - 128 else -1) else -1)) ∧ w = w' := by
  by_cases h : i < s.size
  · rw [dif_pos h]
    go_enter Tryd.func55, Tryd.ntmps55
    go_wp2
    all_goals
      go_ret
      refine ⟨ret_int ?_, rfl⟩
      try rw [if_pos (by omega)]
      try rw [if_neg (by omega)]
      simp
  · rw [dif_neg h]
    go_enter Tryd.func55, Tryd.ntmps55
    go_wp2
    go_ret
    exact ⟨rfl, rfl⟩
set_option maxRecDepth 100000 in
theorem bytes_one (p : Int) (w : World) (h0 : 0 ≤ p) (h1 : p < 128) : Calls Tryd.prog 57 #[.int .i32 p] w fun x w' => x = .returned (.string (strOfNums (encodeRuneZ p))) ∧ Below w.heap.size w w' := by
  rw [encodeRuneZ_one h0 (by omega)]
  have hcv := conv_nums w [p] 1 #[.int .u8 p] rfl (by decide) rfl
  go_enter Tryd.func57, Tryd.ntmps57
  go_wp2
  go_ret
  exact ⟨rfl, by repeat (first | (with_reducible exact Below.refl _ _) | (with_reducible refine Below.setCell ?_ (by simp) _) | (with_reducible refine Below.alloc ?_ (by simp) _))⟩
set_option maxRecDepth 100000 in
theorem bytes_two (p : Int) (w : World) (h0 : 128 ≤ p) (h1 : p ≤ 2047) : Calls Tryd.prog 57 #[.int .i32 p] w fun x w' => x = .returned (.string (strOfNums (encodeRuneZ p))) ∧ Below w.heap.size w w' := by
  rw [encodeRuneZ_two h0 h1]
  have hcv := conv_nums w [192 + p / 64, 128 + p % 64] 2 #[.int .u8 (192 + p / 64), .int .u8 (128 + p % 64)] rfl (by decide) rfl
  go_enter Tryd.func57, Tryd.ntmps57
  go_wp2
  go_ret
  exact ⟨rfl, by repeat (first | (with_reducible exact Below.refl _ _) | (with_reducible refine Below.setCell ?_ (by simp) _) | (with_reducible refine Below.alloc ?_ (by simp) _))⟩
set_option maxRecDepth 100000 in
theorem bytes_three (p : Int) (w : World) (h : (2048 ≤ p ∧ p < 55296) ∨ (57343 < p ∧ p ≤ 65535)) : Calls Tryd.prog 57 #[.int .i32 p] w fun x w' => x = .returned (.string (strOfNums (encodeRuneZ p))) ∧ Below w.heap.size w w' := by
  rw [encodeRuneZ_three h]
  have h0 : 2048 ≤ p := by omega
  have h1 : p < 65536 := by omega
  have hcv := conv_nums w [224 + p / 4096, 128 + p / 64 % 64, 128 + p % 64] 3 #[.int .u8 (224 + p / 4096), .int .u8 (128 + p / 64 % 64), .int .u8 (128 + p % 64)] rfl (by decide) rfl
  clear h
  go_enter Tryd.func57, Tryd.ntmps57
  go_wp2
  go_ret
  exact ⟨rfl, by repeat (first | (with_reducible exact Below.refl _ _) | (with_reducible refine Below.setCell ?_ (by simp) _) | (with_reducible refine Below.alloc ?_ (by simp) _))⟩
set_option maxRecDepth 100000 in
theorem bytes_four (p : Int) (w : World) (h0 : 65536 ≤ p) (h1 : p ≤ 1114111) : Calls Tryd.prog 57 #[.int .i32 p] w fun x w' => x = .returned (.string (strOfNums (encodeRuneZ p))) ∧ Below w.heap.size w w' := by
  rw [encodeRuneZ_four h0 h1]
  have hcv := conv_nums w [240 + p / 262144, 128 + p / 4096 % 64, 128 + p / 64 % 64, 128 + p % 64] 4 #[.int .u8 (240 + p / 262144), .int .u8 (128 + p / 4096 % 64), .int .u8 (128 + p / 64 % 64), .int .u8 (128 + p % 64)] rfl (by decide) rfl
  go_enter Tryd.func57, Tryd.ntmps57
  go_wp2
  go_ret
  exact ⟨rfl, by repeat (first | (with_reducible exact Below.refl _ _) | (with_reducible refine Below.setCell ?_ (by simp) _) | (with_reducible refine Below.alloc ?_ (by simp) _))⟩
theorem bytes_any (p : Int) (w : World) (h : validRune p = true) : Calls Tryd.prog 57 #[.int .i32 p] w fun x w' => x = .returned (.string (strOfNums (encodeRuneZ p))) ∧ Below w.heap.size w w' := by
  have : (0 ≤ p ∧ p < 55296) ∨ (57343 < p ∧ p ≤ 1114111) := by unfold validRune at h; simpa using h
  by_cases h1 : p < 128
  · exact bytes_one p w (by omega) h1
  · by_cases h2 : p ≤ 2047
    · exact bytes_two p w (by omega) h2
    · by_cases h3 : p ≤ 65535
      · exact bytes_three p w (by omega)
      · exact bytes_four p w (by omega) (by omega)
end Go.Proofs.YtgjndekgnkjknaaDoor.pt
