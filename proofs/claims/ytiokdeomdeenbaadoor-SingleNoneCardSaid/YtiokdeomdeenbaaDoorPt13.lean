/- Signs made a text, and read again. -/
import Derived.Test.YtiokdeomdeenbaaDoorPt12
namespace Go.Proofs.YtiokdeomdeenbaaDoor.pt
open Go.RowKit Go.Lib
set_option linter.unusedVariables false
/-- Decoding by numbers looks at the sign's own bytes alone. -/
theorem decodeN_enc (x : Int) (h : validRune x = true) (n b0 b1 b2 b3 : Nat) (hn : (encodeRuneZ x).length ≤ n)
    (hb : ∀ i, i < (encodeRuneZ x).length → (([b0, b1, b2, b3] : List Nat).getD i 0 : Int) = (encodeRuneZ x).getD i 0) :
    decodeN n b0 b1 b2 b3 = (x.toNat, (encodeRuneZ x).length) := by
  have hv : (0 ≤ x ∧ x < 55296) ∨ (57343 < x ∧ x ≤ 1114111) := by unfold validRune at h; simpa using h
  by_cases h1 : x ≤ 127
  · rw [encodeRuneZ_one (by omega) h1] at hn hb ⊢
    have e0 := hb 0 (by simp)
    simp at e0
    unfold decodeN
    rw [if_pos (by omega)]
    simp; omega
  by_cases h2 : x ≤ 2047
  · rw [encodeRuneZ_two (by omega) h2] at hn hb ⊢
    have e0 := hb 0 (by simp)
    have e1 := hb 1 (by simp)
    simp at e0 e1 hn
    unfold decodeN
    rw [if_neg (by omega), if_pos (by omega), if_pos (by omega)]
    simp; omega
  by_cases h3 : x ≤ 65535
  · rw [encodeRuneZ_three (by omega)] at hn hb ⊢
    have e0 := hb 0 (by simp)
    have e1 := hb 1 (by simp)
    have e2 := hb 2 (by simp)
    simp at e0 e1 e2 hn
    obtain ⟨Q, hQ⟩ : ∃ Q, Q = b0 % 16 * 4096 + b1 % 64 * 64 + b2 % 64 := ⟨_, rfl⟩
    have hQx : (Q : Int) = x := by omega
    have e : decodeN n b0 b1 b2 b3 = if Q ≥ 2048 ∧ (Q < 55296 ∨ (57344 ≤ Q ∧ Q ≤ 1114111)) then (Q, 3) else (65533, 1) := by
      subst hQ; unfold decodeN; rw [if_neg (by omega), if_neg (by omega), if_pos (by omega)]
    rw [e, if_pos (by omega)]
    simp; omega
  · rw [encodeRuneZ_four (by omega) (by omega)] at hn hb ⊢
    have e0 := hb 0 (by simp)
    have e1 := hb 1 (by simp)
    have e2 := hb 2 (by simp)
    have e3 := hb 3 (by simp)
    simp at e0 e1 e2 e3 hn
    obtain ⟨Q, hQ⟩ : ∃ Q, Q = b0 % 8 * 262144 + b1 % 64 * 4096 + b2 % 64 * 64 + b3 % 64 := ⟨_, rfl⟩
    have hQx : (Q : Int) = x := by omega
    have e : decodeN n b0 b1 b2 b3 = if Q ≥ 65536 ∧ (Q < 55296 ∨ (57344 ≤ Q ∧ Q ≤ 1114111)) then (Q, 4) else (65533, 1) := by
      subst hQ; unfold decodeN; rw [if_neg (by omega), if_neg (by omega), if_neg (by omega), if_pos (by omega)]
    rw [e, if_pos (by omega)]
    simp; omega
/-- The bytes from pos on are these. -/
def Ahead (s : ByteArray) (pos : Nat) (zs : List Int) (rest : List UInt8) : Prop := s.data.toList.drop pos = (nums zs).map (fun n => UInt8.ofNat n.toNat) ++ rest
theorem ahead_len {s : ByteArray} {pos : Nat} {zs : List Int} {rest : List UInt8} (h : Ahead s pos zs rest) (hp : pos ≤ s.size) : s.size = pos + (nums zs).length + rest.length := by
  have := congrArg List.length h
  rw [List.length_drop, Array.length_toList, List.length_append, List.length_map] at this
  have e : s.data.size = s.size := rfl
  omega
theorem decode_ahead {s : ByteArray} {pos : Nat} {x : Int} {zs : List Int} {rest : List UInt8} (h : Ahead s pos (x :: zs) rest) (hp : pos ≤ s.size) (hv : validRune x = true) : Utf8.decode s pos = (x.toNat, (encodeRuneZ x).length) := by
  have hl := ahead_len h hp
  have hnl : (nums (x :: zs)).length = (encodeRuneZ x).length + (nums zs).length := by simp [nums]
  rw [decode_N]
  have hd : ∀ k, s.data.toList.getD (pos + k) 0 = (s.data.toList.drop pos).getD k 0 := fun k => by simp [List.getD]
  have hsl : s.data.toList.length = s.size := by rw [Array.length_toList]; rfl
  refine decodeN_enc x hv _ _ _ _ _ ?_ (fun i hi => ?_)
  · omega
  have h4 := (encodeRuneZ_length x).2
  have hg : ((s.data.toList.getD (pos + i) 0).toNat : Int) = (encodeRuneZ x).getD i 0 := by
    rw [hd, h]
    have hby := encodeRuneZ_byte x ((encodeRuneZ x).getD i 0) (by simp [List.getD, List.getElem?_eq_getElem hi])
    have e1 : ((nums (x :: zs)).map (fun n => UInt8.ofNat n.toNat) ++ rest).getD i 0 = UInt8.ofNat ((encodeRuneZ x).getD i 0).toNat := by
      have e2 : nums (x :: zs) = encodeRuneZ x ++ nums zs := by simp [nums]
      rw [e2, List.map_append, List.append_assoc]
      simp only [List.getD]
      rw [List.getElem?_append_left (by rw [List.length_map]; exact hi)]
      simp [List.getElem?_eq_getElem hi]
    rw [e1]
    generalize (encodeRuneZ x).getD i 0 = Y at hby
    simp; omega
  match i, hi, hg with
  | 0, _, hg => simpa using hg
  | 1, _, hg => simpa using hg
  | 2, _, hg => simpa using hg
  | 3, _, hg => simpa using hg
  | (k + 4), hi, _ => omega
theorem ahead_next {s : ByteArray} {pos : Nat} {x : Int} {zs : List Int} {rest : List UInt8} (h : Ahead s pos (x :: zs) rest) : Ahead s (pos + (encodeRuneZ x).length) zs rest := by
  unfold Ahead at h ⊢
  rw [← List.drop_drop, h]
  have e2 : nums (x :: zs) = encodeRuneZ x ++ nums zs := by simp [nums]
  rw [e2, List.map_append, List.append_assoc]
  exact List.drop_left' (by rw [List.length_map])
theorem bad_not {s : ByteArray} {pos : Nat} {x : Int} (hv : validRune x = true) (h : Utf8.decode s pos = (x.toNat, (encodeRuneZ x).length)) : bad s pos = false := by
  unfold bad
  rw [h]
  rw [Bool.eq_false_iff]
  intro hh
  simp at hh
  have hr := valid_range hv
  have : x = 65533 := by omega
  subst this
  rw [len_three (by omega)] at hh
  omega
/-- Reading on behind signs. -/
theorem sc_ahead (s : ByteArray) (rest : List UInt8) : ∀ (zs : List Int) (f pos : Nat), Ahead s pos zs rest → pos ≤ s.size → s.size ≤ pos + f → zs.all validRune = true →
    (sc s f pos).2 = (sc s (f - zs.length) (pos + (nums zs).length)).2 ∧ (sc s f pos).1 = zs.map Int.toNat ++ (sc s (f - zs.length) (pos + (nums zs).length)).1
  | [], f, pos, _, _, _, _ => by simp [nums]
  | x :: zs, f, pos, h, hp, hf, hv => by
    simp only [List.all_cons, Bool.and_eq_true] at hv
    have hd := decode_ahead h hp hv.1
    have hb := bad_not hv.1 hd
    have hl := ahead_len h hp
    have hnl : (nums (x :: zs)).length = (encodeRuneZ x).length + (nums zs).length := by simp [nums]
    have h1 := (encodeRuneZ_length x).1
    obtain ⟨f1, rfl⟩ : ∃ f1, f = f1 + 1 := ⟨f - 1, by omega⟩
    rw [sc_good s f1 pos (by omega) hb, hd]
    have ih := sc_ahead s rest zs f1 (pos + (encodeRuneZ x).length) (ahead_next h) (by omega) (by omega) hv.2
    have e1 : f1 + 1 - (x :: zs).length = f1 - zs.length := by simp
    have e2 : pos + (nums (x :: zs)).length = pos + (encodeRuneZ x).length + (nums zs).length := by omega
    rw [e1, e2]
    exact ⟨ih.1, by rw [List.map_cons, List.cons_append, ← ih.2]⟩
theorem txt_data (zs : List Int) : (txt zs).data.toList = (nums zs).map (fun n => UInt8.ofNat n.toNat) := strOfNums_data _
theorem txt_size (zs : List Int) : (txt zs).size = (nums zs).length := strOfNums_size _
theorem scan_txt (zs : List Int) (hv : zs.all validRune = true) : (scan (txt zs)).2 = none ∧ (scan (txt zs)).1 = zs.map Int.toNat := by
  have h := sc_ahead (txt zs) [] zs (txt zs).size 0 (by unfold Ahead; rw [List.drop_zero, List.append_nil, txt_data]) (by omega) (by omega) hv
  rw [Nat.zero_add, sc_end (txt zs) ((txt zs).size - zs.length) (nums zs).length (by rw [txt_size]; omega)] at h
  exact ⟨h.1, by have := h.2; rwa [List.append_nil] at this⟩
theorem zsOf_txt (zs : List Int) (hv : zs.all validRune = true) : zsOf (txt zs) = zs := by
  unfold zsOf
  rw [(scan_txt zs hv).2, List.map_map]
  have : ∀ x ∈ zs, (Int.ofNat ∘ Int.toNat) x = id x := fun x hx => by
    have := valid_range (List.all_eq_true.1 hv x hx)
    simp; omega
  exact (List.map_congr_left this).trans (List.map_id _)
end Go.Proofs.YtiokdeomdeenbaaDoor.pt
