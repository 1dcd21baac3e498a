/- Several texts in one. -/
import Derived.Test.YthnadkokibcehaaGreatDoorPtA
import Derived.Lib.DecodeN
import Derived.Lib.MapLaws
import Derived.Deep.DrawnRows
import Derived.Test.YthnadkokibcehaaGreatDoorBg0
import Derived.Test.YthnadkokibcehaaGreatDoorZ3
import Derived.Test.YthnadkokibcehaaGreatDoorZ4
import Derived.Test.YthnadkokibcehaaGreatDoorZ0
import Derived.WalkSmall
import Derived.Lib.Hide
namespace Go.Proofs.YthnadkokibcehaaGreatDoor.pt
open Go.RowKit Go.Lib
set_option linter.unusedVariables false
end Go.Proofs.YthnadkokibcehaaGreatDoor.pt
namespace Go.Proofs.YthnadkokibcehaaGreatDoor.pt
open Go.RowKit Go.Lib
set_option linter.unusedVariables false
end Go.Proofs.YthnadkokibcehaaGreatDoor.pt
namespace Go.Proofs.YthnadkokibcehaaGreatDoor.pt
open Go.RowKit Go.Lib
set_option linter.unusedVariables false
theorem len_three {q : Int} (h : (2048 ≤ q ∧ q < 55296) ∨ (57343 < q ∧ q ≤ 65535)) : (encodeRuneZ q).length = 3 := by rw [encodeRuneZ_three h]; rfl
end Go.Proofs.YthnadkokibcehaaGreatDoor.pt
namespace Go.Proofs.YthnadkokibcehaaGreatDoor.pt
open Go.RowKit Go.Lib
set_option linter.unusedVariables false
theorem rune_info : (Tryz.prog.info? 21).map (fun i => (i.zero, i.size, i.bytes)) = some (some (.int .i32 0), 1, 4) := by kernel_rfl
theorem width_fits (s : ByteArray) (pos : Nat) (h : pos < s.size) : pos + (Utf8.decode s pos).2 ≤ s.size := by
  have hl : (s.data.toList.drop pos).length = s.size - pos := by rw [List.length_drop, Array.length_toList]; rfl
  have hne : s.data.toList.drop pos ≠ [] := by
    intro h0
    rw [h0] at hl
    simp at hl; omega
  have := decodeL_le _ hne
  rw [decodeL_drop, hl] at this
  omega
theorem owns_below {B : Nat} {e : TypeId} {v : Value} {n : Nat} {xs : List Value} {wr w1 : World} (h : wr.ownsRow B e 1 v n xs) (hb : Below wr.heap.size wr w1) : w1.ownsRow B e 1 v n xs := by
  obtain ⟨hl, h | ⟨g, cap, cur, rfl, hB, hg, h1, h2, h3, h4⟩⟩ := h
  · exact ⟨hl, .inl h⟩
  · have hlt : g < wr.heap.size := (Array.getElem?_eq_some_iff.1 hg).1
    exact ⟨hl, .inr ⟨g, cap, cur, rfl, hB, (hb.block g hlt).trans hg, h1, h2, h3, h4⟩⟩
end Go.Proofs.YthnadkokibcehaaGreatDoor.pt
namespace Go.Proofs.YthnadkokibcehaaGreatDoor.pt
open Go.RowKit Go.Lib
set_option linter.unusedVariables false
/-- A slice of numbers, none or a row. -/
def RowI (w : World) (p : Option Addr) (len cap : Nat) (zs : List Int) : Prop :=
  (p = none ∧ len = 0 ∧ cap = 0 ∧ zs = []) ∨ ∃ a, p = some a ∧ len ≤ cap ∧ cap ≤ maxLen ∧ zs.length = len ∧ ∀ i, i < len → w.cell? (a.add i) = some (.int .i32 (zs.getD i 0))
theorem RowI.below {w w' : World} {p : Option Addr} {len cap : Nat} {zs : List Int} (h : RowI w p len cap zs) (hb : Below w.heap.size w w') : RowI w' p len cap zs := by
  rcases h with h | ⟨a, h1, h2, h3, h4, h5⟩
  · exact .inl h
  · exact .inr ⟨a, h1, h2, h3, h4, fun i hi => (hb.cell (World.block_lt_of_cell? w _ (h5 i hi))).trans (h5 i hi)⟩
theorem RowI.at {w : World} {p : Option Addr} {len cap : Nat} {zs : List Int} (h : RowI w p len cap zs) (i : Nat) (hi : i < len) : ∃ a, p = some a ∧ len ≤ cap ∧ cap ≤ maxLen ∧ w.cell? (a.add i) = some (.int .i32 (zs.getD i 0)) := by
  rcases h with ⟨_, h1, _, _⟩ | ⟨a, h1, h2, h3, _, h5⟩
  · omega
  · exact ⟨a, h1, h2, h3, h5 i hi⟩
set_option maxRecDepth 100000 in
theorem text_nil (w : World) : Calls Tryz.prog 27 #[.slice none 0 0] w fun e w' => e = .returned (.tuple #[.string ⟨#[]⟩, .bool true]) ∧ Below w.heap.size w w' := by
  have hmk : ∀ w2, (Instr.makeSlice 28 (.int .i64 0) (.int .i64 0)).run Tryz.prog w2 = _ := fun w2 => mk_bytes 0 (by decide) w2
  have hcv := conv_row (w.alloc (.cells (madeCells #[.int .u8 0] 0) 5)) w.heap.size (.slice (some ⟨w.heap.size, 0, none⟩) 0 0) [] (World.ownsRow_made w _ 0 (Nat.le_refl _) (by unfold maxLen; omega) (by simp [madeCells]))
  have e0 : strOfNums [] = ⟨#[]⟩ := rfl
  rw [e0] at hcv
  go_enter Tryz.func27, Tryz.ntmps27
  go_wp2_with fail
  refine wp_loop_rounds 1 ?_
  rw [rounds_succ]
  go_wp2_with fail
  go_ret2
  exact ⟨rfl, by repeat (first | (with_reducible exact Below.refl _ _) | (with_reducible refine Below.setCell ?_ (by simp) _) | (with_reducible refine Below.alloc ?_ (by simp) _))⟩
theorem text_row (p : Option Addr) (n c : Nat) (zs : List Int) (w : World) (h : RowI w p n c zs) (hn : n ≤ 4000) : Calls Tryz.prog 27 #[.slice p n c] w fun e w' => e = .returned (.tuple #[.string (if zs.all validRune then txt zs else ⟨#[]⟩), .bool (zs.all validRune)]) ∧ Below w.heap.size w w' := by
  rcases h with ⟨rfl, rfl, rfl, rfl⟩ | ⟨a, rfl, h1, h2, h3, h4⟩
  · exact text_nil w
  · exact text_any a n c zs w h3 h1 h2 hn h4
end Go.Proofs.YthnadkokibcehaaGreatDoor.pt
namespace Go.Proofs.YthnadkokibcehaaGreatDoor.pt
open Go.RowKit Go.Lib
set_option linter.unusedVariables false
theorem decodeN_valid (n b0 b1 b2 b3 : Nat) : validRune ((decodeN n b0 b1 b2 b3).1 : Int) = true := by
  unfold validRune
  apply decide_eq_true
  unfold decodeN
  repeat' split
  all_goals (simp only; omega)
theorem decode_valid (s : ByteArray) (i : Nat) : validRune ((Utf8.decode s i).1 : Int) = true := by rw [decode_at]; exact decodeN_valid _ _ _ _ _
def zsFrom (s : ByteArray) (f pos : Nat) : List Int := (sc s f pos).1.map Int.ofNat
theorem zs_valid (s : ByteArray) : ∀ f pos, (zsFrom s f pos).all validRune = true
  | 0, pos => rfl
  | f + 1, pos => by
    unfold zsFrom
    by_cases hp : pos < s.size
    · cases hb : bad s pos with
      | true => simp [sc, hp, hb]
      | false =>
        rw [sc_good s f pos hp hb]
        have ih := zs_valid s f (pos + (Utf8.decode s pos).2)
        unfold zsFrom at ih
        simp only [List.map_cons, List.all_cons, ih, Bool.and_true]
        exact decode_valid s pos
    · rw [sc_end s (f + 1) pos hp]; rfl
theorem enc_cons (x : Int) (l : List Int) : enc (x :: l) = runeCells x ++ enc l := by simp [enc, nums, runeCells]
theorem byteCells_append (a b : List UInt8) : byteCells (a ++ b) = byteCells a ++ byteCells b := by simp [byteCells]
theorem enc_back (s : ByteArray) : ∀ f pos, s.size ≤ pos + f → (sc s f pos).2 = none → enc (zsFrom s f pos) = byteCells (s.data.toList.drop pos)
  | 0, pos, h, _ => by
    have : s.data.toList.drop pos = [] := List.drop_eq_nil_of_le (by rw [Array.length_toList]; exact h)
    rw [this]; rfl
  | f + 1, pos, h, hn => by
    by_cases hp : pos < s.size
    · cases hb : bad s pos with
      | true => simp [sc, hp, hb] at hn
      | false =>
        have hw := width_pos s pos
        rw [sc_good s f pos hp hb] at hn
        have ih := enc_back s f (pos + (Utf8.decode s pos).2) (by omega) hn
        have hne : s.data.toList.drop pos ≠ [] := by
          intro h0
          have := congrArg List.length h0
          rw [List.length_drop, Array.length_toList] at this
          have e : s.data.size = s.size := rfl
          simp at this; omega
        have hv : ¬ ((decodeL (s.data.toList.drop pos)).1 = 65533 ∧ (decodeL (s.data.toList.drop pos)).2 = 1) := by
          rw [decodeL_drop]
          unfold bad at hb
          simpa using hb
        have he := encode_decode _ hne hv
        rw [decodeL_drop] at he
        unfold zsFrom at ih ⊢
        rw [sc_good s f pos hp hb]
        simp only [List.map_cons]
        rw [enc_cons, ih]
        have e1 : runeCells (Int.ofNat (Utf8.decode s pos).1) = byteCells ((s.data.toList.drop pos).take (Utf8.decode s pos).2) := by
          rw [← he, byteCells_encodeRune]; rfl
        rw [e1, ← byteCells_append, ← List.drop_drop, List.take_append_drop]
    · rw [sc_end s (f + 1) pos hp] at hn
      have : s.data.toList.drop pos = [] := List.drop_eq_nil_of_le (by rw [Array.length_toList]; have e : s.data.size = s.size := rfl; omega)
      unfold zsFrom
      rw [this, sc_end s (f + 1) pos hp]; rfl
theorem u8_inj : ∀ (a b : List Int), a.map (Value.int .u8) = b.map (Value.int .u8) → a = b
  | [], [], _ => rfl
  | [], _ :: _, h => by simp at h
  | _ :: _, [], h => by simp at h
  | x :: a, y :: b, h => by
    simp only [List.map_cons, List.cons.injEq, Value.int.injEq, true_and] at h
    rw [h.1, u8_inj a b h.2]
theorem str_back (s : ByteArray) : strOfNums (s.data.toList.map fun b => (b.toNat : Int)) = s := by
  unfold strOfNums
  rw [List.map_map]
  have : ((fun n : Int => UInt8.ofNat n.toNat) ∘ fun b : UInt8 => (b.toNat : Int)) = id := by funext b; simp
  rw [this, List.map_id]
theorem txt_back (s : ByteArray) (h : (scan s).2 = none) : txt (zsOf s) = s := by
  have h1 := enc_back s s.size 0 (by omega) h
  rw [List.drop_zero] at h1
  have h2 : nums (zsOf s) = s.data.toList.map fun b => (b.toNat : Int) := u8_inj _ _ (by
    have : enc (zsOf s) = byteCells s.data.toList := h1
    unfold enc at this
    rw [this]; simp [byteCells])
  unfold txt
  rw [h2, str_back]
theorem zsOf_valid (s : ByteArray) : (zsOf s).all validRune = true := zs_valid s s.size 0
theorem zsOf_len (s : ByteArray) : (zsOf s).length = (scan s).1.length := by simp [zsOf]
theorem add_zero (g i : Nat) : (⟨g, 0, none⟩ : Addr).add i = ⟨g, i, none⟩ := by simp [Addr.add]; intro h; exact h.symm
theorem points_row (s : ByteArray) (n : Nat) (w : World) (hs : s.size ≤ 4000000000) (hT : Tabs w) (h : (scan s).2 = none) (hn : (zsOf s).length = n) : Calls Tryz.prog 28 #[.string s] w fun e w' => ∃ q d, e = .returned (.tuple #[.slice q n d, .agg #[.int .i64 0, .int .i64 0]]) ∧ RowI w' q n d (zsOf s) ∧ Below w.heap.size w w' := by
  subst hn
  refine (points_good s w hs hT h).mono ?_
  rintro e w' ⟨g, cap, rfl, h1, h2, h3, h4, h5, h6⟩
  exact ⟨_, _, rfl, .inr ⟨_, rfl, h1, h2, rfl, fun i hi => by rw [add_zero]; exact h5 i hi⟩, h6⟩
end Go.Proofs.YthnadkokibcehaaGreatDoor.pt
namespace Go.Proofs.YthnadkokibcehaaGreatDoor.pt
open Go.RowKit Go.Lib
set_option linter.unusedVariables false
/-- Decoding by numbers looks at the sign's own bytes alone. -/
theorem decodeN_enc (x : Int) (h : validRune x = true) (n b0 b1 b2 b3 : Nat) (hn : (encodeRuneZ x).length ≤ n)
    (hb : ∀ i, i < (encodeRuneZ x).length → (([b0, b1, b2, b3] : List Nat).getD i 0 : Int) = (encodeRuneZ x).getD i 0) :
    decodeN n b0 b1 b2 b3 = (x.toNat, (encodeRuneZ x).length) := by
  have hv : (0 ≤ x ∧ x < 55296) ∨ (57343 < x ∧ x ≤ 1114111) := by unfold validRune at h; simpa using h
  by_cases h1 : x ≤ 127
  · rw [encodeRuneZ_one (by omega) h1] at hn hb ⊢
    have e0 := hb 0 (by simp)
    simp at e0
    unfold decodeN
    rw [if_pos (by omega)]
    simp; omega
  by_cases h2 : x ≤ 2047
  · rw [encodeRuneZ_two (by omega) h2] at hn hb ⊢
    have e0 := hb 0 (by simp)
    have e1 := hb 1 (by simp)
    simp at e0 e1 hn
    unfold decodeN
    rw [if_neg (by omega), if_pos (by omega), if_pos (by omega)]
    simp; omega
  by_cases h3 : x ≤ 65535
  · rw [encodeRuneZ_three (by omega)] at hn hb ⊢
    have e0 := hb 0 (by simp)
    have e1 := hb 1 (by simp)
    have e2 := hb 2 (by simp)
    simp at e0 e1 e2 hn
    obtain ⟨Q, hQ⟩ : ∃ Q, Q = b0 % 16 * 4096 + b1 % 64 * 64 + b2 % 64 := ⟨_, rfl⟩
    have hQx : (Q : Int) = x := by omega
    have e : decodeN n b0 b1 b2 b3 = if Q ≥ 2048 ∧ (Q < 55296 ∨ (57344 ≤ Q ∧ Q ≤ 1114111)) then (Q, 3) else (65533, 1) := by
      subst hQ; unfold decodeN; rw [if_neg (by omega), if_neg (by omega), if_pos (by omega)]
    rw [e, if_pos (by omega)]
    simp; omega
  · rw [encodeRuneZ_four (by omega) (by omega)] at hn hb ⊢
    have e0 := hb 0 (by simp)
    have e1 := hb 1 (by simp)
    have e2 := hb 2 (by simp)
    have e3 := hb 3 (by simp)
    simp at e0 e1 e2 e3 hn
    obtain ⟨Q, hQ⟩ : ∃ Q, Q = b0 % 8 * 262144 + b1 % 64 * 4096 + b2 % 64 * 64 + b3 % 64 := ⟨_, rfl⟩
    have hQx : (Q : Int) = x := by omega
    have e : decodeN n b0 b1 b2 b3 = if Q ≥ 65536 ∧ (Q < 55296 ∨ (57344 ≤ Q ∧ Q ≤ 1114111)) then (Q, 4) else (65533, 1) := by
      subst hQ; unfold decodeN; rw [if_neg (by omega), if_neg (by omega), if_neg (by omega), if_pos (by omega)]
    rw [e, if_pos (by omega)]
    simp; omega
/-- The bytes from pos on are these. -/
def Ahead (s : ByteArray) (pos : Nat) (zs : List Int) (rest : List UInt8) : Prop := s.data.toList.drop pos = (nums zs).map (fun n => UInt8.ofNat n.toNat) ++ rest
theorem ahead_len {s : ByteArray} {pos : Nat} {zs : List Int} {rest : List UInt8} (h : Ahead s pos zs rest) (hp : pos ≤ s.size) : s.size = pos + (nums zs).length + rest.length := by
  have := congrArg List.length h
  rw [List.length_drop, Array.length_toList, List.length_append, List.length_map] at this
  have e : s.data.size = s.size := rfl
  omega
theorem decode_ahead {s : ByteArray} {pos : Nat} {x : Int} {zs : List Int} {rest : List UInt8} (h : Ahead s pos (x :: zs) rest) (hp : pos ≤ s.size) (hv : validRune x = true) : Utf8.decode s pos = (x.toNat, (encodeRuneZ x).length) := by
  have hl := ahead_len h hp
  have hnl : (nums (x :: zs)).length = (encodeRuneZ x).length + (nums zs).length := by simp [nums]
  rw [decode_N]
  have hd : ∀ k, s.data.toList.getD (pos + k) 0 = (s.data.toList.drop pos).getD k 0 := fun k => by simp [List.getD]
  have hsl : s.data.toList.length = s.size := by rw [Array.length_toList]; rfl
  refine decodeN_enc x hv _ _ _ _ _ ?_ (fun i hi => ?_)
  · omega
  have h4 := (encodeRuneZ_length x).2
  have hg : ((s.data.toList.getD (pos + i) 0).toNat : Int) = (encodeRuneZ x).getD i 0 := by
    rw [hd, h]
    have hby := encodeRuneZ_byte x ((encodeRuneZ x).getD i 0) (by simp [List.getD, List.getElem?_eq_getElem hi])
    have e1 : ((nums (x :: zs)).map (fun n => UInt8.ofNat n.toNat) ++ rest).getD i 0 = UInt8.ofNat ((encodeRuneZ x).getD i 0).toNat := by
      have e2 : nums (x :: zs) = encodeRuneZ x ++ nums zs := by simp [nums]
      rw [e2, List.map_append, List.append_assoc]
      simp only [List.getD]
      rw [List.getElem?_append_left (by rw [List.length_map]; exact hi)]
      simp [List.getElem?_eq_getElem hi]
    rw [e1]
    generalize (encodeRuneZ x).getD i 0 = Y at hby
    simp; omega
  match i, hi, hg with
  | 0, _, hg => simpa using hg
  | 1, _, hg => simpa using hg
  | 2, _, hg => simpa using hg
  | 3, _, hg => simpa using hg
  | (k + 4), hi, _ => omega
theorem ahead_next {s : ByteArray} {pos : Nat} {x : Int} {zs : List Int} {rest : List UInt8} (h : Ahead s pos (x :: zs) rest) : Ahead s (pos + (encodeRuneZ x).length) zs rest := by
  unfold Ahead at h ⊢
  rw [← List.drop_drop, h]
  have e2 : nums (x :: zs) = encodeRuneZ x ++ nums zs := by simp [nums]
  rw [e2, List.map_append, List.append_assoc]
  exact List.drop_left' (by rw [List.length_map])
theorem bad_not {s : ByteArray} {pos : Nat} {x : Int} (hv : validRune x = true) (h : Utf8.decode s pos = (x.toNat, (encodeRuneZ x).length)) : bad s pos = false := by
  unfold bad
  rw [h]
  rw [Bool.eq_false_iff]
  intro hh
  simp at hh
  have hr := valid_range hv
  have : x = 65533 := by omega
  subst this
  rw [len_three (by omega)] at hh
  omega
/-- Reading on behind signs. -/
theorem sc_ahead (s : ByteArray) (rest : List UInt8) : ∀ (zs : List Int) (f pos : Nat), Ahead s pos zs rest → pos ≤ s.size → s.size ≤ pos + f → zs.all validRune = true →
    (sc s f pos).2 = (sc s (f - zs.length) (pos + (nums zs).length)).2 ∧ (sc s f pos).1 = zs.map Int.toNat ++ (sc s (f - zs.length) (pos + (nums zs).length)).1
  | [], f, pos, _, _, _, _ => by simp [nums]
  | x :: zs, f, pos, h, hp, hf, hv => by
    simp only [List.all_cons, Bool.and_eq_true] at hv
    have hd := decode_ahead h hp hv.1
    have hb := bad_not hv.1 hd
    have hl := ahead_len h hp
    have hnl : (nums (x :: zs)).length = (encodeRuneZ x).length + (nums zs).length := by simp [nums]
    have h1 := (encodeRuneZ_length x).1
    obtain ⟨f1, rfl⟩ : ∃ f1, f = f1 + 1 := ⟨f - 1, by omega⟩
    rw [sc_good s f1 pos (by omega) hb, hd]
    have ih := sc_ahead s rest zs f1 (pos + (encodeRuneZ x).length) (ahead_next h) (by omega) (by omega) hv.2
    have e1 : f1 + 1 - (x :: zs).length = f1 - zs.length := by simp
    have e2 : pos + (nums (x :: zs)).length = pos + (encodeRuneZ x).length + (nums zs).length := by omega
    rw [e1, e2]
    exact ⟨ih.1, by rw [List.map_cons, List.cons_append, ← ih.2]⟩
theorem txt_data (zs : List Int) : (txt zs).data.toList = (nums zs).map (fun n => UInt8.ofNat n.toNat) := strOfNums_data _
theorem txt_size (zs : List Int) : (txt zs).size = (nums zs).length := strOfNums_size _
theorem scan_txt (zs : List Int) (hv : zs.all validRune = true) : (scan (txt zs)).2 = none ∧ (scan (txt zs)).1 = zs.map Int.toNat := by
  have h := sc_ahead (txt zs) [] zs (txt zs).size 0 (by unfold Ahead; rw [List.drop_zero, List.append_nil, txt_data]) (by omega) (by omega) hv
  rw [Nat.zero_add, sc_end (txt zs) ((txt zs).size - zs.length) (nums zs).length (by rw [txt_size]; omega)] at h
  exact ⟨h.1, by have := h.2; rwa [List.append_nil] at this⟩
end Go.Proofs.YthnadkokibcehaaGreatDoor.pt
namespace Go.Proofs.YthnadkokibcehaaGreatDoor.sg
open Go.RowKit Go.Lib
set_option linter.unusedVariables false
/-- The three rows of signs, by their numbers. -/
def rusL : List Nat := [9472, 9474, 9484, 9488, 9492, 9496, 9500, 9508, 9516, 9524, 9532, 9600, 9604, 9608, 9612, 9616, 9617, 9618, 9619, 8992, 9632, 8729, 8730, 8776, 8804, 8805, 160, 8993, 176, 178, 183, 247, 9552, 9553, 9554, 1105, 9555, 9556, 9557, 9558, 9559, 9560, 9561, 9562, 9563, 9564, 9565, 9566, 9567, 9568, 9569, 1025, 9570, 9571, 9572, 9573, 9574, 9575, 9576, 9577, 9578, 9579, 9580, 169, 1102, 1072, 1073, 1094, 1076, 1077, 1092, 1075, 1093, 1080, 1081, 1082, 1083, 1084, 1085, 1086, 1087, 1103, 1088, 1089, 1090, 1091, 1078, 1074, 1100, 1099, 1079, 1096, 1101, 1097, 1095, 1098, 1070, 1040, 1041, 1062, 1044, 1045, 1060, 1043, 1061, 1048, 1049, 1050, 1051, 1052, 1053, 1054, 1055, 1071, 1056, 1057, 1058, 1059, 1046, 1042, 1068, 1067, 1047, 1064, 1069, 1065, 1063, 1066]
def fraL : List Nat := [9617, 9618, 9619, 9474, 9508, 9569, 9570, 9558, 9557, 9571, 9553, 9559, 9565, 9564, 9563, 9488, 9492, 9524, 9516, 9500, 9472, 9532, 9566, 9567, 9562, 9556, 9577, 9574, 9568, 9552, 9580, 9575, 9576, 9572, 9573, 9561, 9560, 9554, 9555, 9579, 9578, 9496, 9484, 9608, 9604, 9612, 9616, 9600]
def othL : List Nat := [1025, 1105, 1028, 1108, 1031, 1111, 1038, 1118, 176, 8729, 183, 8730, 8470, 164, 9632, 160]
/-- The sign of a byte. -/
def sgn (c : Int) (n : Nat) : Int :=
  if c = 0 ∨ n < 128 then (n : Int)
  else if c = 3 then (if n < 176 then (n : Int) + 912 else if n < 224 then ((fraL.getD (n - 176) 0 : Nat) : Int) else if n < 240 then (n : Int) + 864 else ((othL.getD (n - 240) 0 : Nat) : Int))
  else if c = 2 ∧ n = 164 then 1108 else if c = 2 ∧ n = 166 then 1110 else if c = 2 ∧ n = 167 then 1111 else if c = 2 ∧ n = 173 then 1169
  else if c = 2 ∧ n = 180 then 1028 else if c = 2 ∧ n = 182 then 1030 else if c = 2 ∧ n = 183 then 1031 else if c = 2 ∧ n = 189 then 1168
  else ((rusL.getD (n - 128) 0 : Nat) : Int)
def sgns (c : Int) : List Int := (List.range 256).map (sgn c)
theorem sgns_valid : (sgns 0).all validRune = true ∧ (sgns 1).all validRune = true ∧ (sgns 2).all validRune = true ∧ (sgns 3).all validRune = true := by decide +kernel
theorem sgns_get (c : Int) (n : Nat) (h : n < 256) : (sgns c)[n]? = some (sgn c n) := by
  unfold sgns
  rw [List.getElem?_map, List.getElem?_range h]; rfl
theorem four {c : Int} (h0 : 0 ≤ c) (h1 : c ≤ 3) : c = 0 ∨ c = 1 ∨ c = 2 ∨ c = 3 := by omega
theorem sgn_valid {c : Int} {n : Nat} (h0 : 0 ≤ c) (h1 : c ≤ 3) (hn : n < 256) : validRune (sgn c n) = true := by
  have hm : sgn c n ∈ sgns c := List.mem_of_getElem? (sgns_get c n hn)
  have ⟨a, b, d, e⟩ := sgns_valid
  rcases four h0 h1 with rfl | rfl | rfl | rfl
  · exact List.all_eq_true.1 a _ hm
  · exact List.all_eq_true.1 b _ hm
  · exact List.all_eq_true.1 d _ hm
  · exact List.all_eq_true.1 e _ hm
/-- The byte of a sign; -1. -/
def byFrom (c p : Int) : Nat → Nat → Int
  | 0, _ => -1
  | f + 1, n => if sgn c n = p then (n : Int) else byFrom c p f (n + 1)
def byte (c p : Int) : Int := byFrom c p 256 0
theorem byFrom_cases (c p : Int) : ∀ f n, (byFrom c p f n = -1 ∧ ∀ k, n ≤ k → k < n + f → sgn c k ≠ p) ∨ ∃ k : Nat, byFrom c p f n = (k : Int) ∧ n ≤ k ∧ k < n + f ∧ sgn c k = p
  | 0, n => .inl ⟨rfl, fun k h1 h2 => by omega⟩
  | f + 1, n => by
    unfold byFrom
    by_cases h : sgn c n = p
    · rw [if_pos h]; exact .inr ⟨n, rfl, Nat.le_refl _, by omega, h⟩
    · rw [if_neg h]
      rcases byFrom_cases c p f (n + 1) with ⟨h1, h2⟩ | ⟨k, h1, h2, h3, h4⟩
      · refine .inl ⟨h1, fun k h3 h4 => ?_⟩
        by_cases hk : k = n
        · rw [hk]; exact h
        · exact h2 k (by omega) (by omega)
      · exact .inr ⟨k, h1, by omega, by omega, h4⟩
theorem byte_cases (c p : Int) : (byte c p = -1 ∧ ∀ k, k < 256 → sgn c k ≠ p) ∨ ∃ k : Nat, byte c p = (k : Int) ∧ k < 256 ∧ sgn c k = p := by
  rcases byFrom_cases c p 256 0 with ⟨h1, h2⟩ | ⟨k, h1, h2, h3, h4⟩
  · exact .inl ⟨h1, fun k hk => h2 k (by omega) (by omega)⟩
  · exact .inr ⟨k, h1, by omega, h4⟩
/-- A row of bytes as signs. -/
def sdec (c : Int) (b : List UInt8) : List Int := b.map fun x => sgn c x.toNat
/-- Signs as bytes, or the place in the text of the first that has none. -/
def senc (c : Int) : Nat → List Int → List UInt8 × Option Nat
  | _, [] => ([], none)
  | at', p :: l => if byte c p < 0 then ([], some at') else (UInt8.ofNat (byte c p).toNat :: (senc c (at' + (encodeRuneZ p).length) l).1, (senc c (at' + (encodeRuneZ p).length) l).2)
theorem sdec_valid {c : Int} (h0 : 0 ≤ c) (h1 : c ≤ 3) (b : List UInt8) : (sdec c b).all validRune = true := by
  unfold sdec
  rw [List.all_map, List.all_eq_true]
  intro x _
  exact sgn_valid h0 h1 x.toNat_lt
end Go.Proofs.YthnadkokibcehaaGreatDoor.sg
namespace Go.Proofs.YthnadkokibcehaaGreatDoor.sg
open Go.RowKit Go.Lib
set_option linter.unusedVariables false
theorem ret_int {k : IntKind} {a b : Int} (h : a = b) : Ending.returned (.int k a) = .returned (.int k b) := by rw [h]
end Go.Proofs.YthnadkokibcehaaGreatDoor.sg
namespace Go.Proofs.YthnadkokibcehaaGreatDoor.bg
open Go.RowKit Go.Lib
set_option linter.unusedVariables false
theorem wrap64 {x : Int} (h0 : -9223372036854775808 ≤ x) (h1 : x ≤ 9223372036854775807) : IntKind.i64.wrap x = x := by simp [IntKind.wrap, IntKind.bits, IntKind.signed]; omega
theorem wrap32 {x : Int} (h0 : -2147483648 ≤ x) (h1 : x ≤ 2147483647) : IntKind.i32.wrap x = x := by simp [IntKind.wrap, IntKind.bits, IntKind.signed]; omega
theorem rInt {k : IntKind} {a b : Int} (h : a = b) : Ending.returned (.int k a) = .returned (.int k b) := by rw [h]
end Go.Proofs.YthnadkokibcehaaGreatDoor.bg
namespace Go.Proofs.YthnadkokibcehaaGreatDoor.bg
open Go.RowKit Go.Lib
set_option linter.unusedVariables false
/-- The text of two bytes' signs. -/
def sgT (l b : Nat) : ByteArray := pt.txt ((sgL l b).map Int.ofNat)
theorem sgT_two {l b p q : Nat} (h : tw (l * 256 + b) = (p, q)) (h0 : p ≠ 0) : sgT l b = pt.txt [(p : Int), (q : Int)] := by
  unfold sgT sgL; rw [h, if_pos h0]; rfl
theorem sgT_one {l b : Nat} (h : tw (l * 256 + b) = (0, 0)) (h0 : one l b ≠ 0) : sgT l b = pt.txt [((one l b : Nat) : Int)] := by
  unfold sgT sgL; rw [h, if_neg (by simp), if_pos h0]; rfl
theorem sgT_none {l b : Nat} (h : tw (l * 256 + b) = (0, 0)) (h0 : one l b = 0) : sgT l b = ⟨#[]⟩ := by
  unfold sgT sgL; rw [h, if_neg (by simp), if_neg (by simp [h0])]; rfl
theorem txt_one (p : Int) : pt.txt [p] = strOfNums (encodeRuneZ p) := by unfold pt.txt pt.nums; simp
theorem one_valid {l b : Nat} (h : one l b ≠ 0) : validRune ((one l b : Nat) : Int) = true := by
  obtain ⟨c, hc, hl⟩ := one_has h
  obtain ⟨h1, h2⟩ := one_J hl hc
  have h3 := oneJ_rng h2
  rw [h1] at h ⊢
  unfold validRune
  simp; omega
end Go.Proofs.YthnadkokibcehaaGreatDoor.bg
namespace Go.Proofs.YthnadkokibcehaaGreatDoor.bg
open Go.RowKit Go.Lib
set_option linter.unusedVariables false
theorem codeW_not {z y : Int} (rest : List Int) (h : twB z y = none) : codeW (z :: y :: rest) = (plc z).map fun j => (cdJ j, 1) := by
  show (match twB z y with | some b => some (34816 + b, 2) | none => _) = _
  rw [h]
end Go.Proofs.YthnadkokibcehaaGreatDoor.bg
namespace Go.Proofs.YthnadkokibcehaaGreatDoor.pt
open Go.RowKit Go.Lib
set_option linter.unusedVariables false
theorem data_app (t s : ByteArray) : (t ++ s).data.toList = t.data.toList ++ s.data.toList := by simp
end Go.Proofs.YthnadkokibcehaaGreatDoor.pt
namespace Go.Proofs.YthnadkokibcehaaGreatDoor.ch
open Go.RowKit Go.Lib
set_option linter.unusedVariables false
/-- A byte of a text; beyond its end: 0. -/
def bt (s : ByteArray) (i : Nat) : Nat := (s.data.toList.getD i 0).toNat
theorem bt_lt (s : ByteArray) (i : Nat) : bt s i < 256 := UInt8.toNat_lt _
theorem size_list (s : ByteArray) : s.data.toList.length = s.size := by rw [Array.length_toList]; rfl
theorem bt_get (s : ByteArray) (i : Nat) (h : i < s.size) : (s[i]).toNat = bt s i := by
  unfold bt
  have hk : i < s.data.toList.length := by rw [size_list]; exact h
  rw [List.getD_eq_getElem?_getD, List.getElem?_eq_getElem hk]
  rfl
/-- The signs of two bytes. -/
def sg2 (c : Int) (l b : Nat) : List Nat := if c = 4 then (if wa.sgW l b = 0 then [] else [wa.sgW l b]) else if c = 5 then (if jo.sg (l * 256 + b) = 0 then [] else [jo.sg (l * 256 + b)]) else bg.sgL l b
/-- The signs from a place on, in a charset of two bytes a sign, and where none stands. -/
def tb (c : Int) (s : ByteArray) : Nat → Nat → List Int × Option Nat
  | 0, _ => ([], none)
  | f + 1, pos => if pos < s.size then
      (if bt s pos < 128 then (((bt s pos : Nat) : Int) :: (tb c s f (pos + 1)).1, (tb c s f (pos + 1)).2)
      else if pos + 1 < s.size ∧ sg2 c (bt s pos) (bt s (pos + 1)) ≠ [] then ((sg2 c (bt s pos) (bt s (pos + 1))).map Int.ofNat ++ (tb c s f (pos + 2)).1, (tb c s f (pos + 2)).2)
      else ([], some pos))
    else ([], none)
theorem tb_end (c : Int) (s : ByteArray) (f pos : Nat) (h : ¬ pos < s.size) : tb c s f pos = ([], none) := by cases f <;> simp [tb, h]
theorem tb_low (c : Int) (s : ByteArray) (f pos : Nat) (h : pos < s.size) (hl : bt s pos < 128) : tb c s (f + 1) pos = (((bt s pos : Nat) : Int) :: (tb c s f (pos + 1)).1, (tb c s f (pos + 1)).2) := by simp [tb, h, hl]
theorem tb_two (c : Int) (s : ByteArray) (f pos : Nat) (h : pos < s.size) (hl : ¬ bt s pos < 128) (h2 : pos + 1 < s.size ∧ sg2 c (bt s pos) (bt s (pos + 1)) ≠ []) : tb c s (f + 1) pos = ((sg2 c (bt s pos) (bt s (pos + 1))).map Int.ofNat ++ (tb c s f (pos + 2)).1, (tb c s f (pos + 2)).2) := by
  show (if pos < s.size then (if bt s pos < 128 then _ else if pos + 1 < s.size ∧ sg2 c (bt s pos) (bt s (pos + 1)) ≠ [] then _ else _) else _) = _
  rw [if_pos h, if_neg hl, if_pos h2]
theorem tb_bad (c : Int) (s : ByteArray) (f pos : Nat) (h : pos < s.size) (hl : ¬ bt s pos < 128) (h2 : ¬ (pos + 1 < s.size ∧ sg2 c (bt s pos) (bt s (pos + 1)) ≠ [])) : tb c s (f + 1) pos = ([], some pos) := by
  show (if pos < s.size then (if bt s pos < 128 then _ else if pos + 1 < s.size ∧ sg2 c (bt s pos) (bt s (pos + 1)) ≠ [] then _ else _) else _) = _
  rw [if_pos h, if_neg hl, if_neg h2]
/-- The signs of bytes in a charset, and where none stands. -/
def dz (c : Int) (s : ByteArray) : List Int × Option Nat := if c ≤ 3 then (sg.sdec c s.data.toList, none) else if c = 7 then (pt.zsOf s, (pt.scan s).2) else if 8 ≤ c then wd.wscan s (c == 9) else tb c s s.size 0
def inC (c : Int) : Prop := 0 ≤ c ∧ c ≤ 9
instance (c : Int) : Decidable (inC c) := by unfold inC; exact inferInstance
/-- What Decode answers: the text, the error, the place. -/
def dcT (c : Int) (s : ByteArray) : ByteArray := if inC c ∧ (dz c s).2 = none then pt.txt (dz c s).1 else ⟨#[]⟩
def dcE (c : Int) (s : ByteArray) : Int := if inC c then (if (dz c s).2 = none then 0 else 2) else 5
def dcA (c : Int) (s : ByteArray) : Int := if inC c then (match (dz c s).2 with | none => 0 | some a => (a : Int)) else 0
where
  txt_app (a b : List Int) : pt.txt (a ++ b) = pt.txt a ++ pt.txt b := by
    apply ByteArray.ext
    apply Array.ext'
    show (pt.txt (a ++ b)).data.toList = (pt.txt a ++ pt.txt b).data.toList
    rw [pt.data_app, pt.txt_data, pt.txt_data, pt.txt_data]
    simp [pt.nums]
theorem sg2_len (c : Int) (l b : Nat) : (sg2 c l b).length ≤ 2 := by
  unfold sg2
  by_cases h4 : c = 4
  · rw [if_pos h4]; split <;> simp
  · rw [if_neg h4]
    by_cases h5 : c = 5
    · rw [if_pos h5]; split <;> simp
    · rw [if_neg h5]
      unfold bg.sgL
      split
      · simp
      · split <;> simp
theorem txt_most (l : List Int) : (pt.txt l).size ≤ 4 * l.length := by rw [pt.txt_size]; exact pt.nums_len l
end Go.Proofs.YthnadkokibcehaaGreatDoor.ch
namespace Go.Proofs.YthnadkokibcehaaGreatDoor.sg
open Go.RowKit Go.Lib
set_option linter.unusedVariables false
theorem data_app (t s : ByteArray) : (t ++ s).data.toList = t.data.toList ++ s.data.toList := by simp
theorem sdec_len (c : Int) (l : List UInt8) : (sdec c l).length = l.length := by simp [sdec]
theorem sdec_app (c : Int) (a b : List UInt8) : sdec c (a ++ b) = sdec c a ++ sdec c b := by simp [sdec]
theorem txt_app (a b : List Int) : pt.txt (a ++ b) = pt.txt a ++ pt.txt b := by
  apply ByteArray.ext
  apply Array.ext'
  show (pt.txt (a ++ b)).data.toList = (pt.txt a ++ pt.txt b).data.toList
  rw [data_app, pt.txt_data, pt.txt_data, pt.txt_data]
  simp [pt.nums]
theorem txt_most (l : List Int) : (pt.txt l).size ≤ 4 * l.length := by
  show (strOfNums (pt.nums l)).size ≤ _
  rw [strOfNums_size]; exact pt.nums_len l
/-- Where the signs of a row begin whose text has begun before. -/
def far : Option Nat → Int
  | none => -1
  | some a => (a : Int)
theorem senc_cons_bad {c p : Int} {l : List Int} {a : Nat} (h : byte c p < 0) : senc c a (p :: l) = ([], some a) := by
  show (if byte c p < 0 then _ else _) = _
  rw [if_pos h]
theorem senc_cons_good {c p : Int} {l : List Int} {a k : Nat} (h : byte c p = (k : Int)) : senc c a (p :: l) = (UInt8.ofNat k :: (senc c (a + (encodeRuneZ p).length) l).1, (senc c (a + (encodeRuneZ p).length) l).2) := by
  show (if byte c p < 0 then _ else _) = _
  rw [if_neg (by omega), h]
  rfl
end Go.Proofs.YthnadkokibcehaaGreatDoor.sg
namespace Go.Proofs.YthnadkokibcehaaGreatDoor.ch
open Go.RowKit Go.Lib
set_option linter.unusedVariables false
/-- What all walks ask: the examples of the layers repeat (first | (with_reducible exact Below.refl _ _) | (with_reducible refine Below.setCell ?_ (by simp) _) | (with_reducible refine Below.alloc ?_ (by simp) _)), Decode, a name. -/
structure Ch (K : World → Prop) : Prop where
  stay : ∀ w w', K w → Below w.heap.size w w' → K w'
  a2 : ∀ w, K w → Calls Tryz.prog 15 #[] w fun e w' => e = .returned (.bool true) ∧ Below w.heap.size w w'
  a5 : ∀ w, K w → Calls Tryz.prog 16 #[] w fun e w' => e = .returned (.bool true) ∧ Below w.heap.size w w'
  a6 : ∀ w, K w → Calls Tryz.prog 17 #[] w fun e w' => e = .returned (.bool true) ∧ Below w.heap.size w w'
  a7 : ∀ w, K w → Calls Tryz.prog 18 #[] w fun e w' => e = .returned (.bool true) ∧ Below w.heap.size w w'
  a8 : ∀ w, K w → Calls Tryz.prog 19 #[] w fun e w' => e = .returned (.bool true) ∧ Below w.heap.size w w'
  dec : ∀ (c : Int) (s : ByteArray) w, K w → -9223372036854775808 ≤ c → c ≤ 9223372036854775807 → s.size ≤ 4000 → Calls Tryz.prog 14 #[.int .i64 c, .string s] w fun e w' => e = .returned (.tuple #[.string (dcT c s), .agg #[.int .i64 (dcE c s), .int .i64 (dcA c s)]]) ∧ Below w.heap.size w w'
  utf : ∀ w, K w → Calls Tryz.prog 9 #[.string ⟨#[85, 84, 70, 56]⟩] w fun e w' => e = .returned (.tuple #[.int .i64 7, .bool true]) ∧ Below w.heap.size w w'
/-- The world so far. -/
structure Kb (K : World → Prop) (w W : World) : Prop where
  k : K W
  b : Below w.heap.size w W
theorem Kb.below {K : World → Prop} (L : ∀ w w', K w → Below w.heap.size w w' → K w') {w W W' : World} (h : Kb K w W) (hb : Below W.heap.size W W') : Kb K w W' := ⟨L _ _ h.k hb, h.b.trans (hb.mono h.b.size)⟩
theorem ex_one : dcT 4 ⟨#[97, 176, 161]⟩ = ⟨#[97, 234, 176, 128]⟩ ∧ dcE 4 ⟨#[97, 176, 161]⟩ = 0 ∧ dcA 4 ⟨#[97, 176, 161]⟩ = 0 := by
  have h : dz 4 ⟨#[97, 176, 161]⟩ = ([97, 44032], none) := by decide +kernel
  have hi : inC 4 := by decide
  unfold dcT dcE dcA
  rw [h]
  simp only [hi, if_true, and_self]
  exact ⟨by decide +kernel, trivial⟩
theorem ex_two : dcT 4 ⟨#[97, 176]⟩ = ⟨#[]⟩ ∧ dcE 4 ⟨#[97, 176]⟩ = 2 ∧ dcA 4 ⟨#[97, 176]⟩ = 1 := by
  have h : dz 4 ⟨#[97, 176]⟩ = ([97], some 1) := by decide +kernel
  have hi : inC 4 := by decide
  unfold dcT dcE dcA
  rw [h]
  simp [hi]
set_option maxRecDepth 100000 in
set_option maxHeartbeats 4000000 in
theorem Awake_any {K : World → Prop} (L : Ch K) (w : World) (hK : K w) : Calls Tryz.prog 11 #[] w fun e w' => e = .returned (.bool true) ∧ Below w.heap.size w w' := by
  have HD1 : Hid (∀ W, K W → Calls Tryz.prog 14 #[.int .i64 4, .string ⟨#[97, 176, 161]⟩] W fun e w' => e = .returned (.tuple #[.string ⟨#[97, 234, 176, 128]⟩, .agg #[.int .i64 0, .int .i64 0]]) ∧ Below W.heap.size W w') := Lib.hid (fun W h => by
    have := L.dec 4 ⟨#[97, 176, 161]⟩ W h (by omega) (by omega) (by decide)
    rw [ex_one.1, ex_one.2.1, ex_one.2.2] at this
    exact this)
  have HD2 : Hid (∀ W, K W → Calls Tryz.prog 14 #[.int .i64 4, .string ⟨#[97, 176]⟩] W fun e w' => e = .returned (.tuple #[.string ⟨#[]⟩, .agg #[.int .i64 2, .int .i64 1]]) ∧ Below W.heap.size W w') := Lib.hid (fun W h => by
    have := L.dec 4 ⟨#[97, 176]⟩ W h (by omega) (by omega) (by decide)
    rw [ex_two.1, ex_two.2.1, ex_two.2.2] at this
    exact this)
  have HBD : Hid (∀ W, Calls Tryz.prog 20 #[.agg #[.int .i64 0, .int .i64 0]] W fun e w' => e = .returned (.bool false) ∧ Below W.heap.size W w') := Lib.hid (fun W => pt.bad_any W 0 0)
  have HL := Lib.hid L.stay; have H2 := Lib.hid L.a2; have H5 := Lib.hid L.a5; have H6 := Lib.hid L.a6; have H7 := Lib.hid L.a7; have H8 := Lib.hid L.a8; have HU := Lib.hid L.utf
  have K0 : Hid (Kb K w w) := Lib.hid ⟨hK, Below.refl _ _⟩
  clear L hK
  go_enter Tryz.func11, Tryz.ntmps11
  go_wp2_with (first
    | (go_at_call 15; refine (H2.out _ K3.out.k).mono ?_; rintro e4 w4 ⟨rfl, hb4⟩; have K4 := Lib.hid (K3.out.below HL.out hb4); have F2 := Lib.hid (F2.out.below hb4 F2.out.lt); have G2 := Lib.hid (G2.out.below hb4 G2.out.lt); obtain ⟨_, f0, f1, _, _⟩ := F2.out; obtain ⟨_, g0, g1, _, _⟩ := G2.out; clear hb4)
    | (go_at_call 16; refine (H5.out _ K4.out.k).mono ?_; rintro e4 w4 ⟨rfl, hb4⟩; have K4 := Lib.hid (K4.out.below HL.out hb4); have F2 := Lib.hid (F2.out.below hb4 F2.out.lt); have G2 := Lib.hid (G2.out.below hb4 G2.out.lt); obtain ⟨_, f0, f1, _, _⟩ := F2.out; obtain ⟨_, g0, g1, _, _⟩ := G2.out; clear hb4)
    | (go_at_call 17; refine (H6.out _ K4.out.k).mono ?_; rintro e4 w4 ⟨rfl, hb4⟩; have K4 := Lib.hid (K4.out.below HL.out hb4); have F2 := Lib.hid (F2.out.below hb4 F2.out.lt); have G2 := Lib.hid (G2.out.below hb4 G2.out.lt); obtain ⟨_, f0, f1, _, _⟩ := F2.out; obtain ⟨_, g0, g1, _, _⟩ := G2.out; clear hb4)
    | (go_at_call 18; refine (H7.out _ K4.out.k).mono ?_; rintro e4 w4 ⟨rfl, hb4⟩; have K4 := Lib.hid (K4.out.below HL.out hb4); have F2 := Lib.hid (F2.out.below hb4 F2.out.lt); have G2 := Lib.hid (G2.out.below hb4 G2.out.lt); obtain ⟨_, f0, f1, _, _⟩ := F2.out; obtain ⟨_, g0, g1, _, _⟩ := G2.out; clear hb4)
    | (go_at_call 19; refine (H8.out _ K4.out.k).mono ?_; rintro e4 w4 ⟨rfl, hb4⟩; have K4 := Lib.hid (K4.out.below HL.out hb4); have F2 := Lib.hid (F2.out.below hb4 F2.out.lt); have G2 := Lib.hid (G2.out.below hb4 G2.out.lt); obtain ⟨_, f0, f1, _, _⟩ := F2.out; obtain ⟨_, g0, g1, _, _⟩ := G2.out; clear hb4)
    | (go_at_call 20; refine (HBD.out _).mono ?_; rintro e4 w4 ⟨rfl, hb4⟩; have K4 := Lib.hid (K4.out.below HL.out hb4); have F2 := Lib.hid (F2.out.below hb4 F2.out.lt); have G2 := Lib.hid (G2.out.below hb4 G2.out.lt); obtain ⟨_, f0, f1, _, _⟩ := F2.out; obtain ⟨_, g0, g1, _, _⟩ := G2.out; clear hb4)
    | (go_at_call 9; refine (HU.out _ K2.out.k).mono ?_; rintro e3 w3 ⟨rfl, hb3⟩; have K3 := Lib.hid (K2.out.below HL.out hb3); have F2 := Lib.hid (F2.out.below hb3 F2.out.lt); have G2 := Lib.hid (G2.out.below hb3 G2.out.lt); obtain ⟨_, f0, f1, _, _⟩ := F2.out; obtain ⟨_, g0, g1, _, _⟩ := G2.out; clear hb3)
    | (go_at_call 14; (with_reducible refine (HD2.out _ K1.out.k).mono ?_); rintro e2 w2 ⟨rfl, hb2⟩; have hA : Below w2.heap.size w2 (w2.alloc (.cells #[.int .i64 2, .int .i64 1] 40)) := (Below.refl _ _).alloc (Nat.le_refl _) _; have K2 := Lib.hid ((K1.out.below HL.out hb2).below HL.out hA); have F2 := Lib.hid ((F2.out.below hb2 F2.out.lt).below hA (Nat.lt_of_lt_of_le F2.out.lt hb2.size)); have G2 := Lib.hid (pt.f2_new w2 2 1 40); obtain ⟨_, f0, f1, _, _⟩ := F2.out; obtain ⟨_, g0, g1, g2, g3⟩ := G2.out; clear hb2 hA)
    | (go_at_call 14; (with_reducible refine (HD1.out _ K0.out.k).mono ?_); rintro e1 w1 ⟨rfl, hb1⟩; have hA : Below w1.heap.size w1 (w1.alloc (.cells #[.int .i64 0, .int .i64 0] 40)) := (Below.refl _ _).alloc (Nat.le_refl _) _; have K1 := Lib.hid ((K0.out.below HL.out hb1).below HL.out hA); have F2 := Lib.hid (pt.f2_new w1 0 0 40); obtain ⟨_, f0, f1, f2, f3⟩ := F2.out; clear hb1 hA))
  go_ret
  exact ⟨rfl, K4.out.b⟩
theorem awake_any {K : World → Prop} (L : Ch K) (w : World) (hK : K w) : Calls Tryz.prog 4 #[] w fun e w' => e = .returned (.bool true) ∧ Below w.heap.size w w' := by
  have HA := Lib.hid (Awake_any L w hK)
  clear L hK
  go_enter Tryz.func4, Tryz.ntmps4
  go_wp2_with (go_at_call 11; refine (HA.out).mono ?_; rintro e2 w2 ⟨rfl, hb2⟩)
  go_ret
  exact ⟨rfl, hb2⟩
end Go.Proofs.YthnadkokibcehaaGreatDoor.ch
namespace Go.Proofs.YthnadkokibcehaaGreatDoor.ch
open Go.RowKit Go.Lib
set_option linter.unusedVariables false
theorem index_bt (s : ByteArray) (i : Nat) (hi : i < s.size) (w : World) : (Instr.index 9 (.string s) (.int .i64 (i : Int))).run Tryz.prog w = .ok (.int .u8 ((bt s i : Nat) : Int)) w := by
  rw [run_index_string w 9 s .i64 i Tryz.underlying9, ← bt_get s i hi]
  simp [hi]
end Go.Proofs.YthnadkokibcehaaGreatDoor.ch
