/- Signs and their text: there and back. -/
import Derived.Test.YtgjndekgnkjknaaDoorPt10
import Derived.Test.YtgjndekgnkjknaaDoorPt11
import Derived.Lib.MapLaws
import Derived.Lib.DecodeN
namespace Go.Proofs.YtgjndekgnkjknaaDoor.pt
open Go.RowKit Go.Lib
set_option linter.unusedVariables false
theorem decodeN_valid (n b0 b1 b2 b3 : Nat) : validRune ((decodeN n b0 b1 b2 b3).1 : Int) = true := by
  unfold validRune
  apply decide_eq_true
  unfold decodeN
  repeat' split
  all_goals (simp only; omega)
theorem decode_valid (s : ByteArray) (i : Nat) : validRune ((Utf8.decode s i).1 : Int) = true := by rw [decode_at]; exact decodeN_valid _ _ _ _ _
def zsFrom (s : ByteArray) (f pos : Nat) : List Int := (sc s f pos).1.map Int.ofNat
theorem zs_valid (s : ByteArray) : ∀ f pos, (zsFrom s f pos).all validRune = true
  | 0, pos => rfl
  | f + 1, pos => by
    unfold zsFrom
    by_cases hp : pos < s.size
    · cases hb : bad s pos with
      | true => simp [sc, hp, hb]
      | false =>
        rw [sc_good s f pos hp hb]
        have ih := zs_valid s f (pos + (Utf8.decode s pos).2)
        unfold zsFrom at ih
        simp only [List.map_cons, List.all_cons, ih, Bool.and_true]
        exact decode_valid s pos
    · rw [sc_end s (f + 1) pos hp]; rfl
theorem enc_cons (x : Int) (l : List Int) : enc (x :: l) = runeCells x ++ enc l := by simp [enc, nums, runeCells]
theorem byteCells_append (a b : List UInt8) : byteCells (a ++ b) = byteCells a ++ byteCells b := by simp [byteCells]
theorem enc_back (s : ByteArray) : ∀ f pos, s.size ≤ pos + f → (sc s f pos).2 = none → enc (zsFrom s f pos) = byteCells (s.data.toList.drop pos)
  | 0, pos, h, _ => by
    have : s.data.toList.drop pos = [] := List.drop_eq_nil_of_le (by rw [Array.length_toList]; exact h)
    rw [this]; rfl
  | f + 1, pos, h, hn => by
    by_cases hp : pos < s.size
    · cases hb : bad s pos with
      | true => simp [sc, hp, hb] at hn
      | false =>
        have hw := width_pos s pos
        rw [sc_good s f pos hp hb] at hn
        have ih := enc_back s f (pos + (Utf8.decode s pos).2) (by omega) hn
        have hne : s.data.toList.drop pos ≠ [] := by
          intro h0
          have := congrArg List.length h0
          rw [List.length_drop, Array.length_toList] at this
          have e : s.data.size = s.size := rfl
          simp at this; omega
        have hv : ¬ ((decodeL (s.data.toList.drop pos)).1 = 65533 ∧ (decodeL (s.data.toList.drop pos)).2 = 1) := by
          rw [decodeL_drop]
          unfold bad at hb
          simpa using hb
        have he := encode_decode _ hne hv
        rw [decodeL_drop] at he
        unfold zsFrom at ih ⊢
        rw [sc_good s f pos hp hb]
        simp only [List.map_cons]
        rw [enc_cons, ih]
        have e1 : runeCells (Int.ofNat (Utf8.decode s pos).1) = byteCells ((s.data.toList.drop pos).take (Utf8.decode s pos).2) := by
          rw [← he, byteCells_encodeRune]; rfl
        rw [e1, ← byteCells_append, ← List.drop_drop, List.take_append_drop]
    · rw [sc_end s (f + 1) pos hp] at hn
      have : s.data.toList.drop pos = [] := List.drop_eq_nil_of_le (by rw [Array.length_toList]; have e : s.data.size = s.size := rfl; omega)
      unfold zsFrom
      rw [this, sc_end s (f + 1) pos hp]; rfl
theorem u8_inj : ∀ (a b : List Int), a.map (Value.int .u8) = b.map (Value.int .u8) → a = b
  | [], [], _ => rfl
  | [], _ :: _, h => by simp at h
  | _ :: _, [], h => by simp at h
  | x :: a, y :: b, h => by
    simp only [List.map_cons, List.cons.injEq, Value.int.injEq, true_and] at h
    rw [h.1, u8_inj a b h.2]
theorem str_back (s : ByteArray) : strOfNums (s.data.toList.map fun b => (b.toNat : Int)) = s := by
  unfold strOfNums
  rw [List.map_map]
  have : ((fun n : Int => UInt8.ofNat n.toNat) ∘ fun b : UInt8 => (b.toNat : Int)) = id := by funext b; simp
  rw [this, List.map_id]
theorem txt_back (s : ByteArray) (h : (scan s).2 = none) : txt (zsOf s) = s := by
  have h1 := enc_back s s.size 0 (by omega) h
  rw [List.drop_zero] at h1
  have h2 : nums (zsOf s) = s.data.toList.map fun b => (b.toNat : Int) := u8_inj _ _ (by
    have : enc (zsOf s) = byteCells s.data.toList := h1
    unfold enc at this
    rw [this]; simp [byteCells])
  unfold txt
  rw [h2, str_back]
theorem zsOf_valid (s : ByteArray) : (zsOf s).all validRune = true := zs_valid s s.size 0
theorem zsOf_len (s : ByteArray) : (zsOf s).length = (scan s).1.length := by simp [zsOf]
theorem runesV_zs (s : ByteArray) : runesV (scan s).1 = (zsOf s).map (Value.int .i32) := by simp [runesV, zsOf]
theorem add_zero (g i : Nat) : (⟨g, 0, none⟩ : Addr).add i = ⟨g, i, none⟩ := by simp [Addr.add]; intro h; exact h.symm
end Go.Proofs.YtgjndekgnkjknaaDoor.pt
