/- Layer 12: what is printed is read as it was. -/
import Derived.Test.YtidlkkhmmgkicaaTa3
namespace Go.Proofs.Ytidlkkhmmgkicaa.ta
open Go.RowKit Go.Lib
open Go.Proofs.Ytidlkkhmmgkicaa.un (bs bs_list bs_size bs_app bs_back size_list bt bt_lt bt_get index_bt wrap64 data_app drop_at drop_end u0)
set_option linter.unusedVariables false
theorem seg_ext (pre m post : List UInt8) : (bs (pre ++ (m ++ post))).extract pre.length (pre.length + m.length) = bs m := by
  rw [← bs_back ((bs (pre ++ (m ++ post))).extract pre.length (pre.length + m.length))]
  congr 1
  rw [ByteArray.data_extract, Array.toList_extract, bs_list]
  simp [List.extract]
theorem fld_bs (pre m post : List UInt8) (i n : Nat) (hi : pre.length = i) (hn : m.length = n) : fld (bs (pre ++ (m ++ post))) i n = bs (cutL m) := by
  subst hi hn
  unfold fld
  rw [seg_ext, bs_list]
theorem bt_bs (pre post : List UInt8) (y : UInt8) (i : Nat) (hi : pre.length = i) : bt (bs (pre ++ (y :: post))) i = y.toNat := by
  subst hi
  unfold bt
  rw [bs_list]
  simp
theorem cut_pad (x : List UInt8) (n : Nat) (h : cutL x = x) : cutL (x ++ List.replicate n 0) = x := by
  induction x with
  | nil => cases n <;> rfl
  | cons y x ih =>
    unfold cutL at h ih ⊢
    rw [List.takeWhile_cons] at h
    rw [List.cons_append, List.takeWhile_cons]
    split at h
    · rename_i hy
      rw [if_pos hy, ih (List.cons.inj h).2]
    · cases h
theorem bs_inj {x y : List UInt8} (h : bs x = bs y) : x = y := by
  have := congrArg (fun s : ByteArray => s.data.toList) h
  simpa only [bs_list] using this
theorem cut_of (x : ByteArray) (h : bs (cutL x.data.toList) = x) : cutL x.data.toList = x.data.toList := by
  apply bs_inj
  rw [h, bs_back]
/-- A text, with zeros behind. -/
def pad (n : Nat) (x : ByteArray) : List UInt8 := x.data.toList ++ List.replicate (n - x.size) 0
theorem pad_len (n : Nat) (x : ByteArray) (h : x.size ≤ n) : (pad n x).length = n := by
  unfold pad
  rw [List.length_append, List.length_replicate, size_list]
  omega
theorem pad_cut (n : Nat) (x : ByteArray) (h : bs (cutL x.data.toList) = x) : bs (cutL (pad n x)) = x := by
  unfold pad
  rw [cut_pad _ _ (cut_of x h), bs_back]
/-- What stands behind the texts. -/
def beh (tr g : Nat) : List UInt8 := (if tr = 0 then [] else [0, UInt8.ofNat tr]) ++ [UInt8.ofNat g]
theorem prA_eq (tr g : Nat) (a b c d e : ByteArray) : prA tr g [a, b, c, d, e] = [84, 65, 71] ++ (pad 30 a ++ (pad 30 b ++ (pad 30 c ++ (pad 4 d ++ (pad (wd 4 tr) e ++ beh tr g))))) := by
  show [84, 65, 71] ++ (a.data.toList ++ (List.replicate (30 - a.size) 0 ++ (b.data.toList ++ (List.replicate (30 - b.size) 0 ++ (c.data.toList ++ (List.replicate (30 - c.size) 0 ++ (d.data.toList ++ (List.replicate (4 - d.size) 0 ++ (e.data.toList ++ (List.replicate (wd 4 tr - e.size) 0 ++ [])))))))))) ++ (if tr = 0 then [] else [0, UInt8.ofNat tr]) ++ [UInt8.ofNat g] = _
  unfold pad beh
  simp only [List.append_assoc, List.append_nil]
/-- A tail that may be. -/
structure Ok (tr : Nat) (a b c d e : ByteArray) : Prop where
  a0 : bs (cutL a.data.toList) = a
  a1 : a.size ≤ 30
  b0 : bs (cutL b.data.toList) = b
  b1 : b.size ≤ 30
  c0 : bs (cutL c.data.toList) = c
  c1 : c.size ≤ 30
  d0 : bs (cutL d.data.toList) = d
  d1 : d.size ≤ 4
  e0 : bs (cutL e.data.toList) = e
  e1 : e.size ≤ wd 4 tr
theorem chk_ok {tr : Nat} {i : Nat} {x : ByteArray} {l : List ByteArray} (h : (chk tr i (x :: l)).1 = 0) : bs (cutL x.data.toList) = x ∧ x.size ≤ wd i tr ∧ (chk tr (i + 1) l).1 = 0 := by
  unfold chk at h
  split at h
  · cases h
  · rename_i h1
    split at h
    · cases h
    · rename_i h2
      exact ⟨Decidable.not_not.1 h1, by omega, h⟩
theorem ok_of (tr : Nat) (a b c d e : ByteArray) (h : (chk tr 0 [a, b, c, d, e]).1 = 0) : Ok tr a b c d e := by
  obtain ⟨a0, a1, h⟩ := chk_ok h
  obtain ⟨b0, b1, h⟩ := chk_ok h
  obtain ⟨c0, c1, h⟩ := chk_ok h
  obtain ⟨d0, d1, h⟩ := chk_ok h
  obtain ⟨e0, e1, h⟩ := chk_ok h
  exact ⟨a0, a1, b0, b1, c0, c1, d0, d1, e0, e1⟩
theorem beh_len (tr g : Nat) : (beh tr g).length = 31 - wd 4 tr := by
  unfold beh wd
  by_cases h : tr = 0
  · simp [h]
  · simp [h]
theorem wd4 (tr : Nat) : wd 4 tr = if tr = 0 then 30 else 28 := by
  unfold wd
  by_cases h : tr = 0 <;> simp [h]
section
variable {tr g : Nat} {a b c d e : ByteArray} (H : Ok tr a b c d e)
theorem pr_size (H : Ok tr a b c d e) : (bs (prA tr g [a, b, c, d, e])).size = 128 := by
  rw [bs_size, prA_eq]
  simp only [List.length_append, List.length_cons, List.length_nil, pad_len _ _ H.a1, pad_len _ _ H.b1, pad_len _ _ H.c1, pad_len _ _ H.d1, pad_len _ _ H.e1, beh_len]
  have := wd_le 4 tr
  omega
theorem pr_tag (H : Ok tr a b c d e) : (bs (prA tr g [a, b, c, d, e])).extract 0 3 = ⟨#[84, 65, 71]⟩ := by
  have h := seg_ext [] [84, 65, 71] (pad 30 a ++ (pad 30 b ++ (pad 30 c ++ (pad 4 d ++ (pad (wd 4 tr) e ++ beh tr g)))))
  rw [prA_eq]
  exact h
theorem pr_a (H : Ok tr a b c d e) : fld (bs (prA tr g [a, b, c, d, e])) 3 30 = a := by
  rw [prA_eq, fld_bs _ _ _ 3 30 rfl (pad_len _ _ H.a1), pad_cut _ _ H.a0]
theorem pr_b (H : Ok tr a b c d e) : fld (bs (prA tr g [a, b, c, d, e])) 33 30 = b := by
  rw [prA_eq, ← List.append_assoc, fld_bs _ _ _ 33 30 (by rw [List.length_append, pad_len _ _ H.a1]; rfl) (pad_len _ _ H.b1), pad_cut _ _ H.b0]
theorem pr_c (H : Ok tr a b c d e) : fld (bs (prA tr g [a, b, c, d, e])) 63 30 = c := by
  rw [prA_eq, ← List.append_assoc, ← List.append_assoc, fld_bs _ _ _ 63 30 (by rw [List.length_append, List.length_append, pad_len _ _ H.a1, pad_len _ _ H.b1]; rfl) (pad_len _ _ H.c1), pad_cut _ _ H.c0]
theorem pr_d (H : Ok tr a b c d e) : fld (bs (prA tr g [a, b, c, d, e])) 93 4 = d := by
  rw [prA_eq, ← List.append_assoc, ← List.append_assoc, ← List.append_assoc, fld_bs _ _ _ 93 4 (by simp only [List.length_append, pad_len _ _ H.a1, pad_len _ _ H.b1, pad_len _ _ H.c1]; rfl) (pad_len _ _ H.d1), pad_cut _ _ H.d0]
theorem pr_e (H : Ok tr a b c d e) : fld (bs (prA tr g [a, b, c, d, e])) 97 (wd 4 tr) = e := by
  rw [prA_eq, ← List.append_assoc, ← List.append_assoc, ← List.append_assoc, ← List.append_assoc, fld_bs _ _ _ 97 (wd 4 tr) (by simp only [List.length_append, pad_len _ _ H.a1, pad_len _ _ H.b1, pad_len _ _ H.c1, pad_len _ _ H.d1]; rfl) (pad_len _ _ H.e1), pad_cut _ _ H.e0]
theorem bt_mid (pre m post : List UInt8) (k i : Nat) (hi : pre.length + k = i) (hk : k < m.length) : bt (bs (pre ++ (m ++ post))) i = (m.getD k 0).toNat := by
  subst hi
  unfold bt
  rw [bs_list, List.getD_eq_getElem?_getD, List.getElem?_append_right (by omega), show pre.length + k - pre.length = k by omega, List.getElem?_append_left hk, List.getD_eq_getElem?_getD]
theorem cut_mem (l : List UInt8) (h : cutL l = l) : ∀ x ∈ l, x ≠ 0 := by
  induction l with
  | nil => intro x hx; cases hx
  | cons y l ih =>
    unfold cutL at h ih
    rw [List.takeWhile_cons] at h
    split at h
    · rename_i hy
      intro x hx
      rcases List.mem_cons.1 hx with rfl | hx
      · simpa using hy
      · exact ih (List.cons.inj h).2 x hx
    · cases h
theorem pr_g (H : Ok tr a b c d e) (hg : g < 256) : bt (bs (prA tr g [a, b, c, d, e])) 127 = g := by
  have hl := beh_len tr g
  have hw := wd_le 4 tr
  have h2 : ∃ q : List UInt8, beh tr g = q ++ (UInt8.ofNat g :: []) ∧ q.length = 30 - wd 4 tr := ⟨if tr = 0 then [] else [0, UInt8.ofNat tr], rfl, by rw [wd4]; by_cases h : tr = 0 <;> simp [h]⟩
  obtain ⟨q, e1, e2⟩ := h2
  rw [prA_eq, e1, ← List.append_assoc, ← List.append_assoc, ← List.append_assoc, ← List.append_assoc, ← List.append_assoc, ← List.append_assoc, bt_bs _ [] _ 127 (by simp only [List.length_append, List.length_cons, List.length_nil, pad_len _ _ H.a1, pad_len _ _ H.b1, pad_len _ _ H.c1, pad_len _ _ H.d1, pad_len _ _ H.e1, e2]; omega)]
  simp; omega
theorem pr_t (H : Ok tr a b c d e) (ht : tr < 256) : trB (bs (prA tr g [a, b, c, d, e])) = tr := by
  have hw4 := wd4 tr
  have hpl : ([84, 65, 71] ++ pad 30 a ++ pad 30 b ++ pad 30 c ++ pad 4 d).length = 97 := by simp only [List.length_append, List.length_cons, List.length_nil, pad_len _ _ H.a1, pad_len _ _ H.b1, pad_len _ _ H.c1, pad_len _ _ H.d1]
  by_cases h0 : tr = 0
  · subst h0
    rw [if_pos rfl] at hw4
    have he1 := H.e1
    rw [hw4] at he1
    have hk := pad_len _ _ he1
    unfold trB
    rw [prA_eq, hw4, ← List.append_assoc, ← List.append_assoc, ← List.append_assoc, ← List.append_assoc, bt_mid _ (pad 30 e) _ 28 125 (by rw [hpl]) (by omega), bt_mid _ (pad 30 e) _ 29 126 (by rw [hpl]) (by omega)]
    have hs := size_list e
    by_cases h1 : e.size ≤ 28
    · have h3 : (pad 30 e).getD 29 0 = 0 := by
        unfold pad
        rw [List.getD_eq_getElem?_getD, List.getElem?_append_right (by omega), List.getElem?_replicate]
        split <;> rfl
      rw [h3]
      split <;> rfl
    · have h3 : (pad 30 e).getD 28 0 ≠ 0 := by
        unfold pad
        rw [List.getD_eq_getElem?_getD, List.getElem?_append_left (by omega), List.getElem?_eq_getElem (by omega)]
        exact cut_mem _ (cut_of e H.e0) _ (List.getElem_mem _)
      rw [if_neg]
      intro h4
      exact h3 (UInt8.toNat_inj.1 h4)
  · rw [if_neg h0] at hw4
    have he1 := H.e1
    rw [hw4] at he1
    have hk := pad_len _ _ he1
    unfold trB
    have hb : beh tr g = 0 :: (UInt8.ofNat tr :: [UInt8.ofNat g]) := by unfold beh; rw [if_neg h0]; rfl
    rw [prA_eq, hw4, hb, ← List.append_assoc, ← List.append_assoc, ← List.append_assoc, ← List.append_assoc, ← List.append_assoc, bt_bs _ _ _ 125 (by rw [List.length_append, hpl, hk])]
    rw [if_pos (show UInt8.toNat 0 = 0 from rfl)]
    rw [show ∀ p : List UInt8, p ++ (0 :: UInt8.ofNat tr :: [UInt8.ofNat g]) = (p ++ [0]) ++ (UInt8.ofNat tr :: [UInt8.ofNat g]) from fun p => by simp, bt_bs _ _ _ 126 (by rw [List.length_append, List.length_append, hpl, hk]; rfl)]
    simp; omega
end
end Go.Proofs.Ytidlkkhmmgkicaa.ta
