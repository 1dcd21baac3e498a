/- Layer 13: the bytes of a size, joined again; behind a spread frame's head no byte looks like sound. -/
import Derived.Test.YtkhajafjieofhaaFn7
import Derived.Test.YtkhajafjieofhaaUn3
namespace Go.Proofs.Ytkhajafjieofhaa.fn
open Go.RowKit Go.Lib
open Go.Proofs.Ytkhajafjieofhaa.fr
set_option linter.unusedVariables false
theorem getD_app (a b : List UInt8) (i : Nat) (h : a.length ≤ i) : (a ++ b).getD i 0 = b.getD (i - a.length) 0 := by
  rw [List.getD_eq_getElem?_getD, List.getElem?_append_right h, ← List.getD_eq_getElem?_getD]
theorem bt_app (a b : List UInt8) (i : Nat) (h : a.length ≤ i) : un.bt (un.bs (a ++ b)) i = un.bt (un.bs b) (i - a.length) := by
  unfold un.bt
  rw [un.bs_list, un.bs_list, getD_app a b i h]
theorem bt_pre (a b : List UInt8) (i : Nat) (h : i < a.length) : un.bt (un.bs (a ++ b)) i = un.bt (un.bs a) i := by
  unfold un.bt
  rw [un.bs_list, un.bs_list, List.getD_eq_getElem?_getD, List.getElem?_append_left h, ← List.getD_eq_getElem?_getD]
theorem dN (x : Nat) : (UInt8.ofNat (x % 256)).toNat = x % 256 := by
  have := Nat.mod_lt x (show 0 < 256 by omega)
  simp
theorem dM (x : Nat) : (UInt8.ofNat (x % 128)).toNat = x % 128 := by
  have := Nat.mod_lt x (show 0 < 128 by omega)
  simp; omega
theorem id_len {v : Int} {f : Fr} (h : okF v f = true) : f.id.length = ltrs v := (nmd_at (okF_at h).1).1
theorem pr_bytes2 {f : Fr} (h : okF 2 f = true) : un.bt (un.bs (pr 2 f)) 3 = (dat 2 f).length / 65536 % 256 ∧ un.bt (un.bs (pr 2 f)) 4 = (dat 2 f).length / 256 % 256 ∧ un.bt (un.bs (pr 2 f)) 5 = (dat 2 f).length % 256 ∧ (pr 2 f).length = 6 + (dat 2 f).length := by
  have hl : f.id.length = 3 := id_len h
  unfold pr siz flg
  rw [if_pos rfl, if_pos rfl]
  refine ⟨?_, ?_, ?_, by simp only [List.length_append, hl, oct.bigL_len, List.length_nil]; omega⟩
  · rw [bt_app _ _ 3 (by omega), hl, bt_pre _ _ _ (by rw [oct.bigL_len]; omega)]
    unfold un.bt; rw [un.bs_list]; exact dN _
  · rw [bt_app _ _ 4 (by omega), hl, bt_pre _ _ _ (by rw [oct.bigL_len]; omega)]
    unfold un.bt; rw [un.bs_list]; exact dN _
  · rw [bt_app _ _ 5 (by omega), hl, bt_pre _ _ _ (by rw [oct.bigL_len]; omega)]
    unfold un.bt; rw [un.bs_list]
    show (UInt8.ofNat ((dat 2 f).length / 256 ^ 0 % 256)).toNat = _
    rw [Nat.pow_zero, Nat.div_one]; exact dN _
theorem pr_bytes3 {f : Fr} (h : okF 3 f = true) : un.bt (un.bs (pr 3 f)) 4 = (dat 3 f).length / 16777216 % 256 ∧ un.bt (un.bs (pr 3 f)) 5 = (dat 3 f).length / 65536 % 256 ∧ un.bt (un.bs (pr 3 f)) 6 = (dat 3 f).length / 256 % 256 ∧ un.bt (un.bs (pr 3 f)) 7 = (dat 3 f).length % 256 ∧ (pr 3 f).length = 10 + (dat 3 f).length := by
  have hl : f.id.length = 4 := id_len h
  unfold pr siz flg
  rw [if_neg (by decide), if_neg (by decide), if_neg (by decide)]
  refine ⟨?_, ?_, ?_, ?_, by simp only [List.length_append, hl, oct.bigL_len, List.length_cons, List.length_nil]; omega⟩
  · rw [bt_app _ _ 4 (by omega), hl, bt_pre _ _ _ (by rw [oct.bigL_len]; omega)]
    unfold un.bt; rw [un.bs_list]; exact dN _
  · rw [bt_app _ _ 5 (by omega), hl, bt_pre _ _ _ (by rw [oct.bigL_len]; omega)]
    unfold un.bt; rw [un.bs_list]; exact dN _
  · rw [bt_app _ _ 6 (by omega), hl, bt_pre _ _ _ (by rw [oct.bigL_len]; omega)]
    unfold un.bt; rw [un.bs_list]; exact dN _
  · rw [bt_app _ _ 7 (by omega), hl, bt_pre _ _ _ (by rw [oct.bigL_len]; omega)]
    unfold un.bt; rw [un.bs_list]
    show (UInt8.ofNat ((dat 3 f).length / 256 ^ 0 % 256)).toNat = _
    rw [Nat.pow_zero, Nat.div_one]; exact dN _
theorem pr_bytes4 {f : Fr} (h : okF 4 f = true) : un.bt (un.bs (pr 4 f)) 4 = (dat 4 f).length / 2097152 % 128 ∧ un.bt (un.bs (pr 4 f)) 5 = (dat 4 f).length / 16384 % 128 ∧ un.bt (un.bs (pr 4 f)) 6 = (dat 4 f).length / 128 % 128 ∧ un.bt (un.bs (pr 4 f)) 7 = (dat 4 f).length % 128 ∧ (pr 4 f).length = 10 + (dat 4 f).length := by
  have hl : f.id.length = 4 := id_len h
  unfold pr siz flg
  rw [if_neg (by decide), if_pos rfl, if_neg (by decide)]
  refine ⟨?_, ?_, ?_, ?_, by simp only [List.length_append, hl, oct.bigL_len, List.length_cons, List.length_nil]; omega⟩
  · rw [bt_app _ _ 4 (by omega), hl, bt_pre _ _ _ (by rw [oct.bigL_len]; omega)]
    unfold un.bt; rw [un.bs_list]; exact dM _
  · rw [bt_app _ _ 5 (by omega), hl, bt_pre _ _ _ (by rw [oct.bigL_len]; omega)]
    unfold un.bt; rw [un.bs_list]; exact dM _
  · rw [bt_app _ _ 6 (by omega), hl, bt_pre _ _ _ (by rw [oct.bigL_len]; omega)]
    unfold un.bt; rw [un.bs_list]; exact dM _
  · rw [bt_app _ _ 7 (by omega), hl, bt_pre _ _ _ (by rw [oct.bigL_len]; omega)]
    unfold un.bt; rw [un.bs_list]
    show (UInt8.ofNat ((dat 4 f).length / 128 ^ 0 % 128)).toNat = _
    rw [Nat.pow_zero, Nat.div_one]; exact dM _
theorem u8_or_nat (a b : Nat) (ha : a < 256) (hb : b < 256) : bits .or .u8 (a : Int) (b : Int) = ((a ||| b : Nat) : Int) := by
  have hx : a ||| b < 256 := Nat.or_lt_two_pow (n := 8) ha hb
  have e : ∀ x : Nat, x < 256 → (BitVec.ofInt 8 (x : Int)).toNat = x := fun x h => by rw [BitVec.toNat_ofInt]; omega
  show IntKind.u8.wrap ((BitVec.ofInt 8 (a : Int) ||| BitVec.ofInt 8 (b : Int)).toNat : Int) = _
  rw [BitVec.toNat_or, e a ha, e b hb]
  simp [IntKind.wrap, IntKind.bits, IntKind.signed]; omega
theorem i64_or (a b i : Nat) (h : b < 2 ^ i) (ha : a * 2 ^ i + b < 9223372036854775808) : bits .or .i64 ((a * 2 ^ i : Nat) : Int) (b : Int) = ((a * 2 ^ i + b : Nat) : Int) := by
  have e := oct.or_add a b i h
  rw [oct.i64_or_nat _ _ (by omega) (by omega) (by omega), e]
/-- Behind the head, and the five bytes that may stand ahead of a Body, no byte looks like sound. -/
theorem pr_clean {f : Fr} (h : okF 4 f = true) (hs : sprd 4 f.fm.toNat = true) (i : Nat) (h0 : 16 ≤ i) (h1 : i + 1 < (pr 4 f).length) : un.bt (un.bs (pr 4 f)) i ≠ 255 ∨ un.bt (un.bs (pr 4 f)) (i + 1) < 224 := by
  have hl : f.id.length = 4 := id_len h
  obtain ⟨p, hp, hpr⟩ : ∃ p : List UInt8, p.length ≤ 15 ∧ pr 4 f = p ++ un.putL f.bd := by
    refine ⟨f.id ++ (siz 4 (dat 4 f).length ++ (flg 4 f ++ ((if grpd 4 f.fm.toNat then [f.gr] else []) ++ (if msrd 4 f.fm.toNat then oct.bigL 128 4 f.bd.length else [])))), ?_, ?_⟩
    · have e1 : (siz 4 (dat 4 f).length).length = 4 := by unfold siz; rw [if_neg (by decide), if_pos rfl, oct.bigL_len]
      have e2 : (flg 4 f).length = 2 := by unfold flg; rw [if_neg (by decide)]; rfl
      have e3 : (if grpd 4 f.fm.toNat then [f.gr] else []).length ≤ 1 := by split <;> simp
      have e4 : (if msrd 4 f.fm.toNat then oct.bigL 128 4 f.bd.length else []).length ≤ 4 := by split <;> simp [oct.bigL_len]
      simp only [List.length_append]
      omega
    · have e : dat 4 f = (if grpd 4 f.fm.toNat then [f.gr] else []) ++ ((if msrd 4 f.fm.toNat then oct.bigL 128 4 f.bd.length else []) ++ un.putL f.bd) := by unfold dat; rw [hs, if_pos rfl]
      have hz : ∀ Z : List UInt8, f.id ++ (Z ++ (flg 4 f ++ dat 4 f)) = (f.id ++ (Z ++ (flg 4 f ++ ((if grpd 4 f.fm.toNat then [f.gr] else []) ++ (if msrd 4 f.fm.toNat then oct.bigL 128 4 f.bd.length else []))))) ++ un.putL f.bd := fun Z => by
        rw [e]; simp only [List.append_assoc]
      exact hz _
  have hn : (pr 4 f).length = p.length + (un.putL f.bd).length := by rw [hpr, List.length_append]
  rw [hpr, bt_app _ _ _ (by omega), bt_app _ _ _ (by omega)]
  have ho := un.ok_at (un.bs (un.putL f.bd)) (i - p.length) (by rw [un.bs_size]; omega) (by rw [un.bs_list]; exact un.put_ok _)
  rcases ho with ho | ho
  · exact .inl ho
  · right
    rw [show i + 1 - p.length = i - p.length + 1 by omega]
    exact ho.2
end Go.Proofs.Ytkhajafjieofhaa.fn
