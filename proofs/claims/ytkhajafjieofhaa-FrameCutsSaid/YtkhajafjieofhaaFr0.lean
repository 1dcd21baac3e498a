/- Layer 13 (frame), the mathematics: what bits mean, a frame as bytes, a frame read; what is printed is read as it was; what is cut off isn't read. -/
import Derived.Test.YtkhajafjieofhaaUn0
import Derived.Test.YtkhajafjieofhaaOct6
namespace Go.Proofs.Ytkhajafjieofhaa.fr
open Go.Proofs.Ytkhajafjieofhaa.oct (num num7 bigL bigL_len num_bigL num7_bigL bigL_lt)
open Go.Proofs.Ytkhajafjieofhaa.un (putL drpL drp_put)
set_option linter.unusedVariables false
def bit (n b : Nat) : Bool := n / b % 2 == 1
def lckd (v : Int) (n : Nat) : Bool := if v = 3 then bit n 128 || bit n 64 else decide (v = 4) && (bit n 8 || bit n 4)
def grpd (v : Int) (n : Nat) : Bool := !lckd v n && (decide (v = 3) && bit n 32 || decide (v = 4) && bit n 64)
def msrd (v : Int) (n : Nat) : Bool := decide (v = 4) && !lckd v n && bit n 1
def sprd (v : Int) (n : Nat) : Bool := decide (v = 4) && !lckd v n && bit n 2
def ltrs (v : Int) : Nat := if v = 2 then 3 else if v = 3 ∨ v = 4 then 4 else 0
def ltr (c : Nat) : Bool := decide (65 ≤ c ∧ c ≤ 90 ∨ 48 ≤ c ∧ c ≤ 57)
def nmd (v : Int) (id : List UInt8) : Bool := decide (0 < id.length ∧ id.length = ltrs v) && id.all fun c => ltr c.toNat
/-- A frame. -/
structure Fr where
  id : List UInt8
  st : UInt8
  fm : UInt8
  gr : UInt8
  bd : List UInt8
def okF (v : Int) (f : Fr) : Bool := nmd v f.id && !(decide (v = 2) && (decide (0 < f.st.toNat) || decide (0 < f.fm.toNat))) && !(decide (0 < f.gr.toNat) && !grpd v f.fm.toNat)
/-- Its data, and all its bytes. -/
def dat (v : Int) (f : Fr) : List UInt8 := (if grpd v f.fm.toNat then [f.gr] else []) ++ ((if msrd v f.fm.toNat then bigL 128 4 f.bd.length else []) ++ (if sprd v f.fm.toNat then putL f.bd else f.bd))
def siz (v : Int) (n : Nat) : List UInt8 := if v = 2 then bigL 256 3 n else if v = 4 then bigL 128 4 n else bigL 256 4 n
def flg (v : Int) (f : Fr) : List UInt8 := if v = 2 then [] else [f.st, f.fm]
def pr (v : Int) (f : Fr) : List UInt8 := f.id ++ (siz v (dat v f).length ++ (flg v f ++ dat v f))
/-- What reading comes to: no frame; a fault so many bytes on; a frame, and how many bytes it has. -/
inductive Res where
  | no : Res
  | bad : Nat → Res
  | ok : Fr → Nat → Res
def hi7 (l : List UInt8) : Option Nat := l.findIdx? fun c => decide (128 ≤ c.toNat)
def noL (l : List UInt8) : Option Nat := l.findIdx? fun c => !ltr c.toNat
/-- The Body of data, behind the Group. -/
def bdy (v : Int) (fm : Nat) (l : List UInt8) : List UInt8 := if sprd v fm then drpL l else l
def paMs (v : Int) (id : List UInt8) (e at' : Nat) (st fm gr : UInt8) (d : List UInt8) : Res :=
  if msrd v fm.toNat then
    if d.length < 4 then .bad e
    else match hi7 (d.take 4) with
      | some j => .bad (at' + j)
      | none => if num7 (d.take 4) = (bdy v fm.toNat (d.drop 4)).length then .ok ⟨id, st, fm, gr, bdy v fm.toNat (d.drop 4)⟩ e else .bad at'
  else .ok ⟨id, st, fm, gr, bdy v fm.toNat d⟩ e
def paCt (v : Int) (id : List UInt8) (h e : Nat) (st fm : UInt8) (d : List UInt8) : Res :=
  if lckd v fm.toNat then .ok ⟨id, st, fm, 0, d⟩ e
  else if grpd v fm.toNat then
    if d.length < 1 then .bad e else paMs v id e (h + 1) st fm (d.getD 0 0) (d.drop 1)
  else paMs v id e h st fm 0 d
def paBd (v : Int) (l : List UInt8) (h n : Nat) (st fm : UInt8) : Res :=
  if l.length < h + n then .bad l.length else paCt v (l.take (ltrs v)) h (h + n) st fm ((l.drop h).take n)
/-- In version 4 a spread tag's frames are spread. -/
def fmt (v : Int) (sp : Bool) (fm : UInt8) : UInt8 := if v = 4 ∧ sp = true ∧ bit fm.toNat 2 = false then fm + 2 else fm
def paFl (v : Int) (sp : Bool) (l : List UInt8) (h n : Nat) : Res :=
  if 2 < v then (if l.length < h + 2 then .bad l.length else paBd v l (h + 2) n (l.getD h 0) (fmt v sp (l.getD (h + 1) 0)))
  else paBd v l h n 0 0
def paSz (v : Int) (sp : Bool) (l : List UInt8) : Res :=
  if v = 4 then
    if l.length < 8 then .bad l.length
    else match hi7 ((l.drop 4).take 4) with
      | some j => .bad (4 + j)
      | none => paFl v sp l 8 (num7 ((l.drop 4).take 4))
  else if v = 3 then (if l.length < 8 then .bad l.length else paFl v sp l 8 (num ((l.drop 4).take 4)))
  else (if l.length < 6 then .bad l.length else paFl v sp l 6 (num ((l.drop 3).take 3)))
def pa (v : Int) (sp : Bool) (l : List UInt8) : Res :=
  if l.length = 0 ∨ (l.getD 0 0).toNat = 0 ∨ ltrs v = 0 then .no
  else if l.length < ltrs v then .bad l.length
  else match noL (l.take (ltrs v)) with
    | some i => .bad i
    | none => paSz v sp l
theorem hi7_big (n : Nat) : hi7 (bigL 128 4 n) = none := by
  unfold hi7
  rw [List.findIdx?_eq_none_iff]
  intro x hx
  have := bigL_lt 128 (by omega) (by omega) 4 n x hx
  simp; omega
theorem take_l {α : Type} (a b : List α) (n : Nat) (h : a.length = n) : (a ++ b).take n = a := by subst h; simp
theorem drop_l {α : Type} (a b : List α) (n : Nat) (h : a.length = n) : (a ++ b).drop n = b := by subst h; simp
theorem nmd_at {v : Int} {id : List UInt8} (h : nmd v id = true) : id.length = ltrs v ∧ 0 < id.length ∧ ∀ c ∈ id, ltr c.toNat = true := by
  unfold nmd at h
  rw [Bool.and_eq_true, List.all_eq_true] at h
  have := of_decide_eq_true h.1
  exact ⟨this.2, this.1, h.2⟩
theorem noL_id {v : Int} {id : List UInt8} (h : nmd v id = true) : noL id = none := by
  unfold noL
  rw [List.findIdx?_eq_none_iff]
  intro x hx
  rw [(nmd_at h).2.2 x hx]; rfl
theorem head_id {v : Int} {id : List UInt8} (h : nmd v id = true) (m : List UInt8) : ((id ++ m).getD 0 0).toNat ≠ 0 := by
  obtain ⟨h1, h2, h3⟩ := nmd_at h
  match id, h2 with
  | c :: l, _ =>
    have := h3 c (by simp)
    unfold ltr at this
    have := of_decide_eq_true this
    show c.toNat ≠ 0
    omega
theorem v_of {v : Int} (h : ltrs v ≠ 0) : v = 2 ∨ v = 3 ∨ v = 4 := by
  unfold ltrs at h
  split at h
  · left; assumption
  · split at h
    · right; assumption
    · exact absurd rfl h
theorem okF_at {v : Int} {f : Fr} (h : okF v f = true) : nmd v f.id = true ∧ (v = 2 → f.st = 0 ∧ f.fm = 0) ∧ (grpd v f.fm.toNat = false → f.gr = 0) := by
  unfold okF at h
  rw [Bool.and_eq_true, Bool.and_eq_true] at h
  obtain ⟨⟨h1, h2⟩, h3⟩ := h
  refine ⟨h1, ?_, ?_⟩
  · intro e
    simp [e] at h2
    exact ⟨UInt8.toNat_inj.1 h2.1, UInt8.toNat_inj.1 h2.2⟩
  · intro e
    simp [e] at h3
    exact UInt8.toNat_inj.1 h3
theorem siz_len {v : Int} (h : v = 2 ∨ v = 3 ∨ v = 4) (n : Nat) : (siz v n).length = if v = 2 then 3 else 4 := by
  unfold siz
  rcases h with rfl | rfl | rfl <;> simp [bigL_len]
theorem dat_len (v : Int) (f : Fr) : (dat v f).length ≤ 5 + 2 * f.bd.length := by
  unfold dat
  have h1 : (putL f.bd).length ≤ 2 * f.bd.length := by rw [un.put_len]; have := un.ext_le f.bd; omega
  rw [List.length_append, List.length_append]
  have a : (if grpd v f.fm.toNat then [f.gr] else []).length ≤ 1 := by split <;> simp
  have b : (if msrd v f.fm.toNat then bigL 128 4 f.bd.length else []).length ≤ 4 := by split <;> simp [bigL_len]
  have c : (if sprd v f.fm.toNat then putL f.bd else f.bd).length ≤ 2 * f.bd.length := by split <;> omega
  omega
/-- What stands in data is read of it. -/
theorem ct_dat {v : Int} {f : Fr} (hg : grpd v f.fm.toNat = false → f.gr = 0) (hb : f.bd.length ≤ 268435455) (h e : Nat) : paCt v f.id h e f.st f.fm (dat v f) = .ok f e := by
  unfold paCt
  by_cases hl : lckd v f.fm.toNat = true
  · have hgf : grpd v f.fm.toNat = false := by unfold grpd; rw [hl]; rfl
    have hm : msrd v f.fm.toNat = false := by unfold msrd; rw [hl]; simp
    have hs : sprd v f.fm.toNat = false := by unfold sprd; rw [hl]; simp
    have := hg hgf
    rw [if_pos hl]
    unfold dat
    rw [hgf, hm, hs]
    cases f
    simp_all
  · rw [if_neg hl]
    have ms : ∀ at' gr, gr = f.gr → paMs v f.id e at' f.st f.fm gr ((if msrd v f.fm.toNat then bigL 128 4 f.bd.length else []) ++ (if sprd v f.fm.toNat then putL f.bd else f.bd)) = .ok f e := by
      intro at' gr hgr
      have hbd : bdy v f.fm.toNat (if sprd v f.fm.toNat then putL f.bd else f.bd) = f.bd := by
        unfold bdy
        by_cases hs : sprd v f.fm.toNat = true
        · rw [if_pos hs, if_pos hs, drp_put]
        · rw [if_neg hs, if_neg hs]
      unfold paMs
      by_cases hm : msrd v f.fm.toNat = true
      · rw [if_pos hm, if_pos hm, take_l _ _ 4 (bigL_len _ _ _), drop_l _ _ 4 (bigL_len _ _ _), hi7_big, if_neg (by rw [List.length_append, bigL_len]; omega), hbd]
        simp only
        rw [num7_bigL, Nat.mod_eq_of_lt (by omega), if_pos rfl, hgr]
      · rw [if_neg hm, if_neg hm, List.nil_append, hbd, hgr]
    unfold dat
    by_cases hgp : grpd v f.fm.toNat = true
    · rw [if_pos hgp, if_pos hgp, if_neg (by simp)]
      exact ms _ _ rfl
    · rw [if_neg hgp, if_neg hgp, List.nil_append]
      exact ms _ _ (hg (by simpa using hgp)).symm
theorem fmt_off (v : Int) (x : UInt8) : fmt v false x = x := by unfold fmt; simp
theorem bd_pr {v : Int} {f : Fr} (b : List UInt8) (hk : okF v f = true) (hb : f.bd.length ≤ 268435455) (h n : Nat) (hn : n = (dat v f).length) (m : List UInt8) (hm : pr v f = m ++ dat v f) (hh : m.length = h) : paBd v (pr v f ++ b) h n f.st f.fm = .ok f (pr v f).length := by
  obtain ⟨h1, h2, h3⟩ := okF_at hk
  unfold paBd
  have e1 : (pr v f ++ b).drop h = dat v f ++ b := by rw [hm, List.append_assoc, drop_l _ _ _ hh]
  have e2 : (pr v f ++ b).take (ltrs v) = f.id := by unfold pr; rw [List.append_assoc, take_l _ _ _ (nmd_at h1).1]
  have e3 : (pr v f).length = h + n := by rw [hm, List.length_append, hh, hn]
  rw [if_neg (by rw [List.length_append]; omega), e1, e2, take_l _ _ _ hn.symm, ct_dat h3 hb, e3]
/-- What is printed is read as it was, in a spread tag too, where the bit is set. -/
theorem pa_pr_sp (v : Int) (sp : Bool) (f : Fr) (b : List UInt8) (hk : okF v f = true) (hb : f.bd.length ≤ 5000000) (hf : fmt v sp f.fm = f.fm) : pa v sp (pr v f ++ b) = .ok f (pr v f).length := by
  obtain ⟨h1, h2, h3⟩ := okF_at hk
  obtain ⟨g1, g2, g3⟩ := nmd_at h1
  have hv := v_of (v := v) (by omega)
  have hd := dat_len v f
  have hlen : (pr v f).length = ltrs v + ((siz v (dat v f).length).length + ((flg v f).length + (dat v f).length)) := by unfold pr; simp [g1]
  unfold pa
  have e0 : ((pr v f ++ b).getD 0 0).toNat ≠ 0 := by unfold pr; rw [List.append_assoc]; exact head_id h1 _
  have e1 : (pr v f ++ b).take (ltrs v) = f.id := by unfold pr; rw [List.append_assoc, take_l _ _ _ g1]
  rw [if_neg (by rw [List.length_append]; omega), if_neg (by rw [List.length_append]; omega), e1, noL_id h1]
  simp only
  unfold paSz
  rcases hv with rfl | rfl | rfl
  · have L : ltrs 2 = 3 := rfl
    have l0 : f.id.length = 3 := g1
    have s0 : siz 2 (dat 2 f).length = bigL 256 3 (dat 2 f).length := rfl
    have f0 : flg 2 f = [] := rfl
    have e2 : ((pr 2 f ++ b).drop 3).take 3 = bigL 256 3 (dat 2 f).length := by
      unfold pr; rw [List.append_assoc, drop_l _ _ _ l0, s0, List.append_assoc, take_l _ _ _ (bigL_len _ _ _)]
    have hl2 : 6 ≤ (pr 2 f ++ b).length := by rw [List.length_append, hlen, s0, bigL_len, L]; omega
    rw [if_neg (by decide), if_neg (by decide), if_neg (by omega), e2, num_bigL, Nat.mod_eq_of_lt (by omega)]
    unfold paFl
    rw [if_neg (by decide)]
    have := bd_pr (v := 2) (f := f) b hk (by omega) 6 _ rfl (f.id ++ bigL 256 3 (dat 2 f).length) (by unfold pr; rw [s0, f0, List.nil_append, List.append_assoc]) (by rw [List.length_append, l0, bigL_len])
    rwa [(h2 rfl).1, (h2 rfl).2] at this
  · have L : ltrs 3 = 4 := rfl
    have l0 : f.id.length = 4 := g1
    have s0 : siz 3 (dat 3 f).length = bigL 256 4 (dat 3 f).length := rfl
    have f0 : flg 3 f = [f.st, f.fm] := rfl
    have e2 : ((pr 3 f ++ b).drop 4).take 4 = bigL 256 4 (dat 3 f).length := by
      unfold pr; rw [List.append_assoc, drop_l _ _ _ l0, s0, List.append_assoc, take_l _ _ _ (bigL_len _ _ _)]
    have e3 : (pr 3 f ++ b).drop 8 = f.st :: f.fm :: (dat 3 f ++ b) := by
      unfold pr
      rw [show f.id ++ (siz 3 (dat 3 f).length ++ (flg 3 f ++ dat 3 f)) ++ b = (f.id ++ bigL 256 4 (dat 3 f).length) ++ (f.st :: f.fm :: (dat 3 f ++ b)) by rw [s0, f0]; simp [List.append_assoc], drop_l _ _ 8 (by rw [List.length_append, l0, bigL_len])]
    have hl2 : 10 ≤ (pr 3 f ++ b).length := by rw [List.length_append, hlen, s0, f0, bigL_len, L]; simp; omega
    rw [if_neg (by decide), if_pos rfl, if_neg (by omega), e2, num_bigL, Nat.mod_eq_of_lt (by omega)]
    unfold paFl
    have i0 : (pr 3 f ++ b).getD 8 0 = f.st := by have := congrArg (fun l => l.getD 0 0) e3; simpa [List.getD_eq_getElem?_getD, List.getElem?_drop] using this
    have i1 : (pr 3 f ++ b).getD (8 + 1) 0 = f.fm := by have := congrArg (fun l => l.getD 1 0) e3; simpa [List.getD_eq_getElem?_getD, List.getElem?_drop] using this
    rw [if_pos (by decide), if_neg (by omega), i0, i1, hf]
    exact bd_pr (v := 3) (f := f) b hk (by omega) 10 _ rfl (f.id ++ (bigL 256 4 (dat 3 f).length ++ [f.st, f.fm])) (by unfold pr; rw [s0, f0]; simp [List.append_assoc]) (by simp [l0, bigL_len])
  · have L : ltrs 4 = 4 := rfl
    have l0 : f.id.length = 4 := g1
    have s0 : siz 4 (dat 4 f).length = bigL 128 4 (dat 4 f).length := rfl
    have f0 : flg 4 f = [f.st, f.fm] := rfl
    have e2 : ((pr 4 f ++ b).drop 4).take 4 = bigL 128 4 (dat 4 f).length := by
      unfold pr; rw [List.append_assoc, drop_l _ _ _ l0, s0, List.append_assoc, take_l _ _ _ (bigL_len _ _ _)]
    have e3 : (pr 4 f ++ b).drop 8 = f.st :: f.fm :: (dat 4 f ++ b) := by
      unfold pr
      rw [show f.id ++ (siz 4 (dat 4 f).length ++ (flg 4 f ++ dat 4 f)) ++ b = (f.id ++ bigL 128 4 (dat 4 f).length) ++ (f.st :: f.fm :: (dat 4 f ++ b)) by rw [s0, f0]; simp [List.append_assoc], drop_l _ _ 8 (by rw [List.length_append, l0, bigL_len])]
    have hl2 : 10 ≤ (pr 4 f ++ b).length := by rw [List.length_append, hlen, s0, f0, bigL_len, L]; simp; omega
    rw [if_pos rfl, if_neg (by omega), e2, hi7_big]
    simp only
    rw [num7_bigL, Nat.mod_eq_of_lt (by omega)]
    unfold paFl
    have i0 : (pr 4 f ++ b).getD 8 0 = f.st := by have := congrArg (fun l => l.getD 0 0) e3; simpa [List.getD_eq_getElem?_getD, List.getElem?_drop] using this
    have i1 : (pr 4 f ++ b).getD (8 + 1) 0 = f.fm := by have := congrArg (fun l => l.getD 1 0) e3; simpa [List.getD_eq_getElem?_getD, List.getElem?_drop] using this
    rw [if_pos (by decide), if_neg (by omega), i0, i1, hf]
    exact bd_pr (v := 4) (f := f) b hk (by omega) 10 _ rfl (f.id ++ (bigL 128 4 (dat 4 f).length ++ [f.st, f.fm])) (by unfold pr; rw [s0, f0]; simp [List.append_assoc]) (by simp [l0, bigL_len])
theorem pa_pr (v : Int) (f : Fr) (b : List UInt8) (hk : okF v f = true) (hb : f.bd.length ≤ 5000000) : pa v false (pr v f ++ b) = .ok f (pr v f).length := pa_pr_sp v false f b hk hb (fmt_off _ _)
end Go.Proofs.Ytkhajafjieofhaa.fr
