/- Layer 12: what the walks ask of the landed functions; the walk of TailSplits. -/
import Derived.Test.YtidlkkhmmgkicaaTa5
import Derived.Test.YtidlkkhmmgkicaaUn2
namespace Go.Proofs.Ytidlkkhmmgkicaa.ta
open Go.RowKit Go.Lib
open Go.Proofs.Ytidlkkhmmgkicaa.un (bs bs_list bs_size bs_app bs_back size_list bt wrap64 data_app Kb Kb.below)
set_option linter.unusedVariables false
/-- Does a tail stand at the end? -/
def spN (b : ByteArray) : Bool := decide (128 ≤ b.size) && decide (b.extract (b.size - 128) (b.size - 128 + 3) = ⟨#[84, 65, 71]⟩)
def spA (b : ByteArray) : ByteArray := if spN b = true then b.extract 0 (b.size - 128) else b
def spB (b : ByteArray) : ByteArray := if spN b = true then b.extract (b.size - 128) b.size else ⟨#[]⟩
/-- Are these bytes a tail? -/
def isT (b : ByteArray) : Bool := decide (b.size = 128) && decide (b.extract 0 3 = ⟨#[84, 65, 71]⟩)
/-- A tail as a value. -/
def tlV (a b c d e : ByteArray) (tr g : Nat) : Value := .agg #[.string a, .string b, .string c, .string d, .string e, .int .u8 (tr : Int), .int .u8 (g : Int)]
def paV (b : ByteArray) : Value := if isT b = true then tlV (fld b 3 30) (fld b 33 30) (fld b 63 30) (fld b 93 4) (fld b 97 (wd 4 (trB b))) (trB b) (bt b 127) else tlV ⟨#[]⟩ ⟨#[]⟩ ⟨#[]⟩ ⟨#[]⟩ ⟨#[]⟩ 0 0
/-- What is printed: none where something is wrong. -/
def prS (tr g : Nat) (l : List ByteArray) : ByteArray := if (chk tr 0 l).1 = 0 then bs (prA tr g l) else ⟨#[]⟩
def ftV (x : Nat × Nat) : Value := .agg #[.int .i64 (x.1 : Int), .int .i64 (x.2 : Int)]
structure Tl (K : World → Prop) : Prop where
  stay : ∀ w w', K w → Below w.heap.size w w' → K w'
  first : ∀ w, K w → Calls Try.prog 46 #[] w fun e w' => e = .returned (.bool true) ∧ Below w.heap.size w w'
  parse : ∀ (s : ByteArray) w, K w → s.size ≤ 4000 → Calls Try.prog 18 #[.string s] w fun e w' => e = .returned (.tuple #[paV s, .bool (isT s)]) ∧ Below w.heap.size w w'
  split : ∀ (s : ByteArray) w, K w → s.size ≤ 4000 → Calls Try.prog 21 #[.string s] w fun e w' => e = .returned (.tuple #[.string (spA s), .string (spB s)]) ∧ Below w.heap.size w w'
  check : ∀ (a b c d e : ByteArray) (tr g : Nat) w, K w → tr < 256 → g < 256 → a.size ≤ maxLen → b.size ≤ maxLen → c.size ≤ maxLen → d.size ≤ maxLen → e.size ≤ maxLen → Calls Try.prog 24 #[tlV a b c d e tr g] w fun r w' => r = .returned (ftV (chk tr 0 [a, b, c, d, e])) ∧ Below w.heap.size w w'
  print : ∀ (a b c d e : ByteArray) (tr g : Nat) w, K w → tr < 256 → g < 256 → a.size ≤ maxLen → b.size ≤ maxLen → c.size ≤ maxLen → d.size ≤ maxLen → e.size ≤ maxLen → Calls Try.prog 22 #[tlV a b c d e tr g] w fun r w' => r = .returned (.tuple #[.string (prS tr g [a, b, c, d, e]), ftV (chk tr 0 [a, b, c, d, e])]) ∧ Below w.heap.size w w'
set_option maxRecDepth 100000 in
theorem bad_any (W : World) (c a : Int) : Calls Try.prog 26 #[.agg #[.int .i64 c, .int .i64 a]] W fun e w' => e = .returned (.bool (c != 0)) ∧ Below W.heap.size W w' := by
  go_enter Try.func26, Try.ntmps26
  go_wp2
  go_ret
  exact ⟨rfl, (Below.refl _ _).alloc (Nat.le_refl _) _⟩
/-- Seven cells of a block. -/
structure T7 (w : World) (p : Nat) (v0 v1 v2 v3 v4 v5 v6 : Value) : Prop where
  lt : p < w.heap.size
  c0 : w.cell? ⟨p, 0, none⟩ = some v0
  c1 : w.cell? ⟨p, 1, none⟩ = some v1
  c2 : w.cell? ⟨p, 2, none⟩ = some v2
  c3 : w.cell? ⟨p, 3, none⟩ = some v3
  c4 : w.cell? ⟨p, 4, none⟩ = some v4
  c5 : w.cell? ⟨p, 5, none⟩ = some v5
  c6 : w.cell? ⟨p, 6, none⟩ = some v6
theorem T7.below {w w' : World} {p : Nat} {v0 v1 v2 v3 v4 v5 v6 : Value} (h : T7 w p v0 v1 v2 v3 v4 v5 v6) (hb : Below w.heap.size w w') : T7 w' p v0 v1 v2 v3 v4 v5 v6 :=
  ⟨Nat.lt_of_lt_of_le h.lt hb.size, (hb.cell (p := ⟨p, 0, none⟩) h.lt).trans h.c0, (hb.cell (p := ⟨p, 1, none⟩) h.lt).trans h.c1, (hb.cell (p := ⟨p, 2, none⟩) h.lt).trans h.c2, (hb.cell (p := ⟨p, 3, none⟩) h.lt).trans h.c3, (hb.cell (p := ⟨p, 4, none⟩) h.lt).trans h.c4, (hb.cell (p := ⟨p, 5, none⟩) h.lt).trans h.c5, (hb.cell (p := ⟨p, 6, none⟩) h.lt).trans h.c6⟩
theorem t7_new (w : World) (t : TypeId) (v0 v1 v2 v3 v4 v5 v6 : Value) : T7 (w.alloc (.cells #[v0, v1, v2, v3, v4, v5, v6] t)) w.heap.size v0 v1 v2 v3 v4 v5 v6 := by
  refine ⟨by rw [alloc_size]; omega, ?_, ?_, ?_, ?_, ?_, ?_, ?_⟩ <;> (rw [World.cell?_alloc_mark]; rfl)
theorem bs0 : bs [] = (⟨#[]⟩ : ByteArray) := rfl
theorem ext_pre (x y : List UInt8) : (bs (x ++ y)).extract 0 x.length = bs x := by
  have h := seg_ext [] x y
  simpa using h
theorem sp_app (s : ByteArray) : spA s ++ spB s = s := by
  unfold spA spB
  by_cases h : spN s = true
  · rw [if_pos h, if_pos h]
    have h1 : 128 ≤ s.size := by
      unfold spN at h
      rw [Bool.and_eq_true] at h
      exact of_decide_eq_true h.1
    have hs := size_list s
    have e : (s.extract 0 (s.size - 128) ++ s.extract (s.size - 128) s.size).data.toList = s.data.toList := by
      rw [data_app, ByteArray.data_extract, ByteArray.data_extract, Array.toList_extract, Array.toList_extract]
      simp only [List.extract, Nat.sub_zero, List.drop_zero]
      rw [show s.size - (s.size - 128) = 128 by omega, List.take_of_length_le (l := List.drop _ _) (by rw [List.length_drop]; omega), List.take_append_drop]
    rw [← bs_back (s.extract 0 (s.size - 128) ++ s.extract (s.size - 128) s.size), e, bs_back]
  · rw [if_neg h, if_neg h]
    have e : (s ++ ⟨#[]⟩ : ByteArray).data.toList = s.data.toList := by
      rw [data_app]
      show s.data.toList ++ [] = s.data.toList
      exact List.append_nil _
    rw [← bs_back (s ++ ⟨#[]⟩), e, bs_back]
section
variable {tr g : Nat} {a b c d e : ByteArray}
theorem pr_isT (H : Ok tr a b c d e) : isT (bs (prA tr g [a, b, c, d, e])) = true := by
  unfold isT
  rw [pr_size H, pr_tag H]
  simp
theorem pr_pa (H : Ok tr a b c d e) (ht : tr < 256) (hg : g < 256) : paV (bs (prA tr g [a, b, c, d, e])) = tlV a b c d e tr g := by
  unfold paV
  rw [if_pos (pr_isT H), pr_a H, pr_b H, pr_c H, pr_d H, pr_t H ht, pr_e H, pr_g H hg]
theorem pr_sp (H : Ok tr a b c d e) (s : ByteArray) : spN (s ++ bs (prA tr g [a, b, c, d, e])) = true ∧ spA (s ++ bs (prA tr g [a, b, c, d, e])) = s ∧ spB (s ++ bs (prA tr g [a, b, c, d, e])) = bs (prA tr g [a, b, c, d, e]) := by
  have hz := pr_size (g := g) H
  obtain ⟨P, hP⟩ : ∃ P, P = prA tr g [a, b, c, d, e] := ⟨_, rfl⟩
  have hp2 : ∃ q, P = [84, 65, 71] ++ q := ⟨_, by rw [hP, prA_eq]⟩
  rw [← hP] at hz ⊢
  rw [bs_size] at hz
  have hs : s ++ bs P = bs (s.data.toList ++ P) := by rw [← bs_app, bs_back]
  have hl := size_list s
  have hsz : (s ++ bs P).size = s.data.toList.length + 128 := by rw [hs, bs_size, List.length_append, hz]
  have h1 : spN (s ++ bs P) = true := by
    obtain ⟨q, hq⟩ := hp2
    have h3 := seg_ext s.data.toList [84, 65, 71] q
    rw [← hq, ← hs] at h3
    unfold spN
    rw [hsz, show s.data.toList.length + 128 - 128 = s.data.toList.length by omega, decide_eq_true (by omega), Bool.true_and]
    exact decide_eq_true h3
  refine ⟨h1, ?_, ?_⟩
  · unfold spA
    rw [if_pos h1, hsz, show s.data.toList.length + 128 - 128 = s.data.toList.length by omega, hs, ext_pre, bs_back]
  · unfold spB
    rw [if_pos h1, hsz, show s.data.toList.length + 128 - 128 = s.data.toList.length by omega, hs]
    have h3 := seg_ext s.data.toList P []
    rw [List.append_nil, hz] at h3
    exact h3
end
end Go.Proofs.Ytidlkkhmmgkicaa.ta
