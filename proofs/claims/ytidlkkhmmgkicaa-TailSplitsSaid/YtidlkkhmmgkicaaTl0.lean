/- The landed tail: the library's calls that it makes, its small functions: contracts. -/
import Derived.Test.YtidlkkhmmgkicaaShelf
import Derived.Test.YtidlkkhmmgkicaaTa6
import Derived.Test.YtidlkkhmmgkicaaOct6
import Derived.Test.YtidlkkhmmgkicaaOct9
import Derived.Lib.IndexLaws
import Derived.Lib.Join
import Derived.Deep.RegionHeld3
namespace Go.Proofs.Ytidlkkhmmgkicaa.tl
open Go.RowKit Go.Lib
open Go.Proofs.Ytidlkkhmmgkicaa.un (bs bs_list bs_size bs_app bs_back size_list bt bt_lt bt_get index_bt wrap64 data_app drop_at drop_end u0)
open Go.Proofs.Ytidlkkhmmgkicaa.ta
set_option linter.unusedVariables false
/-- Where the first byte 0 is. -/
theorem ix_none : ∀ {l : List UInt8}, indexByte l 0 = -1 → cutL l = l
  | [], _ => rfl
  | x :: l, h => by
    have h2 := indexByte_none h
    have h0 := h2 0
    unfold cutL
    rw [List.takeWhile_cons, if_pos (by simp at h0; simpa using h0)]
    congr 1
    unfold indexByte at h
    split at h
    · simp at h
    · split at h
      · rename_i hl; exact ix_none (by simpa using hl)
      · have := indexByte_ge l 0; omega
theorem ix_some : ∀ {l : List UInt8} {o : Nat}, indexByte l 0 = (o : Int) → cutL l = l.take o ∧ o < l.length
  | [], o, h => by simp [indexByte] at h
  | x :: l, o, h => by
    unfold indexByte at h
    split at h
    · rename_i hx
      obtain rfl : o = 0 := by omega
      have : x = 0 := by simpa using hx
      subst this
      exact ⟨rfl, by simp⟩
    · rename_i hx
      split at h
      · simp at h
      · rename_i hl
        have := indexByte_ge l 0
        obtain ⟨k, hk⟩ : ∃ k : Nat, indexByte l 0 = (k : Int) := ⟨(indexByte l 0).toNat, by simp at hl; omega⟩
        obtain ⟨h1, h2⟩ := ix_some hk
        obtain rfl : o = k + 1 := by omega
        refine ⟨?_, by simp; omega⟩
        unfold cutL at h1 ⊢
        rw [List.takeWhile_cons, if_pos (by simpa using hx), h1]
        rfl
set_option maxRecDepth 100000 in
set_option maxHeartbeats 2000000 in
/-- strings.Cut at a byte 0: what stands ahead. -/
theorem slcut_any (s : ByteArray) (w : World) (hs : s.size ≤ 4000) : Calls Try.prog 54 #[.string s, .string ⟨#[0]⟩] w fun e w' => (∃ v1 v2, e = .returned (.tuple #[.string (bs (cutL s.data.toList)), v1, v2])) ∧ ∃ n, w' = w.drewN n := by
  have HI := Lib.hid (fun W => Try.stringslite_Index_one s 0 W)
  have hcase : indexByte s.data.toList 0 = -1 ∨ ∃ o : Nat, indexByte s.data.toList 0 = (o : Int) := by
    have := indexByte_ge s.data.toList 0
    by_cases h : indexByte s.data.toList 0 = -1
    · exact .inl h
    · exact .inr ⟨(indexByte s.data.toList 0).toNat, by omega⟩
  rcases hcase with h | ⟨o, h⟩
  · rw [h] at HI
    rw [ix_none h, bs_back]
    go_enter Try.func54, Try.ntmps54
    go_wp2_with (go_at_call 66; refine (HI.out _).mono ?_; rintro e1 w1 ⟨rfl, rfl⟩)
    go_ret3
    exact ⟨⟨_, _, rfl⟩, 0, rfl⟩
  · rw [h] at HI
    obtain ⟨h1, h2⟩ := ix_some h
    rw [size_list] at h2
    rw [h1]
    have c1 : (0 : Int) ≤ (o : Int) := by omega
    have x1 := fun wx => slice_to s o (by omega) wx
    have e1 : IntKind.i64.wrap ((o : Int) + 1) = (o : Int) + 1 := wrap64 (by omega) (by omega)
    have x2 : ∀ wx, (Instr.slice 9 (.string s) (some (.int .i64 ((o : Int) + 1))) none none).run Try.prog wx = .ok (.string (s.extract (o + 1) s.size)) wx := fun wx => by
      rw [show ((o : Int) + 1) = ((o + 1 : Nat) : Int) by omega]
      rw [run_slice_string_l wx 9 s Try.underlying9 .i64 ((o + 1 : Nat) : Int) (by omega) (by omega)]
      rfl
    generalize s.extract (o + 1) s.size = T at *
    generalize bs (s.data.toList.take o) = U at *
    clear h h1 h2
    go_enter Try.func54, Try.ntmps54
    go_wp2_with (go_at_call 66; refine (HI.out _).mono ?_; rintro e1 w1 ⟨rfl, rfl⟩)
    go_quiet (fail)
    go_wp2
    go_ret3
    exact ⟨⟨_, _, rfl⟩, _, rfl⟩
theorem cut_any (s : ByteArray) (w : World) (hs : s.size ≤ 4000) : Calls Try.prog 34 #[.string s, .string ⟨#[0]⟩] w fun e w' => (∃ v1 v2, e = .returned (.tuple #[.string (bs (cutL s.data.toList)), v1, v2])) ∧ ∃ n, w' = w.drewN n := by
  have HI := Lib.hid (fun W => slcut_any s W hs)
  generalize bs (cutL s.data.toList) = T at *
  go_enter Try.func34, Try.ntmps34
  go_wp2_with (go_at_call 54; refine (HI.out _).mono ?_; rintro e1 w1 ⟨⟨v1, v2, rfl⟩, n, rfl⟩)
  go_ret3
  exact ⟨⟨_, _, rfl⟩, _, rfl⟩
theorem contains_any (s : ByteArray) (w : World) : Calls Try.prog 45 #[.string s, .string ⟨#[0]⟩] w fun e w' => e = .returned (.bool (decide (¬ bs (cutL s.data.toList) = s))) ∧ w = w' := by
  refine (Try.strings_Contains_one s 0 w).mono ?_
  rintro e w' ⟨rfl, rfl⟩
  refine ⟨?_, rfl⟩
  have hd : decide (0 ≤ indexByte s.data.toList 0) = decide (¬ bs (cutL s.data.toList) = s) := by
    have := indexByte_ge s.data.toList 0
    by_cases h : indexByte s.data.toList 0 = -1
    · rw [h, ix_none h, bs_back]; simp
    · obtain ⟨h1, h2⟩ := ix_some (l := s.data.toList) (o := (indexByte s.data.toList 0).toNat) (by omega)
      rw [decide_eq_true (by omega), decide_eq_true]
      intro hb
      have h3 := cut_of s hb
      rw [h1] at h3
      have h4 := congrArg List.length h3
      rw [List.length_take] at h4
      omega
  rw [hd]
theorem rep_zero : ∀ n, repeatL [0] n = List.replicate n 0
  | 0 => rfl
  | n + 1 => by rw [repeatL, rep_zero n]; rfl
theorem repeat_any (n : Nat) (w : World) (h : n ≤ 4000) : Calls Try.prog 42 #[.string ⟨#[0]⟩, .int .i64 (n : Int)] w fun e w' => e = .returned (.string (bs (List.replicate n 0))) ∧ Below w.heap.size w w' := by
  have h2 := Try.strings_Repeat ⟨#[0]⟩ n w (by omega) (by show 1 * n ≤ _; omega)
  rw [show (⟨#[0]⟩ : ByteArray).data.toList = [0] from rfl, rep_zero] at h2
  exact h2
theorem join_flat : ∀ xs : List (List UInt8), Lib.join xs [] = xs.flatten
  | [] => rfl
  | x :: r => by rw [Lib.join_cons]; simp [Lib.joinTail]
/-- octet.Join of a row of texts in a block. -/
theorem join_any (b o c : Nat) (xs : List ByteArray) (w : World) (hc : ∀ (j : Nat) x, xs[j]? = some x → w.cell? ⟨b, o + j, none⟩ = some (.string x)) (hb : b < w.heap.size) (hN : xs.length ≤ 100) (hcap : xs.length ≤ c) (hl : ((xs.map (·.data.toList)).flatten).length ≤ 100000) :
    Calls Try.prog 41 #[.slice (some ⟨b, o, none⟩) xs.length c] w fun e w' => e = .returned (.string (bs (xs.map (·.data.toList)).flatten)) ∧ Below w.heap.size w w' := by
  have h2 := Try.strings_Join b o c xs ⟨#[]⟩ w hc hb (by omega) hcap (by rw [show (⟨#[]⟩ : ByteArray).data.toList = [] from rfl, join_flat]; omega)
  rw [show (⟨#[]⟩ : ByteArray).data.toList = [] from rfl, join_flat] at h2
  have HJ := Lib.hid h2
  change Hid (Calls _ _ _ _ fun e w' => e = .returned (.string (bs (xs.map (·.data.toList)).flatten)) ∧ _) at HJ
  generalize bs (xs.map (·.data.toList)).flatten = T at *
  generalize xs.length = n at *
  clear h2 hc hl
  go_enter Try.func41, Try.ntmps41
  go_wp2_with (go_at_call 56; refine (HJ.out).mono ?_; rintro e1 w1 ⟨rfl, hb1⟩)
  go_ret
  exact ⟨rfl, hb1⟩
set_option maxRecDepth 100000 in
theorem sizes_any (w : World) : Calls Try.prog 32 #[] w fun e w' => e = .returned (.agg #[.int .i64 30, .int .i64 30, .int .i64 30, .int .i64 4, .int .i64 30]) ∧ Below w.heap.size w w' := by
  go_enter Try.func32, Try.ntmps32
  go_wp2
  (try simp only [Exit.inBlock, Exit.then])
  refine bodyPost_ret (v := .agg #[.int .i64 30, .int .i64 30, .int .i64 30, .int .i64 4, .int .i64 30]) (by simp [results, Try.results32, go_sem]) rfl ⟨rfl, ?_⟩
  exact (Below.refl _ _).alloc (Nat.le_refl _) _
set_option maxRecDepth 100000 in
theorem named_any (a b c d e : ByteArray) (w : World) : Calls Try.prog 35 #[.agg #[.string a, .string b, .string c, .string d, .string e]] w fun r w' => r = .returned (.agg #[.string a, .string b, .string c, .string d, .string e]) ∧ Below w.heap.size w w' := by
  go_enter Try.func35, Try.ntmps35
  go_wp2
  (try simp only [Exit.inBlock, Exit.then])
  refine bodyPost_ret (v := .agg #[.string a, .string b, .string c, .string d, .string e]) (by simp [results, Try.results35, go_sem]) rfl ⟨rfl, ?_⟩
  exact ((Below.refl _ _).alloc (Nat.le_refl _) _).alloc (by rw [World.size_alloc]; omega) _
set_option maxRecDepth 100000 in
theorem texts_any (a b c d e : ByteArray) (w : World) : Calls Try.prog 40 #[.agg #[.string a, .string b, .string c, .string d, .string e]] w fun r w' => r = .returned (.agg #[.string a, .string b, .string c, .string d, .string e]) ∧ Below w.heap.size w w' := by
  go_enter Try.func40, Try.ntmps40
  go_wp2
  (try simp only [Exit.inBlock, Exit.then])
  refine bodyPost_ret (v := .agg #[.string a, .string b, .string c, .string d, .string e]) (by simp [results, Try.results40, go_sem]) rfl ⟨rfl, ?_⟩
  exact ((Below.refl _ _).alloc (Nat.le_refl _) _).alloc (by rw [World.size_alloc]; omega) _
end Go.Proofs.Ytidlkkhmmgkicaa.tl
