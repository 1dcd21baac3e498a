/- What the pairs of pieces are: sorted, their codes and signs in their ranges. -/
import Derived.Test.YtmpddibdggdngaaDoorTb6
namespace Go.Proofs.YtmpddibdggdngaaDoor.tb
open Go.RowKit Go.Lib
set_option linter.unusedVariables false
/-- Codes and signs in their ranges. -/
def Rng (l : List (Int × Int)) : Prop := ∀ q ∈ l, 0 ≤ q.1 ∧ q.1 ≤ 1048575 ∧ validRune q.2 = true
theorem vr_iff (p : Int) : validRune p = true ↔ (0 ≤ p ∧ p < 55296) ∨ (57343 < p ∧ p ≤ 1114111) := by unfold validRune; simp
theorem vr_not (p : Int) : validRune p = false ↔ ¬ ((0 ≤ p ∧ p < 55296) ∨ (57343 < p ∧ p ≤ 1114111)) := by
  rw [← vr_iff]; simp
theorem lsp_mem : ∀ (zs : List Int) (f : Int) (q : Int × Int), q ∈ lsp f zs → ∃ i : Nat, i < zs.length ∧ q.1 = f + i ∧ q.2 ∈ zs
  | [], _, _, h => by cases h
  | z :: zs, f, q, h => by
    rcases List.mem_cons.1 h with rfl | h
    · exact ⟨0, by simp, by simp, by simp⟩
    · obtain ⟨i, h1, h2, h3⟩ := lsp_mem zs (f + 1) q h
      exact ⟨i + 1, by simp; omega, by rw [h2]; push_cast; omega, List.mem_cons_of_mem _ h3⟩
theorem sqp_mem (f t : Int) : ∀ (n : Nat) (q : Int × Int), q ∈ sqp f t n → ∃ i : Nat, i < n ∧ q = (f + i, t + i)
  | 0, _, h => by cases h
  | n + 1, q, h => by
    rcases List.mem_append.1 h with h | h
    · obtain ⟨i, h1, h2⟩ := sqp_mem f t n q h
      exact ⟨i, by omega, h2⟩
    · exact ⟨n, by omega, by simpa using h⟩
theorem lsp_srt : ∀ (zs : List Int) (f : Int), Srt (lsp f zs)
  | [], _ => Srt.nil
  | z :: zs, f => List.pairwise_cons.2 ⟨fun q h => by
      obtain ⟨i, _, h2, _⟩ := lsp_mem zs (f + 1) q h
      show f < q.1
      omega, lsp_srt zs (f + 1)⟩
theorem sqp_srt (f t : Int) : ∀ n : Nat, Srt (sqp f t n)
  | 0 => Srt.nil
  | n + 1 => List.pairwise_append.2 ⟨sqp_srt f t n, by simp, fun a ha b hb => by
      obtain ⟨i, h1, rfl⟩ := sqp_mem f t n a ha
      simp at hb
      subst hb
      show f + i < f + n
      omega⟩
theorem srt_nodup {l : List (Int × Int)} (h : Srt l) : (l.map (·.1)).Nodup := by
  unfold List.Nodup
  rw [List.pairwise_map]
  exact h.imp fun h => by omega
theorem piece_good {f t c : Int} {s : ByteArray} {l : List (Int × Int)} (h : piece f t c s = some l) : Srt l ∧ Rng l := by
  unfold piece at h
  split at h
  · split at h
    · cases h
    · rename_i h1
      split at h
      · cases h
      · rename_i h2
        cases h
        refine ⟨sqp_srt _ _ _, fun q hq => ?_⟩
        obtain ⟨i, hi, rfl⟩ := sqp_mem _ _ _ _ hq
        simp only [vr_not, vr_iff] at h1 h2 ⊢
        omega
  · split at h
    · cases h
    · rename_i h1
      cases h
      refine ⟨lsp_srt _ _, fun q hq => ?_⟩
      obtain ⟨i, hi, h2, h3⟩ := lsp_mem _ _ _ hq
      have hv := List.all_eq_true.1 (pt.zsOf_valid s) _ h3
      refine ⟨?_, ?_, hv⟩ <;> omega
theorem join_good {l more r : List (Int × Int)} (h : join l more = some r) (hl : Srt l) (hm : Srt more) (h1 : Rng l) (h2 : Rng more) : Srt r ∧ Rng r := by
  unfold join at h
  split at h
  · rename_i hall
    cases h
    have hn : ∀ q ∈ more, lk l q.1 = none := fun q hq => (find_neg l q.1).1 (by simpa using List.all_eq_true.1 hall q hq)
    obtain ⟨a, b⟩ := puts_spec more l hl (srt_nodup hm) hn
    exact ⟨a, fun q hq => ((b q).1 hq).elim (h1 q) (h2 q)⟩
  · cases h
theorem mk_good : ∀ (ps : List Pce) (i : Nat) (all r : List (Int × Int)), Srt all → Rng all → (mk i all ps).1 = some r → Srt r ∧ Rng r
  | [], i, all, r, h1, h2, h => by cases h; exact ⟨h1, h2⟩
  | p :: ps, i, all, r, h1, h2, h => by
    have e : mk i all (p :: ps) = (match piece p.f p.t p.c p.s with | none => (none, (i : Int)) | some more => match join all more with | none => (none, (i : Int)) | some r => mk (i + 1) r ps) := rfl
    rw [e] at h
    cases hp : piece p.f p.t p.c p.s with
    | none => rw [hp] at h; cases h
    | some more =>
      rw [hp] at h
      simp only at h
      obtain ⟨g1, g2⟩ := piece_good hp
      cases hj : join all more with
      | none => rw [hj] at h; cases h
      | some r2 =>
        rw [hj] at h
        simp only at h
        obtain ⟨g3, g4⟩ := join_good hj h1 g1 h2 g2
        exact mk_good ps (i + 1) r2 r g3 g4 h
theorem made_good {l : List Pce} {r : List (Int × Int)} (h : (made l).1 = some r) : Srt r ∧ Rng r := mk_good l 0 [] r Srt.nil (fun _ h => by cases h) h
theorem mk_len : ∀ (ps : List Pce) (i : Nat) (all r : List (Int × Int)), ps.all fine = true → (mk i all ps).1 = some r → r.length ≤ all.length + 300 * ps.length
  | [], i, all, r, _, h => by cases h; simp
  | p :: ps, i, all, r, hf, h => by
    have e : mk i all (p :: ps) = (match piece p.f p.t p.c p.s with | none => (none, (i : Int)) | some more => match join all more with | none => (none, (i : Int)) | some r => mk (i + 1) r ps) := rfl
    rw [e] at h
    rw [List.all_cons, Bool.and_eq_true] at hf
    cases hp : piece p.f p.t p.c p.s with
    | none => rw [hp] at h; cases h
    | some more =>
      rw [hp] at h
      simp only at h
      have g1 := piece_len hp hf.1
      cases hj : join all more with
      | none => rw [hj] at h; cases h
      | some r2 =>
        rw [hj] at h
        simp only at h
        have g2 := (join_len hj).2
        have := mk_len ps (i + 1) r2 r hf.2 h
        simp only [List.length_cons]
        omega
theorem made_len {l : List Pce} {r : List (Int × Int)} (hl : light l = true) (h : (made l).1 = some r) : r.length ≤ 3600 := by
  unfold light at hl
  rw [Bool.and_eq_true] at hl
  have h1 := of_decide_eq_true hl.1
  have := mk_len l 0 [] r hl.2 h
  simp only [List.length_nil] at this
  omega
theorem rev_spec {r : List (Int × Int)} (hs : Srt r) {x p : Int} (h : (x, p) ∈ r) : rev r p ≤ x ∧ (rev r p, p) ∈ r := by
  induction r with
  | nil => cases h
  | cons q l ih =>
    unfold rev
    by_cases hq : q.2 = p
    · rw [if_pos hq]
      refine ⟨?_, List.mem_cons.2 (.inl (by rw [← hq]))⟩
      rcases List.mem_cons.1 h with h | h
      · rw [← h]; exact Int.le_refl _
      · exact Int.le_of_lt (hs.head _ h)
    · rw [if_neg hq]
      rcases List.mem_cons.1 h with h | h
      · rw [← h] at hq; exact absurd rfl hq
      · obtain ⟨h1, h2⟩ := ih hs.tail h
        exact ⟨h1, List.mem_cons_of_mem _ h2⟩
end Go.Proofs.YtmpddibdggdngaaDoor.tb
