/- Layer 13 (frame), the mathematics: what is cut off isn't read; sizes. -/
import Derived.Test.YtkhajafjieofhaaFr0
namespace Go.Proofs.Ytkhajafjieofhaa.fr
open Go.Proofs.Ytkhajafjieofhaa.oct (num num7 bigL bigL_len num_bigL num7_bigL bigL_lt)
open Go.Proofs.Ytkhajafjieofhaa.un (putL drpL drp_put)
set_option linter.unusedVariables false
theorem take_take' {α : Type} (l : List α) (n m : Nat) (h : m ≤ n) : (l.take n).take m = l.take m := by rw [List.take_take, Nat.min_eq_left h]
theorem mid_take {α : Type} (l : List α) (n k m : Nat) (h : k + m ≤ n) : ((l.take n).drop k).take m = (l.drop k).take m := by
  rw [List.drop_take, List.take_take, Nat.min_eq_left (by omega)]
theorem getD_take {α : Type} (l : List α) (n k : Nat) (d : α) (h : k < n) : (l.take n).getD k d = l.getD k d := by
  rw [List.getD_eq_getElem?_getD, List.getD_eq_getElem?_getD, List.getElem?_take, if_pos h]
/-- What is read whole isn't read if it is cut off. -/
theorem pa_cut (v : Int) (l : List UInt8) (f : Fr) (h : pa v false l = .ok f l.length) (n : Nat) (hn : n < l.length) : pa v false (l.take n) = if n = 0 then .no else .bad n := by
  have hl : (l.take n).length = n := by rw [List.length_take]; omega
  by_cases h0 : n = 0
  · subst h0; rw [if_pos rfl]; unfold pa; rw [if_pos (.inl hl)]
  rw [if_neg h0]
  unfold pa at h ⊢
  by_cases c1 : l.length = 0 ∨ (l.getD 0 0).toNat = 0 ∨ ltrs v = 0
  · rw [if_pos c1] at h; exact absurd h (by simp)
  have hv := v_of (v := v) (fun e => c1 (.inr (.inr e)))
  rw [if_neg c1] at h
  have c2 : ¬ ((l.take n).length = 0 ∨ ((l.take n).getD 0 0).toNat = 0 ∨ ltrs v = 0) := by
    rw [hl, getD_take _ _ _ _ (by omega)]; omega
  rw [if_neg c2, hl]
  by_cases c3 : n < ltrs v
  · rw [if_pos c3]
  rw [if_neg c3, take_take' _ _ _ (by omega)]
  by_cases c4 : l.length < ltrs v
  · omega
  rw [if_neg c4] at h
  cases hno : noL (l.take (ltrs v)) with
  | some i => rw [hno] at h; exact absurd h (by simp)
  | none =>
    rw [hno] at h
    simp only at h ⊢
    have bd : ∀ hh m st fm, (paBd v l hh m st fm = .ok f l.length) → hh ≤ n → paBd v (l.take n) hh m st fm = .bad n := by
      intro hh m st fm hp hhn
      have hlen : l.length = hh + m := by
        unfold paBd at hp
        by_cases c : l.length < hh + m
        · rw [if_pos c] at hp; exact absurd hp (by simp)
        rw [if_neg c] at hp
        unfold paCt at hp
        have ms : ∀ a g d, paMs v (l.take (ltrs v)) (hh + m) a st fm g d = .ok f l.length → l.length = hh + m := by
          intro a g d hq
          unfold paMs at hq
          split at hq
          · split at hq
            · exact absurd hq (by simp)
            · split at hq
              · exact absurd hq (by simp)
              · split at hq
                · injection hq with _ hq; omega
                · exact absurd hq (by simp)
          · injection hq with _ hq; omega
        split at hp
        · injection hp with _ hp; omega
        · split at hp
          · split at hp
            · exact absurd hp (by simp)
            · exact ms _ _ _ hp
          · exact ms _ _ _ hp
      unfold paBd
      rw [hl, if_pos (by omega)]
    have fl : ∀ hh m, (paFl v false l hh m = .ok f l.length) → hh ≤ n → paFl v false (l.take n) hh m = .bad n := by
      intro hh m hp hhn
      unfold paFl at hp ⊢
      by_cases c : 2 < v
      · rw [if_pos c] at hp ⊢
        by_cases d : l.length < hh + 2
        · rw [if_pos d] at hp; exact absurd hp (by simp)
        rw [if_neg d] at hp
        rw [hl]
        by_cases e : n < hh + 2
        · rw [if_pos e]
        rw [if_neg e, getD_take _ _ _ _ (by omega), getD_take _ _ _ _ (by omega)]
        exact bd _ _ _ _ hp (by omega)
      · rw [if_neg c] at hp ⊢
        exact bd _ _ _ _ hp hhn
    unfold paSz at h ⊢
    rw [hl]
    rcases hv with rfl | rfl | rfl
    · rw [if_neg (by decide), if_neg (by decide)] at h ⊢
      by_cases d : n < 6
      · rw [if_pos d]
      rw [if_neg (by omega)] at h
      rw [if_neg d, mid_take _ _ _ _ (by omega)]
      exact fl _ _ h (by omega)
    · rw [if_neg (by decide), if_pos rfl] at h ⊢
      by_cases d : n < 8
      · rw [if_pos d]
      rw [if_neg (by omega)] at h
      rw [if_neg d, mid_take _ _ _ _ (by omega)]
      exact fl _ _ h (by omega)
    · rw [if_pos rfl] at h ⊢
      by_cases d : n < 8
      · rw [if_pos d]
      rw [if_neg (by omega)] at h
      rw [if_neg d, mid_take _ _ _ _ (by omega)]
      cases hh : hi7 ((l.drop 4).take 4) with
      | some j => rw [hh] at h; exact absurd h (by simp)
      | none =>
        rw [hh] at h
        simp only at h ⊢
        exact fl _ _ h (by omega)
theorem cut_pr (v : Int) (f : Fr) (hk : okF v f = true) (hb : f.bd.length ≤ 5000000) (n : Nat) (hn : n < (pr v f).length) : pa v false ((pr v f).take n) = if n = 0 then .no else .bad n :=
  pa_cut v _ f (by have := pa_pr v f [] hk hb; rwa [List.append_nil] at this) n hn
end Go.Proofs.Ytkhajafjieofhaa.fr
