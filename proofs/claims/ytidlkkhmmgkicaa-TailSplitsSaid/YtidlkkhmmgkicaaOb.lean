/- A drawn region whose last operation writes what its loads read. -/
import Derived.Test.YtidlkkhmmgkicaaChecked
import Derived.WalkSmall
import Derived.OrdersHeld
import Derived.Deep.RegionHeld
import Derived.Deep.RegionHeld3
namespace Go.Proofs.Ytidlkkhmmgkicaa.ob
open Go
set_option linter.unusedVariables false
section
variable {P : Program} {ops : Array Oper} {Q : Exit → Act → World → Prop} {md : Region.Mode} {S : World → Prop} {k : Nat}
/-- In whatever order; S holds behind each operation but number k. -/
def OnBut (P : Program) (md : Region.Mode) (ops : Array Oper) (Q : Exit → Act → World → Prop) (S : World → Prop) (k : Nat) : Nat → Array Bool → Act → World → Prop
  | 0, l, a, w => Region.ready md ops l = [] ∧ Q .normal a w
  | n + 1, l, a, w => (Region.ready md ops l = [] → Q .normal a w) ∧ ∀ j ∈ Region.ready md ops l, wpOp P ops Q j (fun b v => (j ≠ k → S v) ∧ OnBut P md ops Q S k n (l.setIfInBounds j true) b v) a w
theorem OnBut.any : ∀ (n : Nat) (l : Array Bool) (a : Act) (w : World), OnBut P md ops Q S k n l a w → wpAny P md ops Q n l a w
  | 0, _, _, _, h => h
  | n + 1, _, _, _, h => ⟨h.1, fun j hj => wpOp_mono (fun b v hv => OnBut.any n _ b v hv.2) (h.2 j hj)⟩
/-- Number k waits for number i. -/
def waitsFor (md : Region.Mode) (ops : Array Oper) (k i : Nat) : Bool := match ops[k]? with
  | some o => o.after.toList.any fun e => Region.binds md e && e.on == i
  | none => false
theorem waits_not {i : Nat} {l : Array Bool} (hw : waitsFor md ops k i = true) (hl : l.getD i true = false) : k ∉ Region.ready md ops l := fun h => by
  obtain ⟨_, o, ho, ha⟩ := mem_ready.1 h
  unfold waitsFor at hw
  rw [ho] at hw
  simp only [List.any_eq_true, Bool.and_eq_true, beq_iff_eq] at hw
  obtain ⟨e, he, hb, rfl⟩ := hw
  have he := Array.mem_toList_iff.1 he
  have h1 := ha e he hb
  rcases Nat.lt_or_ge e.on l.size with hs | hs
  · simp [hs] at h1 hl; rw [hl] at h1; cases h1
  · simp [Array.getElem?_eq_none hs] at h1
theorem OnBut.load {i : Nat} {oi : Oper} {v : Value} (hi : ops[i]? = some oi) (hs : Region.noSelect ops = true) (hw : waitsFor md ops k i = true)
    (hQ : ∀ c a w, Q (.panic c) (a.put oi.dst v) w → Q (.panic c) a w) : ∀ (n : Nat) (l : Array Bool) (a : Act) (w : World),
      (∀ j oj, ops[j]? = some oj → j ≠ i → l.getD j true = false → (∀ e ∈ oj.after, Region.binds md e = true → e.on ≠ i) → oi.apart ops oj = true) →
      i ∈ Region.ready md ops l → YieldsIf P ops S oi v a → S w → OnBut P md ops Q S k n (l.setIfInBounds i true) (a.put oi.dst v) w → OnBut P md ops Q S k (n + 1) l a w := by
  have hsel := Region.noSelect_spec hs
  intro n
  induction n with
  | zero =>
    intro l a w _ hr hy hS H
    refine ⟨fun h => (by rw [h] at hr; cases hr), fun j hj => ?_⟩
    by_cases e : j = i
    · subst e; exact hy.wpOp hi hS ⟨fun _ => hS, H⟩
    · have := ready_mono hj e
      rw [H.1] at this
      cases this
  | succ n ih =>
    intro l a w hfree hr hy hS H
    refine ⟨fun h => (by rw [h] at hr; cases hr), fun j hj => ?_⟩
    by_cases e : j = i
    · subst e; exact hy.wpOp hi hS ⟨fun _ => hS, H⟩
    have hli := (mem_ready.1 hr).1
    have hjk : j ≠ k := fun hjk => by subst hjk; exact waits_not hw hli hj
    obtain ⟨hlj, oj, hoj, hall⟩ := mem_ready.1 hj
    have hnot : ∀ e ∈ oj.after, Region.binds md e = true → e.on ≠ i := fun e he hb heq => by
      have h1 := hall e he hb
      rw [heq] at h1
      rcases Nat.lt_or_ge i l.size with hs | hs
      · simp [hs] at hli h1; rw [hli] at h1; cases h1
      · simp [Array.getElem?_eq_none hs] at h1
    refine wpOp_mono (fun b v' h3 => ?_) (wpOp_putIf hoj (hfree j oj hoj e hlj hnot) (fun cs b => hsel i oi cs b hi) (fun cs b => hsel j oj cs b hoj) hQ hy (H.2 j (ready_mono hj e)))
    have hS' := h3.2.1 hjk
    refine ⟨fun _ => hS', ih _ b v' (fun m om hom hmi hun hno => hfree m om hom hmi ?_ hno) (ready_mono hr (Ne.symm e)) h3.1 hS' ?_⟩
    · by_cases hjm : j = m
      · subst hjm; exact hlj
      · rwa [getD_set_ne true hjm] at hun
    · rw [Array.setIfInBounds_comm _ _ e]
      exact h3.2.2
theorem OnBut.take {i : Nat} {oi : Oper} {v : Value} {n : Nat} {l : Array Bool} {a : Act} {w : World} (hi : ops[i]? = some oi)
    (hs : Region.noSelect ops = true) (hf : Region.free md ops l i = true) (hr : (Region.ready md ops l).contains i = true) (hw : waitsFor md ops k i = true)
    (hQ : ∀ c a w, Q (.panic c) (a.put oi.dst v) w → Q (.panic c) a w) (hy : YieldsIf P ops S oi v a) (hS : S w)
    (h : OnBut P md ops Q S k n (l.setIfInBounds i true) (a.put oi.dst v) w) : OnBut P md ops Q S k (n + 1) l a w :=
  OnBut.load hi hs hw hQ n l a w (Region.free_spec hi hf) (by simpa using hr) hy hS h
/-- One alone may come up. -/
theorem OnBut.one {i : Nat} {o : Oper} {n : Nat} {l : Array Bool} {a : Act} {w : World} (hr : Region.ready md ops l = [i]) (ho : ops[i]? = some o)
    (h : ∀ K : Act → World → Prop, Shut (∀ a w, (i ≠ k → S w) → ((i ≠ k → S w) → OnBut P md ops Q S k n (l.setIfInBounds i true) a w) → K a w) → if Region.wanted o (yielded ops a.tmps) = true then Oper.wp P o a w K Q else K (a.put o.dst undef) w) :
    OnBut P md ops Q S k (n + 1) l a w :=
  ⟨fun h0 => (by rw [hr] at h0; cases h0), fun j hj => by
    rw [hr, List.mem_singleton] at hj
    subst hj
    exact wpOp_step ho fun K hK => h K fun a w h1 h2 => hK a w ⟨h1, h2 h1⟩⟩
theorem OnBut.done {n : Nat} {l : Array Bool} {a : Act} {w : World} (hr : Region.ready md ops l = []) (h : Q .normal a w) : OnBut P md ops Q S k n l a w := by
  cases n with
  | zero => exact ⟨hr, h⟩
  | succ n => exact ⟨fun _ => h, by rw [hr]; simp⟩
theorem OnBut.start {id : Nat} {a : Act} {w : World} (hm : P.follows .mixedOrders = true) (S : World → Prop) (k : Nat) (h : OnBut P .any ops Q S k ops.size (Array.replicate ops.size false) a w.drew) : (Code.region id ops true).wp P Q a w :=
  wp_region_any hm (OnBut.any _ _ _ _ h)
end
end Go.Proofs.Ytidlkkhmmgkicaa.ob
