/- An argument that is flat (integers, strings, bools, structs and arrays of these, by value): its cells, one by one; that it reads the same in every world. -/
import Derived.OpenShut
import Derived.Lib.SmallJoins
namespace Go.Proofs.Ytkhajafjieofhaa.flt
open Go
set_option linter.unusedVariables false
/-- What a cell is. -/
inductive K where
  | i (k : IntKind)
  | s
  | b
def Fit : K → Value → Prop
  | .i k, .int k' z => k' = k ∧ (Lit.int k z).wf = true
  | .s, .string s => s.size ≤ maxLen
  | .b, .bool _ => True
  | _, _ => False
def Fits : List K → List Value → Prop
  | [], [] => True
  | k :: ks, v :: vs => Fit k v ∧ Fits ks vs
  | _, _ => False
theorem Fits.app : ∀ {a b : List K} {x y : List Value}, Fits a x → Fits b y → Fits (a ++ b) (x ++ y)
  | [], b, [], y, _, h => h
  | k :: a, b, v :: x, y, h, h2 => ⟨h.1, Fits.app h.2 h2⟩
  | [], _, _ :: _, _, h, _ => by cases h
  | _ :: _, _, [], _, h, _ => by cases h
theorem Fits.len : ∀ {a : List K} {x : List Value}, Fits a x → x.length = a.length
  | [], [], _ => rfl
  | k :: a, v :: x, h => by simp [Fits.len h.2]
  | [], _ :: _, h => by cases h
  | _ :: _, [], h => by cases h
theorem fit_s {v : Value} (h : Fit .s v) : ∃ s, v = .string s ∧ s.size ≤ maxLen := by cases v <;> first | exact ⟨_, rfl, h⟩ | exact h.elim
theorem fit_i {k : IntKind} {v : Value} (h : Fit (.i k) v) : ∃ z, v = .int k z ∧ (Lit.int k z).wf = true := by cases v <;> first | (obtain ⟨rfl, h⟩ := h; exact ⟨_, rfl, h⟩) | exact h.elim
theorem fit_b {v : Value} (h : Fit .b v) : ∃ b, v = .bool b := by cases v <;> first | exact ⟨_, rfl⟩ | exact h.elim
theorem fits_cons {k : K} {ks : List K} {l : List Value} (h : Fits (k :: ks) l) : ∃ v vs, l = v :: vs ∧ Fit k v ∧ Fits ks vs := by
  cases l with
  | nil => exact h.elim
  | cons v vs => exact ⟨v, vs, rfl, h.1, h.2⟩
theorem fits_nil {l : List Value} (h : Fits [] l) : l = [] := by
  cases l with
  | nil => rfl
  | cons v vs => exact h.elim
/-- The cells' kinds, part by part, with each part's number of cells asked; c: where the next part must begin. -/
def kjoin (f : TypeId → Option (List K)) (P : Program) : Nat → List (TypeId × Nat) → Option (List K)
  | _, [] => some []
  | c, (t, o) :: ts => match f t with
    | some ks => if o = c ∧ ks.length = P.cellsOf t then (match kjoin f P (c + P.cellsOf t) ts with
      | some r => some (ks ++ r)
      | none => none) else none
    | none => none
def kinds (P : Program) : Nat → TypeId → Option (List K)
  | 0, _ => none
  | n + 1, t => match P.underlying t with
    | some (.int k) => some [.i k]
    | some .string => some [.s]
    | some .bool => some [.b]
    | some (.array m e) => (match kjoin (kinds P n) P 0 ((List.range m).map fun i => (e, i * P.cellsOf e)) with
      | some ks => if ks.length = P.cellsOf t then some ks else none
      | none => none)
    | some (.struct fs) => (match kjoin (kinds P n) P 0 (fs.toList.map fun f => (f.type, f.offset)) with
      | some ks => if ks.length = P.cellsOf t then some ks else none
      | none => none)
    | _ => none
section
variable {H : Type} {enc : TypeId × Value → H} {P : Program} {w : World} {sp : Nat → Bool} {base : Nat} {held : Bool}
theorem kjoin_each {f : TypeId → Option (List K)} : ∀ (ts : List (TypeId × Nat)) (c : Nat) (r : List K), kjoin f P c ts = some r → ∀ x ∈ ts, ∃ ks, f x.1 = some ks
  | [], _, _, _, _, h => by cases h
  | (t, o) :: ts, c, r, h, x, hx => by
    simp only [kjoin] at h
    cases hv : f t with
    | none => rw [hv] at h; cases h
    | some ks =>
      rw [hv] at h
      simp only at h
      split at h
      · cases hr : kjoin f P (c + P.cellsOf t) ts with
        | none => rw [hr] at h; cases h
        | some r' =>
          rcases List.mem_cons.1 hx with rfl | hx
          · exact ⟨ks, hv⟩
          · exact kjoin_each ts _ r' hr x hx
      · cases h
theorem kjoin_fits {f : TypeId → Option (List K)} {cs : List Value} {good : TypeId → List Value → Prop} (hf : ∀ t ks (c : List Value), f t = some ks → good t c → Fits ks c) :
    ∀ (ts : List (TypeId × Nat)) (c : Nat) (r : List K), kjoin f P c ts = some r → (∀ (i : Nat) t o, ts[i]? = some (t, o) → good t ((cs.drop o).take (P.cellsOf t))) → Fits r ((cs.drop c).take r.length)
  | [], c, r, h, _ => by
    simp only [kjoin, Option.some.injEq] at h
    subst h
    simp [Fits]
  | (t, o) :: ts, c, r, h, ha => by
    simp only [kjoin] at h
    cases hv : f t with
    | none => rw [hv] at h; cases h
    | some ks =>
      rw [hv] at h
      simp only at h
      split at h
      · rename_i hc
        obtain ⟨rfl, hl⟩ := hc
        cases hr : kjoin f P (o + P.cellsOf t) ts with
        | none => rw [hr] at h; cases h
        | some r' =>
          rw [hr] at h
          simp only [Option.some.injEq] at h
          subst h
          have h1 := hf t ks _ hv (ha 0 t o rfl)
          have h2 := kjoin_fits hf ts _ r' hr (fun i t' o' hi => ha (i + 1) t' o' (by simpa using hi))
          rw [List.length_append, List.take_add, hl, List.drop_drop]
          exact h1.app h2
      · cases h
theorem fits_of : ∀ (n : Nat) (fuel : Nat) (t : TypeId) (cs : List Value) (x : DataW H × List MemPlace) (ks : List K), kinds P n t = some ks → DataW.trod enc P w base sp held fuel t cs = some x → Fits ks cs
  | 0, _, _, _, _, _, h, _ => by simp [kinds] at h
  | n + 1, fuel, t, cs, x, ks, h, ht => by
    unfold kinds at h
    split at h
    · rename_i k hu
      obtain ⟨z, rfl, _, hw⟩ := DataW.trod_int hu ht
      simp only [Option.some.injEq] at h
      subst h
      exact ⟨⟨rfl, hw⟩, trivial⟩
    · rename_i hu
      obtain ⟨s, rfl, _, hs⟩ := DataW.trod_string hu ht
      simp only [Option.some.injEq] at h
      subst h
      exact ⟨hs, trivial⟩
    · rename_i hu
      simp only [Option.some.injEq] at h
      subst h
      cases fuel with
      | zero => simp [DataW.trod] at ht
      | succ fuel =>
        unfold DataW.trod at ht
        rw [hu] at ht
        split at ht <;> simp_all [Fits, Fit]
    · rename_i m e hu
      cases hj : kjoin (kinds P n) P 0 ((List.range m).map fun i => (e, i * P.cellsOf e)) with
      | none => rw [hj] at h; cases h
      | some r =>
        rw [hj] at h
        simp only at h
        split at h
        · rename_i hl
          simp only [Option.some.injEq] at h
          subst h
          obtain ⟨xs, m', rfl, _, hcl, hxl, hall⟩ := DataW.trod_array hu ht
          have h1 := kjoin_fits (cs := cs) (good := fun t' c => ∃ f' y, DataW.trod enc P w base sp held f' t' c = some y) (fun t' ks c hk ⟨f', y, hg⟩ => fits_of n f' t' c y ks hk hg) _ _ _ hj (fun i t' o hi => by
            have hi' : i < m := by
              rcases Nat.lt_or_ge i m with h | h
              · exact h
              · rw [List.getElem?_eq_none (by simpa using h)] at hi; cases hi
            simp only [List.getElem?_map, List.getElem?_range hi', Option.map_some, Option.some.injEq, Prod.mk.injEq] at hi
            obtain ⟨rfl, rfl⟩ := hi
            have h2 : xs[i]? = some xs[i] := List.getElem?_eq_getElem (by omega)
            exact ⟨m', _, (hall i hi').trans h2⟩)
          rw [List.drop_zero, List.take_of_length_le (by omega)] at h1
          exact h1
        · cases h
    · rename_i fs hu
      cases hj : kjoin (kinds P n) P 0 (fs.toList.map fun f => (f.type, f.offset)) with
      | none => rw [hj] at h; cases h
      | some r =>
        rw [hj] at h
        simp only at h
        split at h
        · rename_i hl
          simp only [Option.some.injEq] at h
          subst h
          obtain ⟨xs, m', rfl, _, hcl, hxl, hall⟩ := DataW.trod_struct hu ht
          have h1 := kjoin_fits (cs := cs) (good := fun t' c => ∃ f' y, DataW.trod enc P w base sp held f' t' c = some y) (fun t' ks c hk ⟨f', y, hg⟩ => fits_of n f' t' c y ks hk hg) _ _ _ hj (fun i t' o hi => by
            simp only [List.getElem?_map, Option.map_eq_some_iff] at hi
            obtain ⟨f, hf, he⟩ := hi
            simp only [Prod.mk.injEq] at he
            obtain ⟨rfl, rfl⟩ := he
            have hf' : fs[i]? = some f := by simpa using hf
            have hi' : i < fs.size := by
              rcases Nat.lt_or_ge i fs.size with h | h
              · exact h
              · rw [Array.getElem?_eq_none h] at hf'; cases hf'
            have h2 : xs[i]? = some xs[i] := List.getElem?_eq_getElem (by omega)
            exact ⟨m', _, (hall i f hf').trans h2⟩)
          rw [List.drop_zero, List.take_of_length_le (by omega)] at h1
          exact h1
        · cases h
    · cases h
theorem mapM_same {α β : Type} {f g : α → Option β} : ∀ (l : List α), (∀ x ∈ l, f x = g x) → l.mapM f = l.mapM g
  | [], _ => rfl
  | a :: l, h => by
    simp only [List.mapM_cons]
    rw [h a List.mem_cons_self, mapM_same l (fun x hx => h x (List.mem_cons_of_mem _ hx))]
/-- It reads the same in every world. -/
theorem same {w' : World} {sp' : Nat → Bool} {base' : Nat} {held' : Bool} : ∀ (n : Nat) (fuel : Nat) (t : TypeId) (cs : List Value) (ks : List K), kinds P n t = some ks → DataW.trod enc P w base sp held fuel t cs = DataW.trod enc P w' base' sp' held' fuel t cs
  | 0, _, _, _, _, h => by simp [kinds] at h
  | n + 1, 0, t, cs, ks, h => by simp [DataW.trod]
  | n + 1, fuel + 1, t, cs, ks, h => by
    unfold kinds at h
    split at h
    · rename_i k hu
      unfold DataW.trod
      rw [hu]
      rcases cs with _ | ⟨v, _ | ⟨u, l⟩⟩
      · rfl
      · cases v <;> rfl
      · cases v <;> rfl
    · rename_i hu
      unfold DataW.trod
      rw [hu]
      rcases cs with _ | ⟨v, _ | ⟨u, l⟩⟩
      · rfl
      · cases v <;> rfl
      · cases v <;> rfl
    · rename_i hu
      unfold DataW.trod
      rw [hu]
      rcases cs with _ | ⟨v, _ | ⟨u, l⟩⟩
      · rfl
      · cases v <;> rfl
      · cases v <;> rfl
    · rename_i m e hu
      unfold DataW.trod
      rw [hu]
      simp only
      cases hj : kjoin (kinds P n) P 0 ((List.range m).map fun i => (e, i * P.cellsOf e)) with
      | none => rw [hj] at h; cases h
      | some r =>
        rw [mapM_same (f := fun i => DataW.trod enc P w base sp held fuel e ((cs.drop (i * P.cellsOf e)).take (P.cellsOf e))) (g := fun i => DataW.trod enc P w' base' sp' held' fuel e ((cs.drop (i * P.cellsOf e)).take (P.cellsOf e))) _ (fun i hi => by
          obtain ⟨ks', hk⟩ := kjoin_each _ _ _ hj (e, i * P.cellsOf e) (List.mem_map.2 ⟨i, hi, rfl⟩)
          exact same n fuel e _ ks' hk)]
    · rename_i fs hu
      unfold DataW.trod
      rw [hu]
      simp only
      cases hj : kjoin (kinds P n) P 0 (fs.toList.map fun f => (f.type, f.offset)) with
      | none => rw [hj] at h; cases h
      | some r =>
        rw [mapM_same (f := fun (f : Field) => DataW.trod enc P w base sp held fuel f.type ((cs.drop f.offset).take (P.cellsOf f.type))) (g := fun (f : Field) => DataW.trod enc P w' base' sp' held' fuel f.type ((cs.drop f.offset).take (P.cellsOf f.type))) _ (fun f hf => by
          obtain ⟨ks', hk⟩ := kjoin_each _ _ _ hj (f.type, f.offset) (List.mem_map.2 ⟨f, hf, rfl⟩)
          exact same n fuel f.type _ ks' hk)]
    · cases h
/-- A flat argument by value: its cells; and how it is shut again. -/
theorem open_flat {r : Reach} {b0 : Nat} {t : TypeId} {fs : Array Field} {v : Value} {d : DataW H} {p : List MemPlace} {ks : List K} (n : Nat) (hs : P.underlying t = some (.struct fs)) (hk : kinds P n t = some ks)
    (hv : Value.okWide P w r b0 t v) (h : DataW.Trod enc P w base sp held t v d p) : ∃ l : List Value, v = .agg l.toArray ∧ Fits ks l ∧ ∀ (w' : World) base' sp' held', DataW.Trod enc P w' base' sp' held' t (.agg l.toArray) d p := by
  obtain ⟨cs, rfl, _⟩ := WideShapes.okWide_struct hs hv
  obtain ⟨fuel, hf⟩ := h
  refine ⟨cs.toList, by simp, ?_, fun w' base' sp' held' => ⟨fuel, ?_⟩⟩
  · have := fits_of n fuel t _ _ ks hk hf
    simpa [Value.cells] using this
  · rw [Array.toArray_toList, ← same (w := w) (base := base) (sp := sp) (held := held) n fuel t _ ks hk]
    exact hf
end
end Go.Proofs.Ytkhajafjieofhaa.flt
