/- A package-level variable that is listed as plain data (integers, strings, bools, structs and arrays of these): its cells. -/
import Derived.Lib.LaidU8
import Derived.OpenShut
namespace Go.Proofs.YtiigknimfibdpaaGreatDoor.flat
open Go
set_option linter.unusedVariables false
/-- The cells of data, part by part, with the part's number of cells asked; c: where the next part must begin. -/
def join (f : TypeId → DataW Unit → Option (List Value)) (P : Program) : Nat → List (TypeId × Nat) → List (DataW Unit) → Option (List Value)
  | _, [], [] => some []
  | c, (t, o) :: ts, d :: ds => match f t d with
    | some vs => if o = c ∧ vs.length = P.cellsOf t then (match join f P (c + P.cellsOf t) ts ds with
      | some r => some (vs ++ r)
      | none => none) else none
    | none => none
  | _, _, _ => none
def flat (P : Program) : Nat → TypeId → DataW Unit → Option (List Value)
  | 0, _, _ => none
  | n + 1, t, d => match P.underlying t, d with
    | some (.int k), .lit (.int k' z) => if k = k' then some [.int k z] else none
    | some .string, .lit (.string l) => some [.string ⟨l.toArray⟩]
    | some .bool, .lit (.bool b) => some [.bool b]
    | some (.array m e), .agg ds => if ds.length = m then
        (match join (flat P n) P 0 ((List.range m).map fun i => (e, i * P.cellsOf e)) ds with
          | some vs => if vs.length = P.cellsOf t then some vs else none
          | none => none) else none
    | some (.struct fs), .agg ds => match join (flat P n) P 0 (fs.toList.map fun f => (f.type, f.offset)) ds with
        | some vs => if vs.length = P.cellsOf t then some vs else none
        | none => none
    | _, _ => none
section
variable {P : Program} {w : World} {sp : Nat → Bool} {base : Nat} {held : Bool}
theorem join_is {f : TypeId → DataW Unit → Option (List Value)} {cs : List Value} (hf : ∀ (fuel : Nat) t (c : List Value) d p vs, DataW.trod (fun _ => ()) P w base sp held fuel t c = some (d, p) → f t d = some vs → c = vs) :
    ∀ (ts : List (TypeId × Nat)) (ds : List (DataW Unit)) (c : Nat) (r : List Value), join f P c ts ds = some r → (∀ (i : Nat) t o, ts[i]? = some (t, o) → ∃ fuel d p, ds[i]? = some d ∧ DataW.trod (fun _ => ()) P w base sp held fuel t ((cs.drop o).take (P.cellsOf t)) = some (d, p)) → (cs.drop c).take r.length = r
  | [], [], c, r, h, _ => by
    simp only [join, Option.some.injEq] at h
    subst h
    simp
  | (t, o) :: ts, d :: ds, c, r, h, ha => by
    simp only [join] at h
    cases hv : f t d with
    | none => rw [hv] at h; cases h
    | some vs =>
      rw [hv] at h
      simp only at h
      split at h
      · rename_i hc
        obtain ⟨rfl, hl⟩ := hc
        cases hr : join f P (o + P.cellsOf t) ts ds with
        | none => rw [hr] at h; cases h
        | some r' =>
          rw [hr] at h
          simp only [Option.some.injEq] at h
          subst h
          obtain ⟨fuel, d', p, h1, h2⟩ := ha 0 t o rfl
          simp only [List.getElem?_cons_zero, Option.some.injEq] at h1
          subst h1
          have h3 := hf fuel t _ _ _ _ h2 hv
          have h4 := join_is hf ts ds _ r' hr (fun i t' o' hi => by
            obtain ⟨fuel', d', p', h5, h6⟩ := ha (i + 1) t' o' (by simpa using hi)
            exact ⟨fuel', d', p', by simpa using h5, h6⟩)
          rw [List.length_append, List.take_add, hl, h3, List.drop_drop, h4]
      · cases h
  | [], _ :: _, c, r, h, _ => by simp [join] at h
  | _ :: _, [], c, r, h, _ => by simp [join] at h
theorem flat_is : ∀ (n : Nat) (fuel : Nat) (t : TypeId) (cs : List Value) (d : DataW Unit) (p : List MemPlace) (vs : List Value), DataW.trod (fun _ => ()) P w base sp held fuel t cs = some (d, p) → flat P n t d = some vs → cs = vs
  | 0, _, _, _, _, _, _, _, h => by simp [flat] at h
  | n + 1, fuel, t, cs, d, p, vs, ht, h => by
    unfold flat at h
    split at h
    · rename_i k k' z hu
      split at h
      · rename_i hk
        subst hk
        obtain ⟨z', rfl, hx, _⟩ := DataW.trod_int hu ht
        simp only [Prod.mk.injEq, DataW.lit.injEq, Lit.int.injEq, true_and] at hx
        obtain ⟨rfl, _⟩ := hx
        simpa using h
      · cases h
    · rename_i l hu
      obtain ⟨s, rfl, hx, _⟩ := DataW.trod_string hu ht
      simp only [Prod.mk.injEq, DataW.lit.injEq, Lit.string.injEq] at hx
      obtain ⟨rfl, _⟩ := hx
      simpa using h
    · rename_i b hu
      cases fuel with
      | zero => simp [DataW.trod] at ht
      | succ fuel =>
        unfold DataW.trod at ht
        rw [hu] at ht
        split at ht <;> simp_all
    · rename_i m e ds hu
      split at h
      · rename_i hm
        cases hj : join (flat P n) P 0 ((List.range m).map fun i => (e, i * P.cellsOf e)) ds with
        | none => rw [hj] at h; cases h
        | some r =>
          rw [hj] at h
          simp only at h
          split at h
          · rename_i hl
            simp only [Option.some.injEq] at h
            subst h
            obtain ⟨xs, m', rfl, hx, hcl, hxl, hall⟩ := DataW.trod_array hu ht
            simp only [Prod.mk.injEq, DataW.agg.injEq] at hx
            obtain ⟨rfl, _⟩ := hx
            have := join_is (cs := cs) (fun f' t' c' d' p' v' a b => flat_is n f' t' c' d' p' v' a b) _ _ _ _ hj (fun i t' o hi => by
              have hi' : i < m := by
                rcases Nat.lt_or_ge i m with h | h
                · exact h
                · rw [List.getElem?_eq_none (by simpa using h)] at hi; cases hi
              simp only [List.getElem?_map, List.getElem?_range hi', Option.map_some, Option.some.injEq, Prod.mk.injEq] at hi
              obtain ⟨rfl, rfl⟩ := hi
              have h1 := hall i hi'
              have h2 : xs[i]? = some xs[i] := List.getElem?_eq_getElem (by omega)
              rw [h2] at h1
              exact ⟨m', xs[i].1, xs[i].2, by simp [h2], h1⟩)
            rw [List.drop_zero, List.take_of_length_le (by omega)] at this
            exact this
          · cases h
      · cases h
    · rename_i fs ds hu
      cases hj : join (flat P n) P 0 (fs.toList.map fun f => (f.type, f.offset)) ds with
      | none => rw [hj] at h; cases h
      | some r =>
        rw [hj] at h
        simp only at h
        split at h
        · rename_i hl
          simp only [Option.some.injEq] at h
          subst h
          obtain ⟨xs, m', rfl, hx, hcl, hxl, hall⟩ := DataW.trod_struct hu ht
          simp only [Prod.mk.injEq, DataW.agg.injEq] at hx
          obtain ⟨rfl, _⟩ := hx
          have := join_is (cs := cs) (fun f' t' c' d' p' v' a b => flat_is n f' t' c' d' p' v' a b) _ _ _ _ hj (fun i t' o hi => by
            simp only [List.getElem?_map, Option.map_eq_some_iff] at hi
            obtain ⟨f, hf, he⟩ := hi
            simp only [Prod.mk.injEq] at he
            obtain ⟨rfl, rfl⟩ := he
            have hf' : fs[i]? = some f := by simpa using hf
            have h1 := hall i f hf'
            have hi' : i < fs.size := by
              rcases Nat.lt_or_ge i fs.size with h | h
              · exact h
              · rw [Array.getElem?_eq_none h] at hf'; cases hf'
            have h2 : xs[i]? = some xs[i] := List.getElem?_eq_getElem (by omega)
            rw [h2] at h1
            exact ⟨m', xs[i].1, xs[i].2, by simp [h2], h1⟩)
          rw [List.drop_zero, List.take_of_length_le (by omega)] at this
          exact this
        · cases h
    · cases h
/-- The cells of a listed variable. -/
theorem cells_of {W : World} {l : List (String × DataW Unit)} {name : String} {d : DataW Unit} {g : Nat} {t : TypeId} {vs : List Value} (n : Nat) (h : laidMet P l W) (hm : (name, d) ∈ l) (hg : P.globalNamed name = some g) (hty : (P.globals[g]?).map (·.type) = some t) (hf : flat P n t d = some vs) :
    ∀ i v, vs[i]? = some v → W.cell? ⟨g, i, none⟩ = some v := by
  obtain ⟨g', t', cs, fuel, p, hg', ht', hvar, hd⟩ := Lib.laidMet.reads h hm
  obtain rfl := Option.some.inj (hg.symm.trans hg')
  obtain rfl := Option.some.inj (hty.symm.trans ht')
  have hcs := flat_is n fuel t _ _ _ _ hd hf
  intro i v hv
  rw [World.var?_cell hg hvar, ← hv, ← hcs]
  simp
end
end Go.Proofs.YtiigknimfibdpaaGreatDoor.flat
