/-
  The law OctetJoins of layer 1: texts that are joined are read one by one as they were: the function returns true whatever texts it is given, and leaves them alone. No condition.
-/
import Derived.Test.YtkhcmgnempjjcaaRows
import Derived.Test.YtkhcmgnempjjcaaJoinsW
import Derived.WalkKit
import Derived.ProofKit
import Derived.OpenShut
import Derived.ShutString
import Derived.ChangeOld
import Derived.Below
namespace Go.Proofs.Ytkhcmgnempjjcaa.octetJoins
open Go.ChangeShapes Go.WideShapes Go.ChangeAt Go.RowKit
open Go.ChangeMaps (open_string shut_string)
set_option linter.unusedVariables false

theorem own : ownKnob Try.prog.godebug = none := by kernel_rfl
theorem laidOut : laidOutB Try.prog = true := by kernel_rfl

theorem octet_join {sl : Value} {T : ByteArray} (w : World) (h : Calls Try.prog 47 #[sl, .string ⟨#[]⟩] w fun e w' => e = .returned (.string T) ∧ Below w.heap.size w w') :
    Calls Try.prog 29 #[sl] w fun e w' => e = .returned (.string T) ∧ Below w.heap.size w w' := by
  have H := Lib.hid h
  clear h
  go_enter Try.func29, Try.ntmps29
  go_wp2_with (go_at_call 47; refine H.out.mono ?_; rintro e1 w1 ⟨rfl, hb1⟩)
  go_ret
  exact ⟨rfl, hb1⟩
theorem cellsStr : Try.prog.cellsOf 9 = 1 := by kernel_rfl
theorem walk (x0 : Option Addr) (len0 cap0 : Nat) (w : World)
    (h : (x0 = none ∧ len0 = 0 ∧ cap0 = 0) ∨ ∃ (a : Addr) (xs : List ByteArray), x0 = some a ∧ len0 ≤ cap0 ∧ cap0 ≤ maxLen ∧ xs.length = len0 ∧ (∀ i, i < len0 → w.cell? (a.add i) = some (.string (xs.getD i ByteArray.empty))) ∧ ∀ i, i < len0 → (xs.getD i ByteArray.empty).size ≤ maxLen) :
    Calls Try.prog 6 #[.slice x0 len0 cap0] w fun e w' => e = .returned (.bool true) ∧ Below w.heap.size w w' := by
  have none_of : ∀ (p : Option Addr) (c : Nat) (w : World), Calls Try.prog 29 #[.slice p 0 c] w fun e w' => e = .returned (.string ⟨#[]⟩) ∧ Below w.heap.size w w' := fun p c w =>
    octet_join w ((Go.Proofs.Try.strings_Join_none p c ⟨#[]⟩ w).mono fun e w' ⟨he, hw⟩ => ⟨he, by rw [hw]; exact Below.refl _ _⟩)
  rcases h with ⟨rfl, rfl, rfl⟩ | ⟨a, xs, rfl, hlc, hcm, hl, hc, hsz⟩
  · exact joins_empty none 0 ⟨#[]⟩ w rfl (none_of none 0)
  · by_cases h0 : len0 = 0
    · subst h0
      exact joins_empty (some a) cap0 ⟨#[]⟩ w rfl (none_of (some a) cap0)
    · have hc0 := hc 0 (by omega)
      have hspot : a.spot = none := by have := World.cell?_spot hc0; simpa [Addr.add] using this
      refine joins_walk a len0 cap0 xs w hl hlc hcm hc hsz (fun h60 hpre => ⟨⟨(xs.map (·.data.toList)).flatten.toArray⟩, by simp, ?_⟩)
      obtain ⟨bk, o, sp⟩ := a
      simp only at hspot
      subst hspot
      have hcells : ∀ (j : Nat) x, xs[j]? = some x → w.cell? ⟨bk, o + j, none⟩ = some (.string x) := fun j x hx => by
        have hj : j < xs.length := (List.getElem?_eq_some_iff.1 hx).1
        have := hc j (by omega)
        rw [List.getD_eq_getElem?_getD, hx] at this
        have e : (⟨bk, o, none⟩ : Addr).add j = ⟨bk, o + j, none⟩ := by simp [Addr.add]
        rw [e] at this
        exact this
      have hlen : (Lib.join (xs.map (·.data.toList)) (⟨#[]⟩ : ByteArray).data.toList).length ≤ 140737488355328 := by
        show (Lib.join (xs.map (·.data.toList)) []).length ≤ _
        rw [join_flat, flat_len]
        unfold pre at hpre
        rw [← hl, List.take_length] at hpre
        omega
      have := Go.Proofs.Try.strings_Join bk o cap0 xs ⟨#[]⟩ w hcells (World.block_lt_of_cell? w _ (hcells 0 _ (List.getElem?_eq_getElem (by omega)))) (by omega) (by omega) hlen
      rw [hl] at this
      have e : (⟨(Lib.join (xs.map (·.data.toList)) (⟨#[]⟩ : ByteArray).data.toList).toArray⟩ : ByteArray) = ⟨(xs.map (·.data.toList)).flatten.toArray⟩ := by
        show (⟨(Lib.join (xs.map (·.data.toList)) []).toArray⟩ : ByteArray) = _
        rw [join_flat]
      rw [e] at this
      exact octet_join w this
set_option maxRecDepth 100000 in
theorem lifted (os : Os) (started : os.Started) (H : Type) (enc : TypeId × Value → H) :
    ReturnsInHanded {} Try.checked os 6 .any (Rows.octetJoinsSpec.pre6 enc Try.prog Try.f6 Rows.octetJoinsRow.domain false) (Rows.octetJoinsSpec.post enc Try.prog Try.f6 false true false false) := by
  refine returnsInHanded_of_change (C := Try.checked) own started (by kernel_rfl) Try.func6
    (ChangeSpec.witness6 (enc := enc) (C := Try.checked) false ⟨#[], #[.slice none 0 0], []⟩ 8 (by kernel_rfl) (by kernel_rfl) (by kernel_rfl) (by kernel_rfl)) ?_
  intro W base args ds gs before hval0 hW hcnd _
  have hval : ∀ (j : Nat) t v, Try.f6.params[j]? = some t → args[j]? = some v → Value.okWide Try.prog W .any base t v := hval0
  have hW' := hW
  obtain ⟨p, q, hA0, hV, rfl, hfz, hnd⟩ := hW
  have hA : DataW.TrodAll enc Try.prog W 0 (fun _ => true) true Try.f6.params.toList args.toList ds p := hA0
  rw [Try.params6] at hA hval
  obtain ⟨v0, vs0, d0, ds0, p0, q0, hargs, rfl, rfl, h0, r0⟩ := trodAll_cons hA
  obtain ⟨rfl, rfl, rfl⟩ := trodAll_nil r0
  obtain rfl : args = #[v0] := by cases args; simp_all
  obtain ⟨rfl, rfl⟩ := trodVars_none hV
  obtain ⟨x0, len0, cap0, rfl⟩ := okWide_slice Try.underlying50 (hval 0 50 v0 rfl rfl)
  have k0 := h0
  have lt0 : ∀ x ∈ p0, x.block < W.heap.size := by obtain ⟨m, hm⟩ := k0; exact DataW.trod_lt m _ _ _ hm
  have w0 : (x0 = none ∧ len0 = 0 ∧ cap0 = 0) ∨ ∃ (a : Addr) (xs : List ByteArray), x0 = some a ∧ len0 ≤ cap0 ∧ cap0 ≤ maxLen ∧ xs.length = len0 ∧ (∀ i, i < len0 → W.cell? (a.add i) = some (.string (xs.getD i ByteArray.empty))) ∧ ∀ i, i < len0 → (xs.getD i ByteArray.empty).size ≤ maxLen := by
    obtain ⟨fuel, hf⟩ := h0
    rcases Go.ChangeShapes.open_strings Try.underlying50 Try.underlying9 cellsStr hf with ⟨hcs, _⟩ | ⟨a, l, c, ss, hcs, _, hl, hm, hz, _, hcell, hwz⟩
    · simp [Value.cells] at hcs
      exact .inl hcs
    · simp [Value.cells] at hcs
      obtain ⟨rfl, rfl, rfl⟩ := hcs
      simp at hz
      have hg : ∀ i, i < len0 → (ss.take len0).getD i ByteArray.empty = ss.getD i ByteArray.empty := fun i hi => by
        simp [List.getD_eq_getElem?_getD, hi]
      exact .inr ⟨a, ss.take len0, rfl, hl, hm, by simp; omega, fun i hi => by rw [hg i hi]; exact hcell i (by omega), fun i hi => by
        rw [hg i hi, List.getD_eq_getElem?_getD, List.getElem?_eq_getElem (show i < ss.length from by omega)]
        exact hwz _ (List.getElem_mem _)⟩
  clear hA0 hval0
  refine (walk x0 len0 cap0 W w0).mono fun e W' ⟨he, bel⟩ => ?_
  subst he
  exact ⟨_, rfl, _, _, _, [], _, [], hW', trodAll_mk1 (shut_bool Try.underlying4 _), (trodAll_cons_mk (Below.trod laidOut (by kernel_rfl) (of_decide_eq_true (by kernel_rfl)) k0 bel lt0) trodAll_mk0), rfl, bel.frame _, fun h => by cases h⟩

theorem over : Rows.octetJoinsRow.holds Try.pinned (OpenSpec.ofChange Rows.octetJoinsSpec) :=
  OpenClaim.holds_of_wide 6 Try.f6 rfl rfl rfl rfl rfl rfl rfl ⟨rfl, rfl, rfl, rfl, rfl⟩ rfl rfl rfl rfl rfl (by kernel_rfl) Try.func6 (by kernel_rfl)
    (of_decide_eq_true (by kernel_rfl)) (by unfold Func.isWrapper; first | (rw [if_pos (by decide +kernel)]; kernel_rfl) | (rw [if_neg (by decide +kernel)]; exact ⟨rfl, rfl⟩))
    (fun os started H enc _ => lifted os started H enc)

theorem proved : Rows.OctetJoinsSaid := over
#print axioms proved
end Go.Proofs.Ytkhcmgnempjjcaa.octetJoins
