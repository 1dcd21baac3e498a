/- octet.Join of a row of texts: contracts. -/
import Derived.Test.YtkhajafjieofhaaShelf
import Derived.Test.YtkhajafjieofhaaUn2
import Derived.Test.YtkhajafjieofhaaBk
import Derived.Lib.Join
namespace Go.Proofs.Ytkhajafjieofhaa.jn
open Go.RowKit Go.Lib
open Go.Proofs.Ytkhajafjieofhaa.un (bs bs_list bs_size bs_app bs_back size_list)
open Go.Proofs.Ytkhajafjieofhaa.bk
set_option linter.unusedVariables false
theorem join_flat : ∀ xs : List (List UInt8), Lib.join xs [] = xs.flatten
  | [] => rfl
  | x :: r => by rw [Lib.join_cons]; simp [Lib.joinTail]
/-- octet.Join of a row of texts in a block. -/
theorem join_any (b o c : Nat) (xs : List ByteArray) (w : World) (hc : ∀ (j : Nat) x, xs[j]? = some x → w.cell? ⟨b, o + j, none⟩ = some (.string x)) (hb : b < w.heap.size) (hN : xs.length ≤ 100) (hcap : xs.length ≤ c) (hl : ((xs.map (·.data.toList)).flatten).length ≤ 100000) :
    Calls Try.prog 40 #[.slice (some ⟨b, o, none⟩) xs.length c] w fun e w' => e = .returned (.string (bs (xs.map (·.data.toList)).flatten)) ∧ Below w.heap.size w w' := by
  have h2 := Try.strings_Join b o c xs ⟨#[]⟩ w hc hb (by omega) hcap (by rw [show (⟨#[]⟩ : ByteArray).data.toList = [] from rfl, join_flat]; omega)
  rw [show (⟨#[]⟩ : ByteArray).data.toList = [] from rfl, join_flat] at h2
  have HJ := Lib.hid h2
  change Hid (Calls _ _ _ _ fun e w' => e = .returned (.string (bs (xs.map (·.data.toList)).flatten)) ∧ _) at HJ
  generalize bs (xs.map (·.data.toList)).flatten = T at *
  generalize xs.length = n at *
  clear h2 hc hl
  go_enter Try.func40, Try.ntmps40
  go_wp2_with (go_at_call 61; refine (HJ.out).mono ?_; rintro e1 w1 ⟨rfl, hb1⟩)
  go_ret
  exact ⟨rfl, hb1⟩
/-- Two texts, joined. -/
theorem join_2 (x y : ByteArray) (W : World) (hx : x.size ≤ 10000) (hy : y.size ≤ 10000) : Calls Try.prog 40 #[.slice (some ⟨W.heap.size, 0, none⟩) 2 2] (W.alloc (.cells #[.string x, .string y] 9)) fun e w' => e = .returned (.string (bs (x.data.toList ++ y.data.toList))) ∧ Below (W.alloc (.cells #[.string x, .string y] 9)).heap.size (W.alloc (.cells #[.string x, .string y] 9)) w' := by
  have h := join_any W.heap.size 0 2 [x, y] (W.alloc (.cells #[.string x, .string y] 9)) (fun j u hj => by
    rw [Nat.zero_add]
    match j, hj with
    | 0, hj => simp at hj; subst hj; rw [World.cell?_alloc_mark]; rfl
    | 1, hj => simp at hj; subst hj; rw [World.cell?_alloc_mark]; rfl
    | (j + 2), hj => simp at hj) (by rw [World.size_alloc]; omega) (by simp) (by simp) (by simp; omega)
  simp only [List.map_cons, List.map_nil, List.flatten_cons, List.flatten_nil, List.append_nil] at h
  exact h
theorem join_4 (x y z t : ByteArray) (W : World) (hx : x.size ≤ 10000) (hy : y.size ≤ 10000) (hz : z.size ≤ 10000) (ht : t.size ≤ 10000) : Calls Try.prog 40 #[.slice (some ⟨W.heap.size, 0, none⟩) 4 4] (W.alloc (.cells #[.string x, .string y, .string z, .string t] 9)) fun e w' => e = .returned (.string (bs (x.data.toList ++ (y.data.toList ++ (z.data.toList ++ t.data.toList))))) ∧ Below (W.alloc (.cells #[.string x, .string y, .string z, .string t] 9)).heap.size (W.alloc (.cells #[.string x, .string y, .string z, .string t] 9)) w' := by
  have h := join_any W.heap.size 0 4 [x, y, z, t] (W.alloc (.cells #[.string x, .string y, .string z, .string t] 9)) (fun j u hj => by
    rw [Nat.zero_add]
    match j, hj with
    | 0, hj => simp at hj; subst hj; rw [World.cell?_alloc_mark]; rfl
    | 1, hj => simp at hj; subst hj; rw [World.cell?_alloc_mark]; rfl
    | 2, hj => simp at hj; subst hj; rw [World.cell?_alloc_mark]; rfl
    | 3, hj => simp at hj; subst hj; rw [World.cell?_alloc_mark]; rfl
    | (j + 4), hj => simp at hj) (by rw [World.size_alloc]; omega) (by simp) (by simp) (by simp; omega)
  simp only [List.map_cons, List.map_nil, List.flatten_cons, List.flatten_nil, List.append_nil] at h
  exact h
theorem join_5 (p : Nat) (x0 x1 x2 x3 x4 : ByteArray) (W : World) (h : Bk W p [.string x0, .string x1, .string x2, .string x3, .string x4]) (h0 : x0.size ≤ 10000) (h1 : x1.size ≤ 10000) (h2 : x2.size ≤ 10000) (h3 : x3.size ≤ 10000) (h4 : x4.size ≤ 10000) : Calls Try.prog 40 #[.slice (some ⟨p, 0, none⟩) 5 5] W fun e w' => e = .returned (.string (bs (x0.data.toList ++ (x1.data.toList ++ (x2.data.toList ++ (x3.data.toList ++ x4.data.toList)))))) ∧ Below W.heap.size W w' := by
  have h := join_any p 0 5 [x0, x1, x2, x3, x4] W (fun j u hj => by
    rw [Nat.zero_add]
    match j, hj with
    | 0, hj => simp at hj; subst hj; exact h.c 0 _ rfl
    | 1, hj => simp at hj; subst hj; exact h.c 1 _ rfl
    | 2, hj => simp at hj; subst hj; exact h.c 2 _ rfl
    | 3, hj => simp at hj; subst hj; exact h.c 3 _ rfl
    | 4, hj => simp at hj; subst hj; exact h.c 4 _ rfl
    | (j + 5), hj => simp at hj) h.lt (by simp) (by simp) (by simp; omega)
  simp only [List.map_cons, List.map_nil, List.flatten_cons, List.flatten_nil, List.append_nil] at h
  exact h
end Go.Proofs.Ytkhajafjieofhaa.jn
