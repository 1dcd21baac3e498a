/- The document's answer of layer 2: Points: a contract. -/
import Derived.Test.YtgjndekgnkjknaaDoorPt9
import Derived.Lib.MapLaws
namespace Go.Proofs.YtgjndekgnkjknaaDoor.pt
open Go.RowKit Go.Lib
set_option linter.unusedVariables false
theorem rune_info : (Tryd.prog.info? 21).map (fun i => (i.zero, i.size, i.bytes)) = some (some (.int .i32 0), 1, 4) := by kernel_rfl
def runesV (l : List Nat) : List Value := l.map fun x => Value.int .i32 (Int.ofNat x)
theorem width_fits (s : ByteArray) (pos : Nat) (h : pos < s.size) : pos + (Utf8.decode s pos).2 ≤ s.size := by
  have hl : (s.data.toList.drop pos).length = s.size - pos := by rw [List.length_drop, Array.length_toList]; rfl
  have hne : s.data.toList.drop pos ≠ [] := by
    intro h0
    rw [h0] at hl
    simp at hl; omega
  have := decodeL_le _ hne
  rw [decodeL_drop, hl] at this
  omega
theorem owns_below {B : Nat} {e : TypeId} {v : Value} {n : Nat} {xs : List Value} {wr w1 : World} (h : wr.ownsRow B e 1 v n xs) (hb : Below wr.heap.size wr w1) : w1.ownsRow B e 1 v n xs := by
  obtain ⟨hl, h | ⟨g, cap, cur, rfl, hB, hg, h1, h2, h3, h4⟩⟩ := h
  · exact ⟨hl, .inl h⟩
  · have hlt : g < wr.heap.size := (Array.getElem?_eq_some_iff.1 hg).1
    exact ⟨hl, .inr ⟨g, cap, cur, rfl, hB, (hb.block g hlt).trans hg, h1, h2, h3, h4⟩⟩
theorem runes_snoc (l : List Nat) (p : Nat) : runesV (l ++ [p]) = runesV l ++ [.int .i32 (p : Int)] := by simp [runesV]
end Go.Proofs.YtgjndekgnkjknaaDoor.pt
