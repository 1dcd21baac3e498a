/- The document's pairs of pieces (made of the laws of layer 4): a contract. -/
import Derived.Test.YtmpddibdggdngaaDoorTb5
namespace Go.Proofs.YtmpddibdggdngaaDoor.tb
open Go.RowKit Go.Lib
set_option linter.unusedVariables false
/-- The pairs of pieces, or the first that is refused. -/
def mk : Nat → List (Int × Int) → List Pce → Option (List (Int × Int)) × Int
  | _, all, [] => (some all, -1)
  | i, all, p :: ps => match piece p.f p.t p.c p.s with
    | none => (none, (i : Int))
    | some more => match join all more with
      | none => (none, (i : Int))
      | some r => mk (i + 1) r ps
def made (l : List Pce) : Option (List (Int × Int)) × Int := mk 0 [] l
theorem piece_len {p : Pce} {more : List (Int × Int)} (h : piece p.f p.t p.c p.s = some more) (hf : fine p = true) : more.length ≤ 300 := by
  unfold fine at hf
  simp at hf
  unfold piece at h
  split at h
  · split at h
    · cases h
    · split at h
      · cases h
      · cases h; rw [sqp_len]; omega
  · split at h
    · cases h
    · cases h
      rw [lsp_len, pt.zsOf_len]
      have := pt.sc_len p.s p.s.size 0
      unfold pt.scan
      omega
theorem join_len {l more r : List (Int × Int)} (h : join l more = some r) : r = puts l more ∧ r.length = l.length + more.length := by
  unfold join at h
  split at h
  · cases h; exact ⟨rfl, puts_len l more⟩
  · cases h
/-- What made answers. -/
def MadeP (w : World) (l : List Pce) (e : Ending) (w' : World) : Prop :=
  ((made l).1 = none ∧ e = .returned (.tuple #[.slice none 0 0, .int .i64 (made l).2]) ∧ Below w.heap.size w w') ∨
  ∃ r A c, (made l).1 = some r ∧ (made l).2 = -1 ∧ r.length ≤ 3600 ∧ e = .returned (.tuple #[.slice A r.length c, .int .i64 (-1)]) ∧ RowP w' A r.length c r ∧ Below w.heap.size w w'
theorem ret_bad {a b : Int} (h : a = b) : Ending.returned (.tuple #[.slice none 0 0, .int .i64 a]) = .returned (.tuple #[.slice none 0 0, .int .i64 b]) := by rw [h]
end Go.Proofs.YtmpddibdggdngaaDoor.tb
