/- Tables over one another: whatever the order of calls; how long they are. -/
import Derived.Test.YtmpddibdggdngaaDoorTb0
namespace Go.Proofs.YtmpddibdggdngaaDoor.tb
set_option linter.unusedVariables false
theorem over_assoc {l m n : List (Int × Int)} (hl : Srt l) (hm : Srt m) (hn : Srt n) : over (over l m) n = over l (over m n) := by
  obtain ⟨a1, a2⟩ := over_lk hl hm
  obtain ⟨b1, b2⟩ := over_lk hm hn
  obtain ⟨c1, c2⟩ := over_lk a1 hn
  obtain ⟨d1, d2⟩ := over_lk hl b1
  refine srt_lk c1 d1 fun c => ?_
  rw [c2, d2, a2, b2]
  cases lk l c <;> cases lk m c <;> cases lk n c <;> rfl
theorem over_len_aux (l : List (Int × Int)) : ∀ (other out : List (Int × Int)), (other.foldl (fun out q => if find l q.1 < 0 then put out q else out) out).length ≤ out.length + other.length
  | [], out => by simp
  | q :: other, out => by
    rw [List.foldl_cons]
    have h := over_len_aux l other (if find l q.1 < 0 then put out q else out)
    have h2 : (if find l q.1 < 0 then put out q else out).length ≤ out.length + 1 := by
      split
      · rw [put_len]; exact Nat.le_refl _
      · omega
    simp only [List.length_cons]
    omega
theorem over_len (l m : List (Int × Int)) : (over l m).length ≤ l.length + m.length := over_len_aux l m l
end Go.Proofs.YtmpddibdggdngaaDoor.tb
