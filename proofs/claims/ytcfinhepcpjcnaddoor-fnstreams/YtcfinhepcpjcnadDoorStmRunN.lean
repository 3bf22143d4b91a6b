/- What a run of events answers: the state, and how many events were good: no statement of the program; no condition. -/
import Derived.Test.YtcfinhepcpjcnadDoorStmNum
import Derived.Test.YtcfinhepcpjcnadDoorIntRow
namespace Go.Proofs.YtcfinhepcpjcnadDoor
open Go.RowKit
set_option linter.unusedVariables false

/-- The state behind the good events, and how many they are. -/
def runN : Int → List Int → Int × Nat
  | s, [] => (s, 0)
  | s, x :: r => if (stepN s x).2 = 0 then ((runN (stepN s x).1 r).1, (runN (stepN s x).1 r).2 + 1) else (s, 0)

theorem runN_len : ∀ (l : List Int) (s : Int), (runN s l).2 ≤ l.length
  | [], s => Nat.le_refl _
  | x :: r, s => by
    unfold runN
    split
    · have := runN_len r (stepN s x).1
      simp
      omega
    · simp

/-- Behind k good events of zs the state is s. -/
def AtRun (zs : List Int) (k : Nat) (s : Int) : Prop := k ≤ zs.length ∧ runN 0 zs = ((runN s (zs.drop k)).1, (runN s (zs.drop k)).2 + k)

theorem AtRun.zero (zs : List Int) : AtRun zs 0 0 := ⟨Nat.zero_le _, rfl⟩

theorem drop_at {zs : List Int} {k : Nat} (hk : k < zs.length) : zs.drop k = zs.getD k 0 :: zs.drop (k + 1) := by
  rw [List.getD_eq_getElem?_getD, List.getElem?_eq_getElem hk]
  simp

theorem AtRun.next {zs : List Int} {k : Nat} {s : Int} (h : AtRun zs k s) (hk : k < zs.length) (hg : (stepN s (zs.getD k 0)).2 = 0) : AtRun zs (k + 1) (stepN s (zs.getD k 0)).1 := by
  refine ⟨hk, ?_⟩
  rw [h.2, drop_at hk, runN, if_pos hg]
  simp only [Prod.mk.injEq, true_and]
  omega

theorem AtRun.stop {zs : List Int} {k : Nat} {s : Int} (h : AtRun zs k s) (hk : k < zs.length) (hg : ¬ (stepN s (zs.getD k 0)).2 = 0) : runN 0 zs = (s, k) := by
  rw [h.2, drop_at hk, runN, if_neg hg]
  simp

theorem AtRun.all {zs : List Int} {s : Int} (h : AtRun zs zs.length s) : runN 0 zs = (s, zs.length) := by
  rw [h.2, List.drop_of_length_le (Nat.le_refl _)]
  simp [runN]

end Go.Proofs.YtcfinhepcpjcnadDoor
