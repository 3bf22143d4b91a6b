/- Requests and answers that are right: no statement of the program; no condition. -/
import Derived.Test.YtlalebaaabdihaxOwn
namespace Go.Proofs.Ytlalebaaabdihax
open Go.RowKit
set_option linter.unusedVariables false

/-- A byte that may stand in an upload's name. -/
def idC (b : UInt8) : Bool := (decide (97 ≤ b.toNat) && decide (b.toNat ≤ 122)) || (decide (48 ≤ b.toNat) && decide (b.toNat ≤ 57))

/-- Whether a text is an upload's name. -/
def idB (s : List UInt8) : Bool := s.all idC && decide (1 ≤ s.length ∧ s.length ≤ 8)

/-- The greatest number of an op; -1: it has none. -/
def mostR (op : Int) : Int := if op = 1 ∨ op = 3 then 1000000000 else if op = 4 then 4294967295 else -1

/-- Whether a request is right. -/
def reqB (op : Int) (s : List UInt8) (n : Int) : Bool := decide (1 ≤ op ∧ op ≤ 6) && idB s && (if mostR op < 0 then n == 0 else decide (0 ≤ n ∧ n ≤ mostR op))

/-- Whether an answer is right. -/
def respB (st off : Int) : Bool := decide (100 ≤ st ∧ st ≤ 599) && decide (-1 ≤ off ∧ off ≤ 1000000000)

theorem idB_long {s : List UInt8} (h : ¬ (1 ≤ s.length ∧ s.length ≤ 8)) : idB s = false := by rw [idB, decide_eq_false h, Bool.and_false]

theorem idB_bad {s : List UInt8} {k : Nat} (hk : k < s.length) (h : idC s[k] = false) : idB s = false := by
  rw [idB, Bool.and_eq_false_iff]
  refine .inl ?_
  rw [List.all_eq_false]
  exact ⟨s[k], List.getElem_mem hk, by simp [h]⟩

theorem idB_good {s : List UInt8} (h : ∀ k (hk : k < s.length), idC s[k] = true) : idB s = decide (1 ≤ s.length ∧ s.length ≤ 8) := by
  have : s.all idC = true := by
    rw [List.all_eq_true]
    intro x hx
    obtain ⟨k, hk, rfl⟩ := List.mem_iff_getElem.1 hx
    exact h k hk
  rw [idB, this, Bool.true_and]

end Go.Proofs.Ytlalebaaabdihax
