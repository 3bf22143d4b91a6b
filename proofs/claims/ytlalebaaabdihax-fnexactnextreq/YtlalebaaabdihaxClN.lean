/- A client: whether it is right, the step behind a status, how far it is told to be: no statement of the program but its table of types. -/
import Derived.Test.YtlalebaaabdihaxReqNum
import Derived.Test.YtlalebaaabdihaxOwn
namespace Go.Proofs.Ytlalebaaabdihax
open Go.RowKit
set_option linter.unusedVariables false

/-- Whether a client of this name, so many bytes, this step and place is right. -/
def okC (id : ByteArray) (n : Nat) (st off : Int) : Bool := idB id.data.toList && decide (n ≤ 400) && decide (1 ≤ st ∧ st ≤ 6) && decide (0 ≤ off ∧ off ≤ (n : Int))

/-- The rows of the table: a step, a status, the step behind them (0: how far it is, is told). -/
def turnL : List (Int × Int × Int) := [(1, 201, 0), (1, 409, 2), (1, 507, 1), (2, 200, 0), (2, 404, 1), (3, 204, 0), (3, 409, 0), (3, 404, 1), (3, 507, 3), (4, 200, 5), (4, 409, 2), (4, 404, 1), (4, 507, 4)]

def lookT : List (Int × Int × Int) → Int → Int → Int
  | [], _, _ => 6
  | (a, b, c) :: l, st, q => if a = st ∧ b = q then c else lookT l st q

/-- The step behind a status. -/
def nextC (st q : Int) : Int := lookT turnL st q

/-- Step and place of a client that is told how far it is. -/
def farC (n : Nat) (off r : Int) : Int × Int := if r < 0 ∨ (n : Int) < r then (6, off) else if r = n then (4, r) else (3, r)

/-- Step and place of a client on its way that hears an answer that is right. -/
def heardC (n : Nat) (st off q r : Int) : Int × Int := if nextC st q = 0 then farC n off r else (nextC st q, off)

/-- Whether something is still to come. -/
def wayC (id : ByteArray) (n : Nat) (st off : Int) : Bool := okC id n st off && decide (st ≠ 5) && decide (st ≠ 6)

/-- What a client is that hears an answer. -/
def hearC (id : ByteArray) (n : Nat) (st off q r : Int) : Int × Int := if wayC id n st off = true ∧ respB q r = true then heardC n st off q r else (st, off)

/-- The step of a client that is cut off. -/
def cutC (id : ByteArray) (n : Nat) (st off : Int) : Int := if wayC id n st off = true then 2 else st

theorem okC_iff {id : ByteArray} {n : Nat} {st off : Int} : okC id n st off = true ↔ idB id.data.toList = true ∧ n ≤ 400 ∧ (1 ≤ st ∧ st ≤ 6) ∧ 0 ≤ off ∧ off ≤ (n : Int) := by
  simp [okC, and_assoc]

theorem wayC_iff {id : ByteArray} {n : Nat} {st off : Int} : wayC id n st off = true ↔ okC id n st off = true ∧ st ≠ 5 ∧ st ≠ 6 := by
  simp [wayC, and_assoc]

theorem wayC_step {id : ByteArray} {n : Nat} {st off : Int} (h : wayC id n st off = true) : st = 1 ∨ st = 2 ∨ st = 3 ∨ st = 4 := by
  obtain ⟨h1, h2, h3⟩ := wayC_iff.1 h
  have := (okC_iff.1 h1).2.2.1
  omega

theorem lookT_at (st q : Int) : ∀ (l : List (Int × Int × Int)) (k : Nat) (hk : k < l.length), (∀ j (hj : j < l.length), j < k → ¬ (l[j].1 = st ∧ l[j].2.1 = q)) → l[k].1 = st ∧ l[k].2.1 = q → lookT l st q = l[k].2.2
  | (a, b, c) :: l, 0, hk, _, h => by
    simp only [List.getElem_cons_zero] at h ⊢
    rw [lookT, if_pos h]
  | (a, b, c) :: l, k + 1, hk, hn, h => by
    have h0 := hn 0 (by simp) (by omega)
    simp only [List.getElem_cons_zero] at h0
    rw [lookT, if_neg h0]
    simp only [List.getElem_cons_succ] at h ⊢
    exact lookT_at st q l k (by simpa using hk) (fun j hj hjk => by have := hn (j + 1) (by simpa using hj) (by omega); simpa using this) h

theorem lookT_none (st q : Int) : ∀ (l : List (Int × Int × Int)), (∀ j (hj : j < l.length), ¬ (l[j].1 = st ∧ l[j].2.1 = q)) → lookT l st q = 6
  | [], _ => rfl
  | (a, b, c) :: l, h => by
    have h0 := h 0 (by simp)
    simp only [List.getElem_cons_zero] at h0
    rw [lookT, if_neg h0]
    exact lookT_none st q l fun j hj => by have := h (j + 1) (by simpa using hj); simpa using this

end Go.Proofs.Ytlalebaaabdihax
