/- Another first size of a flow: no statement of the program; no condition. -/
import Derived.Test.YtkicfiacnpifkadFlowGrantN
namespace Go.Proofs.Ytkicfiacnpifkad
open Go.RowKit
set_option linter.unusedVariables false

/-- A lane that is moved as much. -/
def mvL (i n : Int) (x : Lane) : Lane := (x.1, IntKind.i64.wrap (IntKind.i64.wrap (x.2 + n) - i))

/-- The first k lanes are moved. -/
def mvTo (i n : Int) (l : List Lane) (k : Nat) : List Lane := (l.take k).map (mvL i n) ++ l.drop k

theorem mvTo_zero (i n : Int) (l : List Lane) : mvTo i n l 0 = l := by simp [mvTo]

theorem mvTo_all (i n : Int) (l : List Lane) : mvTo i n l l.length = l.map (mvL i n) := by simp [mvTo]

theorem mvTo_at (i n : Int) {l : List Lane} {k : Nat} {p q : Int} (h : l[k]? = some (p, q)) : (mvTo i n l k)[k]? = some (p, q) := by
  have hk : k < l.length := (List.getElem?_eq_some_iff.1 h).1
  rw [mvTo, List.getElem?_append_right (by simp; omega)]
  simp [Nat.min_eq_left (Nat.le_of_lt hk), h]

theorem mvTo_step (i n : Int) {l : List Lane} {k : Nat} {p q : Int} (h : l[k]? = some (p, q)) : (mvTo i n l k).set k (p, IntKind.i64.wrap (IntKind.i64.wrap (q + n) - i)) = mvTo i n l (k + 1) := by
  have hk : k < l.length := (List.getElem?_eq_some_iff.1 h).1
  have hg : l[k] = (p, q) := by have := List.getElem?_eq_getElem hk; rw [h] at this; exact (Option.some.inj this).symm
  rw [mvTo, mvTo, List.set_append_right k _ (by simp; omega), List.take_add_one, h, List.drop_eq_getElem_cons hk, hg]
  simp [Nat.min_eq_left (Nat.le_of_lt hk), mvL]

/-- What NewInit answers. -/
noncomputable def initR (c i : Int) (l : List Lane) (n : Int) : (Int × Int × List Lane) × Bool :=
  endsF c i l c n (if 0 ≤ n ∧ n ≤ 2147483647 then l.map (mvL i n) else l) true

end Go.Proofs.Ytkicfiacnpifkad
