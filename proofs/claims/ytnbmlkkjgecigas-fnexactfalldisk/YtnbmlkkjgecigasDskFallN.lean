/- A disk behind a fall: the model; no program in it. -/
import Derived.Test.YtnbmlkkjgecigasDskNum
namespace Go.Proofs.Ytnbmlkkjgecigas
open Go.RowKit
set_option linter.unusedVariables false

/-- What is kept of a sector. -/
def fallL (xs ys : List ByteArray) (ks : List Bool) : List ByteArray := (List.range xs.length).map fun i => if ks.getD i false then xs.getD i ⟨#[]⟩ else ys.getD i ⟨#[]⟩

def fallX (xs ys : List ByteArray) (ks : List Bool) : List ByteArray := if okD xs ys then fallL xs ys ks else xs
def fallY (xs ys : List ByteArray) (ks : List Bool) : List ByteArray := if okD xs ys then fallL xs ys ks else ys

theorem fallL_len (xs ys : List ByteArray) (ks : List Bool) : (fallL xs ys ks).length = xs.length := by simp [fallL]

theorem fallX_len (xs ys : List ByteArray) (ks : List Bool) : (fallX xs ys ks).length ≤ xs.length ∧ (fallY xs ys ks).length ≤ xs.length + ys.length := by
  rw [fallX, fallY]
  split
  · rw [fallL_len]
    omega
  · omega

theorem fallL_at {xs ys : List ByteArray} {ks : List Bool} {k : Nat} {x y : ByteArray} (hx : xs[k]? = some x) (hy : ys[k]? = some y) : (fallL xs ys ks)[k]? = some (if ks.getD k false then x else y) := by
  have hk : k < xs.length := (List.getElem?_eq_some_iff.1 hx).1
  obtain ⟨_, rfl⟩ := List.getElem?_eq_some_iff.1 hx
  simp [fallL, hk, List.getD_eq_getElem?_getD, hy]

/-- A row of which the first k are as F says. -/
def fallTo (F L : List ByteArray) (k : Nat) : List ByteArray := F.take k ++ L.drop k

theorem fallTo_zero (F L : List ByteArray) : fallTo F L 0 = L := by simp [fallTo]
theorem fallTo_all (F L : List ByteArray) (h : F.length = L.length) : fallTo F L L.length = F := by simp [fallTo, ← h]

theorem fallTo_len (F L : List ByteArray) (k : Nat) (h : F.length = L.length) (hk : k ≤ L.length) : (fallTo F L k).length = L.length := by simp [fallTo]; omega

theorem fallTo_at (F L : List ByteArray) (k : Nat) (h : F.length = L.length) (hk : k < L.length) : (fallTo F L k)[k]? = L[k]? := by
  rw [fallTo, List.getElem?_append_right (by simp; omega), List.length_take, List.getElem?_drop]
  congr 1
  omega

theorem fallTo_set (F L : List ByteArray) (k : Nat) (x : ByteArray) (h : F.length = L.length) (hk : k < L.length) (hF : F[k]? = some x) : (fallTo F L k).set k x = fallTo F L (k + 1) := by
  have ht : (F.take k).length = k := by simp; omega
  rw [fallTo, fallTo, List.set_append_right k _ (by omega), ht, Nat.sub_self, List.drop_eq_getElem_cons hk, List.set_cons_zero, List.take_add_one, hF]
  simp

theorem fallTo_same (F L : List ByteArray) (k : Nat) (x : ByteArray) (h : F.length = L.length) (hL : L[k]? = some x) (hF : F[k]? = some x) : fallTo F L k = fallTo F L (k + 1) := by
  have hk : k < L.length := (List.getElem?_eq_some_iff.1 hL).1
  rw [← fallTo_set F L k x h hk hF]
  apply List.ext_getElem?
  intro j
  rw [List.getElem?_set]
  by_cases hj : k = j
  · subst hj
    have := fallTo_len F L k h (by omega)
    rw [if_pos rfl, if_pos (by omega), fallTo_at F L k h hk, hL]
  · rw [if_neg hj]

end Go.Proofs.Ytnbmlkkjgecigas
