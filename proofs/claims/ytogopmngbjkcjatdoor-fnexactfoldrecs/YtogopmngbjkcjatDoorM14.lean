/- Rows whose blocks are as they were. No program in it. What records make, one behind the other; no program in it. Names held against each other; no program in it. -/
import Derived.Test.YtogopmngbjkcjatDoorM08
import Derived.Test.YtogopmngbjkcjatDoorM03
import Derived.Lib.Strings
namespace Go.Proofs.YtogopmngbjkcjatDoor
open Go.RowKit
set_option linter.unusedVariables false

theorem own_same {W W' : World} {base n size : Nat} {e : TypeId} {v : Value} {xs : List Value} (h : W.ownsRow base e size v n xs) (hq : ∀ q, v.ownBlock = some q → W'.heap[q]? = W.heap[q]?) : W'.ownsRow base e size v n xs := by
  refine ⟨h.1, ?_⟩
  rcases h.2 with h0 | ⟨g, cap, cur, rfl, hb, hg, r⟩
  · exact .inl h0
  · exact .inr ⟨g, cap, cur, rfl, hb, (hq g rfl).trans hg, r⟩

theorem Owns.same {W W' : World} {base n c : Nat} {a : Option Addr} {zs : List Int} (h : Owns W base a n c zs) (hq : ∀ q, a.map (·.block) = some q → W'.heap[q]? = W.heap[q]?) : Owns W' base a n c zs := ⟨own_same h.1 (fun q e => hq q (by rw [← ownBlock_sU a n c]; exact e)), h.2⟩

theorem UpRow.same {W W' : World} {base : Nat} {v : Value} {l : List UE} (h : UpRow W base v l) (h1 : ∀ q, v.ownBlock = some q → W'.heap[q]? = W.heap[q]?) (h2 : ∀ e ∈ l, ∀ q, e.a.map (·.block) = some q → W'.heap[q]? = W.heap[q]?) : UpRow W' base v l :=
  ⟨own_same h.1 h1, fun e he => (h.2.1 e he).same (h2 e he), h.2.2⟩

end Go.Proofs.YtogopmngbjkcjatDoor

namespace Go.Proofs.YtogopmngbjkcjatDoor
open Go.RowKit
set_option linter.unusedVariables false

/-- Where the upload with a name stands. -/
def atU (l : List U) (id : ByteArray) : Option Nat := l.findIdx? fun u => decide (u.id = id)

def atI (l : List U) (id : ByteArray) : Int := match atU l id with
  | some k => (k : Int)
  | none => -1

theorem atU_none {l : List U} {id : ByteArray} (h : ∀ k (hk : k < l.length), (l[k]).id ≠ id) : atU l id = none := by
  rw [atU, List.findIdx?_eq_none_iff]
  intro x hx
  obtain ⟨k, hk, rfl⟩ := List.getElem_of_mem hx
  exact decide_eq_false (h k hk)

theorem atU_some {l : List U} {id : ByteArray} {k : Nat} (hk : k < l.length) (h1 : (l[k]).id = id) (h2 : ∀ j (hj : j < l.length), j < k → (l[j]).id ≠ id) : atU l id = some k := by
  rw [atU, List.findIdx?_eq_some_iff_getElem]
  exact ⟨hk, decide_eq_true h1, fun j hj => by simpa using h2 j (by omega) hj⟩

theorem atU_is {l : List U} {id : ByteArray} {k : Nat} (h : atU l id = some k) : ∃ hk : k < l.length, (l[k]).id = id := by
  rw [atU, List.findIdx?_eq_some_iff_getElem] at h
  obtain ⟨hk, h1, _⟩ := h
  exact ⟨hk, by simpa using h1⟩

/-- Whether a name is above another. -/
def gtS (x y : ByteArray) : Bool := !(Op.bytesLess x.toList y.toList || x.toList == y.toList)

/-- Where one with a name is put: behind the last of the first k that is not above it. -/
def insK (l : List U) (id : ByteArray) : Nat → Nat
  | 0 => 0
  | k + 1 => match l[k]? with
    | some u => if gtS u.id id = true then insK l id k else k + 1
    | none => k + 1

theorem insK_le (l : List U) (id : ByteArray) : ∀ k, insK l id k ≤ k := by
  intro k
  induction k with
  | zero => exact Nat.le_refl _
  | succ k ih =>
    rw [insK]
    split
    · split
      · omega
      · exact Nat.le_refl _
    · exact Nat.le_refl _

theorem insK_down {l : List U} {id : ByteArray} {k : Nat} {u : U} (h : l[k]? = some u) (hlt : gtS u.id id = true) : insK l id (k + 1) = insK l id k := by rw [insK, h]; exact if_pos hlt
theorem insK_stop {l : List U} {id : ByteArray} {k : Nat} {u : U} (h : l[k]? = some u) (hlt : ¬ gtS u.id id = true) : insK l id (k + 1) = k + 1 := by rw [insK, h]; exact if_neg hlt

/-- An upload is put in order. -/
def makeU (l : List U) (u : U) : List U := l.take (insK l u.id l.length) ++ u :: l.drop (insK l u.id l.length)

/-- What a record makes; none: it does not fit. -/
def oneU (l : List U) (r : R) : Option (List U) :=
  if r.k = 1 then (if atU l r.id = none ∧ l.length < 10 then some (makeU l ⟨r.id, r.n, [], false⟩) else none)
  else match atU l r.id with
    | none => none
    | some k => match l[k]? with
      | none => none
      | some u =>
        if r.k = 2 then (if u.done = true ∨ r.n ≠ (u.zs.length : Int) ∨ u.want < r.n + (r.zs.length : Int) then none else some (l.set k { u with zs := u.zs ++ r.zs }))
        else if r.k = 3 then (if u.done = true ∨ (u.zs.length : Int) ≠ u.want then none else some (l.set k { u with done := true }))
        else if r.k = 4 then some (l.eraseIdx k) else none

/-- What records make. -/
def foldU (rs : List R) : Option (List U) := rs.foldlM oneU []

theorem foldU_step (rs : List R) (k : Nat) (r : R) (h : rs[k]? = some r) : foldU (rs.take (k + 1)) = (foldU (rs.take k)).bind fun l => oneU l r := by
  rw [List.take_add_one, h, foldU, foldU, List.foldlM_append]
  simp [List.foldlM]

/-- Once nothing fits, nothing does. -/
theorem foldU_stop (rs : List R) (k : Nat) (h : foldU (rs.take k) = none) : foldU rs = none := by
  have e : rs = rs.take k ++ rs.drop k := (List.take_append_drop k rs).symm
  rw [e, foldU, List.foldlM_append]
  rw [foldU] at h
  rw [h]
  rfl

theorem makeU_len (l : List U) (u : U) : (makeU l u).length = l.length + 1 := by
  have := insK_le l u.id l.length
  simp [makeU]
  omega

theorem oneU_len {l l' : List U} {r : R} (h : oneU l r = some l') : l'.length ≤ l.length ∨ l'.length ≤ 10 := by
  rw [oneU] at h
  split at h
  · split at h
    · rename_i hc
      injection h with h
      rw [← h, makeU_len]
      omega
    · cases h
  · split at h
    · cases h
    · split at h
      · cases h
      · split at h
        · split at h
          · cases h
          · injection h with h; rw [← h]; left; simp
        · split at h
          · split at h
            · cases h
            · injection h with h; rw [← h]; left; simp
          · split at h
            · injection h with h; rw [← h]; left; exact List.length_eraseIdx_le ..
            · cases h

end Go.Proofs.YtogopmngbjkcjatDoor

namespace Go.Proofs.YtogopmngbjkcjatDoor
open Go.RowKit
set_option linter.unusedVariables false

theorem ids_eq (s t : ByteArray) : (s.toList == t.toList) = decide (s = t) := by
  rw [Bool.eq_iff_iff, beq_iff_eq, decide_eq_true_eq, Lib.toList_data, Lib.toList_data]
  constructor
  · intro h
    cases s
    cases t
    exact congrArg ByteArray.mk (Array.toList_inj.1 h)
  · intro h; rw [h]

end Go.Proofs.YtogopmngbjkcjatDoor
