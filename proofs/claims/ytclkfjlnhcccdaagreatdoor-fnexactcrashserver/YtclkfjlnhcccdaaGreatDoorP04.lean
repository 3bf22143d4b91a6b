/- What is opened of a disk. What is written into a store, one record behind the other, and what the store's functions answer; no program in it. What is opened of a disk, said as one answer, and how great it may be; no program in it. A disk behind a fall: the model; no program in it. What CrashServer answers: a model. -/
import Derived.Test.YtclkfjlnhcccdaaGreatDoorM05
import Derived.Test.YtclkfjlnhcccdaaGreatDoorM24
import Derived.Test.YtclkfjlnhcccdaaGreatDoorM43
import Derived.Test.YtclkfjlnhcccdaaGreatDoorM17
import Derived.Test.YtclkfjlnhcccdaaGreatDoorM19
import Derived.Test.YtclkfjlnhcccdaaGreatDoorM26
import Derived.Test.YtclkfjlnhcccdaaGreatDoorM10
import Derived.Test.YtclkfjlnhcccdaaGreatDoorP01
import Derived.Test.YtclkfjlnhcccdaaGreatDoorM45
import Derived.Test.YtclkfjlnhcccdaaGreatDoorM26
import Derived.Deep.RegionHeld3
namespace Go.Proofs.YtclkfjlnhcccdaaGreatDoor
open Go.RowKit
set_option linter.unusedVariables false

/-- The epoch, the number of records and the uploads of the store that is opened. -/
def openO (X Y : List ByteArray) : Option (Int × Nat × List U) :=
  match okD X Y, foldU (scanR X) with
  | true, some us => if 10000 < topE X + 1 then none else some (topE X + 1, (scanR X).length, us)
  | _, _ => none

theorem topE_from (l : List ByteArray) : ∀ m : Int, -1 ≤ m → m ≤ 10000 → -1 ≤ l.foldl topStep m ∧ l.foldl topStep m ≤ 10000 := by
  induction l with
  | nil => exact fun m h1 h2 => ⟨h1, h2⟩
  | cons x l ih =>
    intro m h1 h2
    rw [List.foldl_cons]
    have hs : -1 ≤ topStep m x ∧ topStep m x ≤ 10000 := by
      cases h : recOf x with
      | none => rw [topStep_none h]; exact ⟨h1, h2⟩
      | some r =>
        have hr := (okRec_iff (recOf_iff.1 h).1).1
        rw [topStep_some h]
        split <;> omega
    exact ih _ hs.1 hs.2

theorem topE_range (l : List ByteArray) : -1 ≤ topE l ∧ topE l ≤ 10000 := topE_from l (-1) (by omega) (by omega)

/-- The answer. -/
def OpenAns (base : Nat) (X Y : List ByteArray) (e : Ending) (w' : World) : Prop :=
  match openO X Y with
  | none => ∃ v, e = .returned (.tuple #[v, .bool false]) ∧ AnsS base [] [] 0 0 [] v w'
  | some (ep, nx, us) => ∃ v, e = .returned (.tuple #[v, .bool true]) ∧ AnsS base X Y ep (nx : Int) us v w'

end Go.Proofs.YtclkfjlnhcccdaaGreatDoor

namespace Go.Proofs.YtclkfjlnhcccdaaGreatDoor
open Go.RowKit
set_option linter.unusedVariables false

theorem decB_of {P : Prop} (h : decB P = true) : P := @of_decide_eq_true P (Classical.propDecidable P) h

/-- A record as it is written. -/
def R.at (r : R) (ep : Int) (q : Nat) : R := { r with e := ep, q := (q : Int) }

/-- The sectors behind records that are written from nx on. -/
def wroteX (X : List ByteArray) (ep : Int) (nx : Nat) : List R → List ByteArray
  | [] => X
  | r :: rs => wroteX (X.set nx (txU (r.at ep nx).put)) ep (nx + 1) rs

theorem wroteX_len (ep : Int) : ∀ (rs : List R) (X : List ByteArray) (nx : Nat), (wroteX X ep nx rs).length = X.length
  | [], _, _ => rfl
  | r :: rs, X, nx => by rw [wroteX, wroteX_len ep rs, List.length_set]

theorem wroteX_snoc (ep : Int) (r : R) : ∀ (rs : List R) (X : List ByteArray) (nx : Nat), wroteX X ep nx (rs ++ [r]) = (wroteX X ep nx rs).set (nx + rs.length) (txU (r.at ep (nx + rs.length)).put)
  | [], _, _ => rfl
  | x :: rs, X, nx => by
    have h : nx + 1 + rs.length = nx + (rs.length + 1) := by omega
    rw [List.cons_append, wroteX, wroteX_snoc ep r rs, wroteX, List.length_cons, h]

/-- What a function of the store answers: the sectors, the next one, the uploads, the code. -/
structure WA where
  X : List ByteArray
  nx : Int
  us : List U
  c : Int

def wroteA (X : List ByteArray) (ep nx : Int) (us : List U) (rs : List R) : WA := ⟨wroteX X ep nx.toNat rs, nx + (rs.length : Int), (rs.foldlM oneU us).getD us, 0⟩

theorem SOk.nums {X Y : List ByteArray} {ep nx : Int} {us : List U} (h : SOk X Y ep nx us) : (0 ≤ ep ∧ ep ≤ 10000) ∧ 0 ≤ nx ∧ nx ≤ (X.length : Int) ∧ X.length ≤ 200 := by
  obtain ⟨h1, h2, h3, h4, h5, h6⟩ := h
  have h7 := scanFrom_len X 0 0
  have h8 := (okD_iff.1 h1).2.1
  have h9 : (scanR X).length = (scanFrom 0 0 X).length := rfl
  exact ⟨h2, by omega, by omega, h8⟩

theorem foldlM_len {rs : List R} : ∀ {us us' : List U}, us.length ≤ 10 → rs.foldlM oneU us = some us' → us'.length ≤ 10 := by
  induction rs with
  | nil => intro us us' h1 h; obtain rfl : us = us' := by simpa using h
           exact h1
  | cons r rs ih =>
    intro us us' h1 h
    rw [List.foldlM_cons] at h
    cases ho : oneU us r with
    | none => rw [ho] at h; cases h
    | some u1 =>
      rw [ho] at h
      have := oneU_len ho
      exact ih (by omega) h

theorem SOk.few {X Y : List ByteArray} {ep nx : Int} {us : List U} (h : SOk X Y ep nx us) : us.length ≤ 10 := foldlM_len (us := []) (by simp) h.2.2.1

/-- What is right stays so behind records that fit. -/
theorem wrote_ok {Y : List ByteArray} {ep : Int} : ∀ {rs : List R} {X : List ByteArray} {nx : Int} {us us' : List U}, SOk X Y ep nx us → (∀ r ∈ rs, idB r.id.data.toList = true ∧ kindB r.k r.n r.zs.length = true ∧ ∀ x ∈ r.zs, 0 ≤ x ∧ x ≤ 255) → nx + (rs.length : Int) ≤ (X.length : Int) → rs.foldlM oneU us = some us' → SOk (wroteX X ep nx.toNat rs) Y ep (nx + (rs.length : Int)) us' := by
  intro rs
  induction rs with
  | nil =>
    intro X nx us us' h _ _ ho
    obtain rfl : us = us' := by simpa using ho
    simpa [wroteX] using h
  | cons r rs ih =>
    intro X nx us us' h hk hl ho
    obtain ⟨n1, n2, n3, n4⟩ := h.nums
    have hl' : nx + ((rs.length : Int) + 1) ≤ (X.length : Int) := by simpa using hl
    rw [List.foldlM_cons] at ho
    cases h1 : oneU us r with
    | none => rw [h1] at ho; cases ho
    | some u1 =>
      rw [h1] at ho
      have hr := hk r (List.mem_cons_self ..)
      have hq : ((nx.toNat : Nat) : Int) = nx := by omega
      have hok : (r.at ep nx.toNat).ok = true := by
        show okRec ep ((nx.toNat : Nat) : Int) r.k r.id r.n r.zs.length = true
        rw [okRec, hr.1, hr.2.1, hq, decide_eq_true n1, decide_eq_true (show 0 ≤ nx ∧ nx ≤ 199 by omega)]
        rfl
      have h2 := (h.put (r := r.at ep nx.toNat) hok hr.2.2 rfl hq (by omega) (us' := u1) h1).2
      have h3 := ih h2 (fun x hx => hk x (List.mem_cons_of_mem _ hx)) (by rw [List.length_set]; omega) ho
      have e1 : (nx + 1).toNat = nx.toNat + 1 := by omega
      have e2 : nx + 1 + (rs.length : Int) = nx + ((r :: rs).length : Int) := by simp; omega
      rw [e1, e2] at h3
      exact h3

/-- What MakeUp answers. -/
def makeR (id : ByteArray) (want : Int) : R := ⟨0, 0, 1, id, want, []⟩
noncomputable def makeA (X Y : List ByteArray) (ep nx : Int) (us : List U) (id : ByteArray) (want : Int) : WA :=
  if decB (SOk X Y ep nx us) = true ∧ idB id.data.toList = true ∧ 0 ≤ want ∧ want ≤ 1000000 then
    if atU us id = none then
      if nx < (X.length : Int) ∧ us.length ≠ 10 then wroteA X ep nx us [makeR id want] else ⟨X, nx, us, 5⟩
    else ⟨X, nx, us, 3⟩
  else ⟨X, nx, us, 1⟩

/-- What DropUp answers. -/
def dropR (id : ByteArray) : R := ⟨0, 0, 4, id, 0, []⟩
noncomputable def dropA (X Y : List ByteArray) (ep nx : Int) (us : List U) (id : ByteArray) : WA :=
  if decB (SOk X Y ep nx us) = true ∧ idB id.data.toList = true then
    if atU us id = none then ⟨X, nx, us, 2⟩
    else if nx < (X.length : Int) then wroteA X ep nx us [dropR id] else ⟨X, nx, us, 5⟩
  else ⟨X, nx, us, 1⟩

theorem make_fits {us : List U} {id : ByteArray} {want : Int} (h1 : atU us id = none) (h2 : us.length ≤ 10) (h3 : us.length ≠ 10) : oneU us (makeR id want) = some (makeU us ⟨id, want, [], false⟩) := by
  unfold oneU makeR
  dsimp only
  rw [if_pos rfl, if_pos ⟨h1, by omega⟩]

theorem drop_fits {us : List U} {id : ByteArray} {k : Nat} (h1 : atU us id = some k) : ∃ us', oneU us (dropR id) = some us' := by
  obtain ⟨hk, _⟩ := atU_is h1
  refine ⟨us.eraseIdx k, ?_⟩
  unfold oneU dropR
  dsimp only
  rw [if_neg (by decide), h1]
  dsimp only
  rw [List.getElem?_eq_getElem hk]
  rfl

theorem makeA_no {X Y : List ByteArray} {ep nx : Int} {us : List U} {id : ByteArray} {want : Int} (h : (makeA X Y ep nx us id want).c ≠ 0) : makeA X Y ep nx us id want = ⟨X, nx, us, (makeA X Y ep nx us id want).c⟩ := by
  rw [makeA] at h ⊢
  split at h
  · rename_i h1
    split at h
    · split at h
      · exact absurd rfl h
      · rename_i h2 h3; rw [if_pos h1, if_pos h2, if_neg h3]
    · rename_i h2; rw [if_pos h1, if_neg h2]
  · rename_i h1; rw [if_neg h1]

theorem makeA_yes {X Y : List ByteArray} {ep nx : Int} {us : List U} {id : ByteArray} {want : Int} (h : (makeA X Y ep nx us id want).c = 0) : SOk X Y ep nx us ∧ (idB id.data.toList = true ∧ kindB 1 want 0 = true) ∧ nx + 1 ≤ (X.length : Int) ∧ ∃ us', [makeR id want].foldlM oneU us = some us' ∧ makeA X Y ep nx us id want = ⟨wroteX X ep nx.toNat [makeR id want], nx + 1, us', 0⟩ := by
  rw [makeA] at h
  split at h
  · rename_i h1
    split at h
    · rename_i h2
      split at h
      · rename_i h3
        have hso : SOk X Y ep nx us := decB_of h1.1
        have ho := make_fits (want := want) h2 hso.few h3.2
        have hf : [makeR id want].foldlM oneU us = some (makeU us ⟨id, want, [], false⟩) := by rw [List.foldlM_cons, ho]; rfl
        refine ⟨hso, ⟨h1.2.1, ?_⟩, by omega, _, hf, ?_⟩
        · rw [kindB, if_pos rfl, decide_eq_true (show 0 ≤ want ∧ want ≤ 1000000000 by omega)]; rfl
        · rw [makeA, if_pos h1, if_pos h2, if_pos h3, wroteA, hf]; rfl
      · cases h
    · cases h
  · cases h

theorem dropA_no {X Y : List ByteArray} {ep nx : Int} {us : List U} {id : ByteArray} (h : (dropA X Y ep nx us id).c ≠ 0) : dropA X Y ep nx us id = ⟨X, nx, us, (dropA X Y ep nx us id).c⟩ := by
  rw [dropA] at h ⊢
  split at h
  · rename_i h1
    split at h
    · rename_i h2; rw [if_pos h1, if_pos h2]
    · rename_i h2
      split at h
      · exact absurd rfl h
      · rename_i h3; rw [if_pos h1, if_neg h2, if_neg h3]
  · rename_i h1; rw [if_neg h1]

theorem dropA_yes {X Y : List ByteArray} {ep nx : Int} {us : List U} {id : ByteArray} (h : (dropA X Y ep nx us id).c = 0) : SOk X Y ep nx us ∧ (idB id.data.toList = true ∧ kindB 4 0 0 = true) ∧ nx + 1 ≤ (X.length : Int) ∧ ∃ us', [dropR id].foldlM oneU us = some us' ∧ dropA X Y ep nx us id = ⟨wroteX X ep nx.toNat [dropR id], nx + 1, us', 0⟩ := by
  rw [dropA] at h
  split at h
  · rename_i h1
    split at h
    · cases h
    · rename_i h2
      split at h
      · rename_i h3
        have hso : SOk X Y ep nx us := decB_of h1.1
        cases ha : atU us id with
        | none => exact absurd ha h2
        | some k =>
          obtain ⟨us', ho⟩ := drop_fits ha
          have hf : [dropR id].foldlM oneU us = some us' := by rw [List.foldlM_cons, ho]; rfl
          refine ⟨hso, ⟨h1.2, rfl⟩, by omega, us', hf, ?_⟩
          rw [dropA, if_pos h1, if_neg h2, if_pos h3, wroteA, hf]; rfl
      · cases h
  · cases h

end Go.Proofs.YtclkfjlnhcccdaaGreatDoor

namespace Go.Proofs.YtclkfjlnhcccdaaGreatDoor
open Go.RowKit
set_option linter.unusedVariables false

structure OA where
  X : List ByteArray
  Y : List ByteArray
  ep : Int
  nx : Int
  us : List U
  ok : Bool

def openA (X Y : List ByteArray) : OA := match openO X Y with
  | none => ⟨[], [], 0, 0, [], false⟩
  | some (ep, nx, us) => ⟨X, Y, ep, (nx : Int), us, true⟩

theorem OpenAns.get {base : Nat} {X Y : List ByteArray} {e : Ending} {w' : World} (h : OpenAns base X Y e w') : ∃ v, e = .returned (.tuple #[v, .bool (openA X Y).ok]) ∧ AnsS base (openA X Y).X (openA X Y).Y (openA X Y).ep (openA X Y).nx (openA X Y).us v w' := by
  rw [OpenAns] at h
  rw [openA]
  cases ho : openO X Y with
  | none => rw [ho] at h; exact h
  | some t =>
    obtain ⟨ep, nx, us⟩ := t
    rw [ho] at h
    exact h

theorem foldlM_zs {rs : List R} : ∀ {us us' : List U} {m : Nat}, (∀ u ∈ us, u.zs.length ≤ m) → (∀ r ∈ rs, r.zs.length ≤ 24) → rs.foldlM oneU us = some us' → ∀ u ∈ us', u.zs.length ≤ m + rs.length * 24 := by
  induction rs with
  | nil =>
    intro us us' m h1 _ h
    obtain rfl : us = us' := by simpa using h
    simpa using h1
  | cons r rs ih =>
    intro us us' m h1 hr h
    rw [List.foldlM_cons] at h
    cases ho : oneU us r with
    | none => rw [ho] at h; cases h
    | some u1 =>
      rw [ho] at h
      have h2 := oneU_zs ho h1
      have h3 := hr r (List.mem_cons_self ..)
      intro u hu
      have h4 := ih (m := m + 24) (fun u hu => by have := h2 u hu; omega) (fun x hx => hr x (List.mem_cons_of_mem _ hx)) h u hu
      rw [List.length_cons]
      omega

/-- The uploads of sectors have few bytes. -/
theorem fold_small {X Y : List ByteArray} {us : List U} (h : okD X Y = true) (hf : foldU (scanR X) = some us) : us.length ≤ 10 ∧ ∀ u ∈ us, u.zs.length ≤ 4800 := by
  have h1 := (okD_iff.1 h).2.1
  have h2 := scanFrom_len X 0 0
  have h3 : (scanR X).length = (scanFrom 0 0 X).length := rfl
  refine ⟨foldlM_len (us := []) (by simp) hf, fun u hu => ?_⟩
  have h4 := foldlM_zs (us := []) (m := 0) (by simp) (fun r hr => (okRec_iff (scan_allok X r hr)).2.2.2.2.2) hf u hu
  omega

theorem openA_sz {X Y : List ByteArray} (h1 : X.length ≤ 1048576) (h2 : Y.length ≤ 1048576) : (openA X Y).X.length ≤ 1048576 ∧ (openA X Y).Y.length ≤ 1048576 ∧ (openA X Y).us.length ≤ 1048576 ∧ ∀ u ∈ (openA X Y).us, u.zs.length ≤ 1048576 := by
  rw [openA]
  cases ho : openO X Y with
  | none => simp
  | some t =>
    obtain ⟨ep, nx, us⟩ := t
    rw [openO] at ho
    split at ho
    · rename_i hok hf
      split at ho
      · cases ho
      · simp only [Option.some.injEq, Prod.mk.injEq] at ho
        obtain ⟨_, _, rfl⟩ := ho
        have h3 := fold_small hok hf
        exact ⟨h1, h2, Nat.le_trans h3.1 (by decide), fun u hu => by have := h3.2 u hu; omega⟩
    · cases ho

end Go.Proofs.YtclkfjlnhcccdaaGreatDoor

namespace Go.Proofs.YtclkfjlnhcccdaaGreatDoor
open Go.RowKit
set_option linter.unusedVariables false

/-- What is kept of a sector. -/
def fallL (xs ys : List ByteArray) (ks : List Bool) : List ByteArray := (List.range xs.length).map fun i => if ks.getD i false then xs.getD i ⟨#[]⟩ else ys.getD i ⟨#[]⟩

def fallX (xs ys : List ByteArray) (ks : List Bool) : List ByteArray := if okD xs ys then fallL xs ys ks else xs
def fallY (xs ys : List ByteArray) (ks : List Bool) : List ByteArray := if okD xs ys then fallL xs ys ks else ys

theorem fallL_len (xs ys : List ByteArray) (ks : List Bool) : (fallL xs ys ks).length = xs.length := by simp [fallL]

theorem fallX_len (xs ys : List ByteArray) (ks : List Bool) : (fallX xs ys ks).length ≤ xs.length ∧ (fallY xs ys ks).length ≤ xs.length + ys.length := by
  rw [fallX, fallY]
  split
  · rw [fallL_len]
    omega
  · omega

theorem fallL_at {xs ys : List ByteArray} {ks : List Bool} {k : Nat} {x y : ByteArray} (hx : xs[k]? = some x) (hy : ys[k]? = some y) : (fallL xs ys ks)[k]? = some (if ks.getD k false then x else y) := by
  have hk : k < xs.length := (List.getElem?_eq_some_iff.1 hx).1
  obtain ⟨_, rfl⟩ := List.getElem?_eq_some_iff.1 hx
  simp [fallL, hk, List.getD_eq_getElem?_getD, hy]

/-- A row of which the first k are as F says. -/
def fallTo (F L : List ByteArray) (k : Nat) : List ByteArray := F.take k ++ L.drop k

theorem fallTo_zero (F L : List ByteArray) : fallTo F L 0 = L := by simp [fallTo]
theorem fallTo_all (F L : List ByteArray) (h : F.length = L.length) : fallTo F L L.length = F := by simp [fallTo, ← h]

theorem fallTo_len (F L : List ByteArray) (k : Nat) (h : F.length = L.length) (hk : k ≤ L.length) : (fallTo F L k).length = L.length := by simp [fallTo]; omega

theorem fallTo_at (F L : List ByteArray) (k : Nat) (h : F.length = L.length) (hk : k < L.length) : (fallTo F L k)[k]? = L[k]? := by
  rw [fallTo, List.getElem?_append_right (by simp; omega), List.length_take, List.getElem?_drop]
  congr 1
  omega

theorem fallTo_set (F L : List ByteArray) (k : Nat) (x : ByteArray) (h : F.length = L.length) (hk : k < L.length) (hF : F[k]? = some x) : (fallTo F L k).set k x = fallTo F L (k + 1) := by
  have ht : (F.take k).length = k := by simp; omega
  rw [fallTo, fallTo, List.set_append_right k _ (by omega), ht, Nat.sub_self, List.drop_eq_getElem_cons hk, List.set_cons_zero, List.take_add_one, hF]
  simp

theorem fallTo_same (F L : List ByteArray) (k : Nat) (x : ByteArray) (h : F.length = L.length) (hL : L[k]? = some x) (hF : F[k]? = some x) : fallTo F L k = fallTo F L (k + 1) := by
  have hk : k < L.length := (List.getElem?_eq_some_iff.1 hL).1
  rw [← fallTo_set F L k x h hk hF]
  apply List.ext_getElem?
  intro j
  rw [List.getElem?_set]
  by_cases hj : k = j
  · subst hj
    have := fallTo_len F L k h (by omega)
    rw [if_pos rfl, if_pos (by omega), fallTo_at F L k h hk, hL]
  · rw [if_neg hj]

end Go.Proofs.YtclkfjlnhcccdaaGreatDoor

namespace Go.Proofs.YtclkfjlnhcccdaaGreatDoor
open Go.RowKit
set_option linter.unusedVariables false

structure CA where
  X : List ByteArray
  Y : List ByteArray
  ep : Int
  nx : Int
  us : List U
  hs : List Hd
  ok : Bool

/-- The server behind a crash. -/
noncomputable def crA (X Y : List ByteArray) (ep nx : Int) (us : List U) (hs : List Hd) (ks : List Bool) : CA :=
  if svB X Y ep nx us hs = true ∧ (openA (fallX X Y ks) (fallY X Y ks)).ok = true then ⟨(openA (fallX X Y ks) (fallY X Y ks)).X, (openA (fallX X Y ks) (fallY X Y ks)).Y, (openA (fallX X Y ks) (fallY X Y ks)).ep, (openA (fallX X Y ks) (fallY X Y ks)).nx, (openA (fallX X Y ks) (fallY X Y ks)).us, [], true⟩ else ⟨X, Y, ep, nx, us, hs, false⟩

theorem fallY_len (X Y : List ByteArray) (ks : List Bool) (m : Nat) (h1 : X.length ≤ m) (h2 : Y.length ≤ m) : (fallY X Y ks).length ≤ m := by
  rw [fallY]
  split
  · rw [fallL_len]; exact h1
  · exact h2

theorem cr_sz {n n' un hn : Nat} {X Y : List ByteArray} {l : List UE} {hs : List Hd} {w : World} {ua : Option Addr} {ep nx : Int} {ks : List Bool} (h : SzS n X n' Y un l) (hhn : hn ≤ 1048576) (h0 : X.length = n) (h1 : Y.length = n') (hu : UpsI w ua un l) (hh : hs.length = hn) :
    (crA X Y ep nx (l.map UE.u) hs ks).X.length ≤ 1048576 ∧ (crA X Y ep nx (l.map UE.u) hs ks).Y.length ≤ 1048576 ∧ (crA X Y ep nx (l.map UE.u) hs ks).us.length ≤ 1048576 ∧ (∀ u ∈ (crA X Y ep nx (l.map UE.u) hs ks).us, u.zs.length ≤ 1048576) ∧ (crA X Y ep nx (l.map UE.u) hs ks).hs.length ≤ 1048576 := by
  have a1 := h.1
  have a2 := h.2.1
  have a3 := h.2.2.2.2.1
  rw [crA]
  split
  · have b1 := (fallX_len X Y ks).1
    have b2 := fallY_len X Y ks 1048576 (by omega) (by omega)
    have := openA_sz (X := fallX X Y ks) (Y := fallY X Y ks) (by omega) (by omega)
    exact ⟨this.1, this.2.1, this.2.2.1, this.2.2.2, by simp⟩
  · exact ⟨by dsimp only; omega, by dsimp only; omega, by dsimp only; rw [List.length_map, hu.1]; exact a3, sz_us h hu, by dsimp only; omega⟩

end Go.Proofs.YtclkfjlnhcccdaaGreatDoor
