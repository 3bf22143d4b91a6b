/- A record comes back of its text, and a byte of its sum that is turned is told; no program in it. Disks that are right, and what is read off them; no program in it. Stores that are right, and what a record written into one makes; no program in it. What is written into a store, one record behind the other, and what the store's functions answer; no program in it. What is opened of a disk. -/
import Derived.Test.YtogopmngbjkcjafDoorM08
import Derived.Test.YtogopmngbjkcjafDoorM01
import Derived.Test.YtogopmngbjkcjafDoorM06
namespace Go.Proofs.YtogopmngbjkcjafDoor
open Go.RowKit
set_option linter.unusedVariables false

theorem putT_ok {r : R} (h : r.ok = true) : putT r.e r.q r.k r.id r.n r.zs = txU r.put := by
  rw [putT, show okRec r.e r.q r.k r.id r.n r.zs.length = true from h]
  rfl

theorem put_range {r : R} (hz : ∀ x ∈ r.zs, 0 ≤ x ∧ x ≤ 255) : ∀ x ∈ r.put, 0 ≤ x ∧ x ≤ 255 := sumB_range _ (recB_range _ _ _ _ _ _ hz)

theorem rec_back {r : R} (h : r.ok = true) (hz : ∀ x ∈ r.zs, 0 ≤ x ∧ x ≤ 255) : recOf (txU r.put) = some r := recOf_iff.2 ⟨h, (txI_txU _ (put_range hz)).symm⟩

/-- Another text of the same length that is the same but for the last four bytes is no record. -/
theorem rec_turned {r : R} (h : r.ok = true) {t : List Int} (ht : ∀ x ∈ t, 0 ≤ x ∧ x ≤ 255) (hl : t.length = r.put.length) (hs : t.take (r.put.length - 4) = r.put.take (r.put.length - 4)) (hne : t ≠ r.put) : recOf (txU t) = none := by
  cases hr : recOf (txU t) with
  | none => rfl
  | some r' =>
    exfalso
    obtain ⟨h1, h2⟩ := recOf_iff.1 hr
    rw [txI_txU t ht] at h2
    have l1 := put_len r
    have l2 := put_len r'
    have b1 : r.put.take (r.put.length - 4) = r.body := by
      rw [l1, R.put, sumB, show 16 + r.id.size + r.zs.length - 4 = r.body.length by rw [R.body, recB_len]; omega]
      exact List.take_left
    have b2 : r'.put.take (r'.put.length - 4) = r'.body := by
      rw [l2, R.put, sumB, show 16 + r'.id.size + r'.zs.length - 4 = r'.body.length by rw [R.body, recB_len]; omega]
      exact List.take_left
    have hlen : r'.put.length = r.put.length := by rw [h2, hl]
    have hb : r'.body = r.body := by rw [← b2, ← b1, hlen, h2, hs]
    exact hne (by rw [← h2, R.put, R.put, hb])

end Go.Proofs.YtogopmngbjkcjafDoor

namespace Go.Proofs.YtogopmngbjkcjafDoor
open Go.RowKit
set_option linter.unusedVariables false

/-- Whether a sector may be as it is. -/
def fitsD (x : ByteArray) : Bool := decide (x.size ≤ 64)

/-- A disk that is right. -/
def okD (xs ys : List ByteArray) : Bool := decide (xs.length = ys.length ∧ xs.length ≤ 200) && (xs.all fitsD && ys.all fitsD)

theorem okD_len {xs ys : List ByteArray} (h : ¬ (xs.length = ys.length ∧ xs.length ≤ 200)) : okD xs ys = false := by
  rw [okD, decide_eq_false h, Bool.false_and]

theorem okD_bad {xs ys : List ByteArray} {k : Nat} {x y : ByteArray} (hx : xs[k]? = some x) (hy : ys[k]? = some y) (h : 64 < x.size ∨ 64 < y.size) : okD xs ys = false := by
  rcases h with h | h
  · have : xs.all fitsD = false := by
      rw [List.all_eq_false]
      exact ⟨x, List.mem_of_getElem? hx, by simp [fitsD]; omega⟩
    rw [okD, this, Bool.false_and, Bool.and_false]
  · have : ys.all fitsD = false := by
      rw [List.all_eq_false]
      exact ⟨y, List.mem_of_getElem? hy, by simp [fitsD]; omega⟩
    rw [okD, this, Bool.and_false, Bool.and_false]

theorem okD_good {xs ys : List ByteArray} (hl : xs.length = ys.length) (hb : xs.length ≤ 200) (h : ∀ (i : Nat) (x y : ByteArray), xs[i]? = some x → ys[i]? = some y → x.size ≤ 64 ∧ y.size ≤ 64) : okD xs ys = true := by
  have h1 : xs.all fitsD = true := by
    rw [List.all_eq_true]
    intro x hx
    obtain ⟨i, hi, rfl⟩ := List.mem_iff_getElem.1 hx
    have := (h i _ _ (List.getElem?_eq_getElem hi) (List.getElem?_eq_getElem (by omega))).1
    simp [fitsD, this]
  have h2 : ys.all fitsD = true := by
    rw [List.all_eq_true]
    intro y hy
    obtain ⟨i, hi, rfl⟩ := List.mem_iff_getElem.1 hy
    have := (h i _ _ (List.getElem?_eq_getElem (by omega)) (List.getElem?_eq_getElem hi)).2
    simp [fitsD, this]
  rw [okD, h1, h2, decide_eq_true ⟨hl, hb⟩]
  rfl

theorem okD_iff {xs ys : List ByteArray} : okD xs ys = true ↔ xs.length = ys.length ∧ xs.length ≤ 200 ∧ (∀ x ∈ xs, x.size ≤ 64) ∧ ∀ y ∈ ys, y.size ≤ 64 := by
  simp [okD, fitsD, List.all_eq_true, and_assoc]

/-- The sector at i. -/
def secAt (xs : List ByteArray) (i : Int) : ByteArray := if 0 ≤ i ∧ i < xs.length then xs.getD i.toNat ⟨#[]⟩ else ⟨#[]⟩

end Go.Proofs.YtogopmngbjkcjafDoor

namespace Go.Proofs.YtogopmngbjkcjafDoor
open Go.RowKit
set_option linter.unusedVariables false

/-- A store is right. -/
def SOk (X Y : List ByteArray) (ep nx : Int) (us : List U) : Prop :=
  okD X Y = true ∧ (0 ≤ ep ∧ ep ≤ 10000) ∧ foldU (scanR X) = some us ∧ nx = ((scanR X).length : Int) ∧ (∀ r, (scanR X).getLast? = some r → r.e ≤ ep) ∧ ∀ k x r, (scanR X).length ≤ k → X[k]? = some x → recOf x = some r → r.e < ep

noncomputable def decB (P : Prop) : Bool := @decide P (Classical.propDecidable P)
theorem decB_true {P : Prop} (h : P) : decB P = true := @decide_eq_true P (Classical.propDecidable P) h
theorem decB_false {P : Prop} (h : ¬ P) : decB P = false := @decide_eq_false P (Classical.propDecidable P) h
theorem decB_iff {P : Prop} {b : Bool} (h : b = true ↔ P) : b = decB P := by
  cases b with
  | true => exact (decB_true (h.1 rfl)).symm
  | false => exact (decB_false (fun p => by cases h.2 p)).symm

theorem no_store {X Y : List ByteArray} {ep nx : Int} {us : List U} (h : ¬ SOk X Y ep nx us) : (false = true ↔ SOk X Y ep nx us) := ⟨fun h2 => (by cases h2), fun h2 => absurd h2 h⟩

theorem scan_last {ep : Int} (l : List ByteArray) : ∀ (i : Nat) (last : Int), (∀ r, (scanFrom i last l).getLast? = some r → r.e ≤ ep) → ∀ r ∈ scanFrom i last l, r.e ≤ ep := by
  induction l with
  | nil => intro i last _ r hr; simp [scanFrom] at hr
  | cons s l ih =>
    intro i last h r hr
    rw [scanFrom] at h hr
    cases hn : nextR i last s with
    | none => rw [hn] at hr; simp at hr
    | some r0 =>
      rw [hn] at h hr
      dsimp only at h hr
      cases hL : scanFrom (i + 1) r0.e l with
      | nil =>
        rw [hL] at h hr
        obtain rfl : r = r0 := by simpa using hr
        exact h r rfl
      | cons r1 L =>
        have hin : ∀ r ∈ scanFrom (i + 1) r0.e l, r.e ≤ ep := ih (i + 1) r0.e (fun r hr => h r (by rw [hL] at hr ⊢; simpa using hr))
        rcases List.mem_cons.1 hr with rfl | hr
        · have h1 := (scanFrom_at l (i + 1) r.e 0 r1 (by rw [hL]; rfl)).2.2
          have h2 := hin r1 (by rw [hL]; exact List.mem_cons_self ..)
          omega
        · exact hin r hr

/-- A record is written behind the last one that follows. -/
theorem scan_set {r : R} {s : ByteArray} (hs : recOf s = some r) (l : List ByteArray) : ∀ (i : Nat) (last : Int), last ≤ r.e → (scanFrom i last l).length < l.length → r.q = ((i + (scanFrom i last l).length : Nat) : Int) → (∀ x ∈ scanFrom i last l, x.e ≤ r.e) → (∀ k x y, (scanFrom i last l).length < k → l[k]? = some x → recOf x = some y → y.e < r.e) → scanFrom i last (l.set (scanFrom i last l).length s) = scanFrom i last l ++ [r] := by
  induction l with
  | nil => intro i last _ h; simp at h
  | cons t l ih =>
    intro i last hl hlen hq ha hb
    cases hn : nextR i last t with
    | none =>
      have e : scanFrom i last (t :: l) = [] := by rw [scanFrom, hn]
      rw [e] at hlen hq ha hb ⊢
      have hn2 : nextR i last s = some r := by
        rw [nextR, hs]
        exact if_pos ⟨by simpa using hq, hl⟩
      rw [List.length_nil, List.set_cons_zero, scanFrom, hn2]
      cases l with
      | nil => rfl
      | cons y l =>
        have hy : nextR (i + 1) r.e y = none := by
          rw [nextR]
          cases hr : recOf y with
          | none => rfl
          | some z =>
            have := hb 1 y z (by simp) rfl hr
            exact if_neg (fun h => by omega)
        dsimp only
        rw [scanFrom, hy]
        rfl
    | some r0 =>
      have e : scanFrom i last (t :: l) = r0 :: scanFrom (i + 1) r0.e l := by rw [scanFrom, hn]
      rw [e] at hlen hq ha hb ⊢
      rw [List.length_cons, List.set_cons_succ, scanFrom, hn]
      dsimp only
      rw [ih (i + 1) r0.e (ha r0 (List.mem_cons_self ..)) (by simpa using hlen) (by rw [hq, List.length_cons]; congr 1; omega) (fun x hx => ha x (List.mem_cons_of_mem _ hx)) (fun k x y hk hx hy => hb (k + 1) x y (by rw [List.length_cons]; omega) (by simpa using hx) hy)]
      rfl

theorem put_size {r : R} (h : r.ok = true) : (txU r.put).size ≤ 48 := by
  have := okRec_iff h
  rw [txU_size, put_len]
  omega

theorem foldU_snoc (rs : List R) (r : R) : foldU (rs ++ [r]) = (foldU rs).bind fun l => oneU l r := by
  rw [foldU, foldU, List.foldlM_append]
  simp [List.foldlM]

/-- What is right stays so behind a record that fits. -/
theorem SOk.put {X Y : List ByteArray} {ep nx : Int} {us us' : List U} {r : R} (h : SOk X Y ep nx us) (hok : r.ok = true) (hz : ∀ x ∈ r.zs, 0 ≤ x ∧ x ≤ 255) (he : r.e = ep) (hq : r.q = nx) (hlt : nx < (X.length : Int)) (ho : oneU us r = some us') :
    scanR (X.set nx.toNat (txU r.put)) = scanR X ++ [r] ∧ SOk (X.set nx.toNat (txU r.put)) Y ep (nx + 1) us' := by
  obtain ⟨h1, h2, h3, h4, h5, h6⟩ := h
  have hn : nx.toNat = (scanR X).length := by omega
  have hb := rec_back hok hz
  have hsc : scanR (X.set nx.toNat (txU r.put)) = scanR X ++ [r] := by
    rw [hn]
    exact scan_set hb X 0 0 (by omega) (by show (scanR X).length < _; omega) (by rw [hq, h4, Nat.zero_add]; rfl) (fun x hx => by rw [he]; exact scan_last X 0 0 h5 x hx) (fun k x y hk hx hy => by rw [he]; exact h6 k x y (Nat.le_of_lt hk) hx hy)
  refine ⟨hsc, ?_, h2, ?_, ?_, ?_, ?_⟩
  · rw [okD_iff] at h1 ⊢
    refine ⟨by rw [List.length_set]; exact h1.1, by rw [List.length_set]; exact h1.2.1, fun x hx => ?_, h1.2.2.2⟩
    rcases List.mem_or_eq_of_mem_set hx with hx | rfl
    · exact h1.2.2.1 x hx
    · have := put_size hok; omega
  · rw [hsc, foldU_snoc, h3]
    exact ho
  · rw [hsc, List.length_append, h4]
    simp
  · intro y hy
    rw [hsc] at hy
    obtain rfl : r = y := by simpa using hy
    omega
  · intro k x y hk hx hy
    rw [hsc, List.length_append] at hk
    simp at hk
    rw [List.getElem?_set_ne (by omega)] at hx
    exact h6 k x y (by omega) hx hy

theorem top_le {ep : Int} (l : List ByteArray) : ∀ m : Int, (l.foldl topStep m ≤ ep ↔ m ≤ ep ∧ ∀ (k : Nat) x r, l[k]? = some x → recOf x = some r → r.e ≤ ep) := by
  induction l with
  | nil => intro m; simp
  | cons s l ih =>
    intro m
    rw [List.foldl_cons, ih]
    constructor
    · rintro ⟨h1, h2⟩
      refine ⟨Int.le_trans (topStep_ge m s) h1, fun k x r hx hr => ?_⟩
      cases k with
      | zero =>
        simp at hx
        subst hx
        rw [topStep_some hr] at h1
        split at h1 <;> omega
      | succ k => exact h2 k x r (by simpa using hx) hr
    · rintro ⟨h1, h2⟩
      refine ⟨?_, fun k x r hx hr => h2 (k + 1) x r (by simpa using hx) hr⟩
      cases hs : recOf s with
      | none => rw [topStep_none hs]; exact h1
      | some r =>
        rw [topStep_some hs]
        have := h2 0 s r rfl hs
        split <;> omega

/-- Said as the program goes: the greatest epoch ahead and behind. -/
theorem SOk_top {X Y : List ByteArray} {ep nx : Int} {us : List U} (n : Nat) (h1 : okD X Y = true) (h2 : 0 ≤ ep ∧ ep ≤ 10000) (h3 : foldU (scanR X) = some us) (h4 : nx = ((scanR X).length : Int)) (hn : (scanR X).length = n) :
    SOk X Y ep nx us ↔ topE (X.take n) ≤ ep ∧ topE (X.drop n) < ep := by
  subst hn
  have ht : topE (X.take (scanR X).length) ≤ ep ↔ -1 ≤ ep ∧ ∀ (k : Nat) x r, (X.take (scanR X).length)[k]? = some x → recOf x = some r → r.e ≤ ep := top_le _ (-1)
  have hd : topE (X.drop (scanR X).length) ≤ ep - 1 ↔ -1 ≤ ep - 1 ∧ ∀ (k : Nat) x r, (X.drop (scanR X).length)[k]? = some x → recOf x = some r → r.e ≤ ep - 1 := top_le _ (-1)
  rw [show topE (X.drop (scanR X).length) < ep ↔ topE (X.drop (scanR X).length) ≤ ep - 1 from by omega, ht, hd]
  constructor
  · rintro ⟨_, _, _, _, h5, h6⟩
    refine ⟨⟨by omega, fun k x r hx hr => ?_⟩, by omega, fun k x r hx hr => ?_⟩
    · have hk : k < (scanR X).length := by
        have := (List.getElem?_eq_some_iff.1 hx).1
        rw [List.length_take] at this
        omega
      obtain ⟨⟨x', hx', hr'⟩, _⟩ := scan_one (List.getElem?_eq_getElem hk)
      rw [List.getElem?_take_of_lt hk, hx'] at hx
      obtain rfl : x' = x := by simpa using hx
      rw [hr'] at hr
      obtain rfl : (scanR X)[k] = r := by simpa using hr
      exact scan_last X 0 0 h5 _ (List.getElem_mem hk)
    · rw [List.getElem?_drop] at hx
      have := h6 _ x r (by omega) hx hr
      omega
  · rintro ⟨⟨_, h5⟩, _, h6⟩
    refine ⟨h1, h2, h3, h4, fun r hr => ?_, fun k x r hk hx hr => ?_⟩
    · rw [List.getLast?_eq_getElem?] at hr
      have hk := (List.getElem?_eq_some_iff.1 hr).1
      obtain ⟨⟨x', hx', hr'⟩, _⟩ := scan_one hr
      exact h5 _ x' r (by rw [List.getElem?_take_of_lt (by omega)]; exact hx') hr'
    · have := h6 (k - (scanR X).length) x r (by rw [List.getElem?_drop, Nat.add_sub_cancel' hk]; exact hx) hr
      omega

end Go.Proofs.YtogopmngbjkcjafDoor

namespace Go.Proofs.YtogopmngbjkcjafDoor
open Go.RowKit
set_option linter.unusedVariables false

theorem decB_of {P : Prop} (h : decB P = true) : P := @of_decide_eq_true P (Classical.propDecidable P) h

/-- A record as it is written. -/
def R.at (r : R) (ep : Int) (q : Nat) : R := { r with e := ep, q := (q : Int) }

/-- The sectors behind records that are written from nx on. -/
def wroteX (X : List ByteArray) (ep : Int) (nx : Nat) : List R → List ByteArray
  | [] => X
  | r :: rs => wroteX (X.set nx (txU (r.at ep nx).put)) ep (nx + 1) rs

theorem wroteX_len (ep : Int) : ∀ (rs : List R) (X : List ByteArray) (nx : Nat), (wroteX X ep nx rs).length = X.length
  | [], _, _ => rfl
  | r :: rs, X, nx => by rw [wroteX, wroteX_len ep rs, List.length_set]

theorem wroteX_snoc (ep : Int) (r : R) : ∀ (rs : List R) (X : List ByteArray) (nx : Nat), wroteX X ep nx (rs ++ [r]) = (wroteX X ep nx rs).set (nx + rs.length) (txU (r.at ep (nx + rs.length)).put)
  | [], _, _ => rfl
  | x :: rs, X, nx => by
    have h : nx + 1 + rs.length = nx + (rs.length + 1) := by omega
    rw [List.cons_append, wroteX, wroteX_snoc ep r rs, wroteX, List.length_cons, h]

/-- What a function of the store answers: the sectors, the next one, the uploads, the code. -/
structure WA where
  X : List ByteArray
  nx : Int
  us : List U
  c : Int

def wroteA (X : List ByteArray) (ep nx : Int) (us : List U) (rs : List R) : WA := ⟨wroteX X ep nx.toNat rs, nx + (rs.length : Int), (rs.foldlM oneU us).getD us, 0⟩

theorem SOk.nums {X Y : List ByteArray} {ep nx : Int} {us : List U} (h : SOk X Y ep nx us) : (0 ≤ ep ∧ ep ≤ 10000) ∧ 0 ≤ nx ∧ nx ≤ (X.length : Int) ∧ X.length ≤ 200 := by
  obtain ⟨h1, h2, h3, h4, h5, h6⟩ := h
  have h7 := scanFrom_len X 0 0
  have h8 := (okD_iff.1 h1).2.1
  have h9 : (scanR X).length = (scanFrom 0 0 X).length := rfl
  exact ⟨h2, by omega, by omega, h8⟩

theorem foldlM_len {rs : List R} : ∀ {us us' : List U}, us.length ≤ 10 → rs.foldlM oneU us = some us' → us'.length ≤ 10 := by
  induction rs with
  | nil => intro us us' h1 h; obtain rfl : us = us' := by simpa using h
           exact h1
  | cons r rs ih =>
    intro us us' h1 h
    rw [List.foldlM_cons] at h
    cases ho : oneU us r with
    | none => rw [ho] at h; cases h
    | some u1 =>
      rw [ho] at h
      have := oneU_len ho
      exact ih (by omega) h

theorem SOk.few {X Y : List ByteArray} {ep nx : Int} {us : List U} (h : SOk X Y ep nx us) : us.length ≤ 10 := foldlM_len (us := []) (by simp) h.2.2.1

/-- What is right stays so behind records that fit. -/
theorem wrote_ok {Y : List ByteArray} {ep : Int} : ∀ {rs : List R} {X : List ByteArray} {nx : Int} {us us' : List U}, SOk X Y ep nx us → (∀ r ∈ rs, idB r.id.data.toList = true ∧ kindB r.k r.n r.zs.length = true ∧ ∀ x ∈ r.zs, 0 ≤ x ∧ x ≤ 255) → nx + (rs.length : Int) ≤ (X.length : Int) → rs.foldlM oneU us = some us' → SOk (wroteX X ep nx.toNat rs) Y ep (nx + (rs.length : Int)) us' := by
  intro rs
  induction rs with
  | nil =>
    intro X nx us us' h _ _ ho
    obtain rfl : us = us' := by simpa using ho
    simpa [wroteX] using h
  | cons r rs ih =>
    intro X nx us us' h hk hl ho
    obtain ⟨n1, n2, n3, n4⟩ := h.nums
    have hl' : nx + ((rs.length : Int) + 1) ≤ (X.length : Int) := by simpa using hl
    rw [List.foldlM_cons] at ho
    cases h1 : oneU us r with
    | none => rw [h1] at ho; cases ho
    | some u1 =>
      rw [h1] at ho
      have hr := hk r (List.mem_cons_self ..)
      have hq : ((nx.toNat : Nat) : Int) = nx := by omega
      have hok : (r.at ep nx.toNat).ok = true := by
        show okRec ep ((nx.toNat : Nat) : Int) r.k r.id r.n r.zs.length = true
        rw [okRec, hr.1, hr.2.1, hq, decide_eq_true n1, decide_eq_true (show 0 ≤ nx ∧ nx ≤ 199 by omega)]
        rfl
      have h2 := (h.put (r := r.at ep nx.toNat) hok hr.2.2 rfl hq (by omega) (us' := u1) h1).2
      have h3 := ih h2 (fun x hx => hk x (List.mem_cons_of_mem _ hx)) (by rw [List.length_set]; omega) ho
      have e1 : (nx + 1).toNat = nx.toNat + 1 := by omega
      have e2 : nx + 1 + (rs.length : Int) = nx + ((r :: rs).length : Int) := by simp; omega
      rw [e1, e2] at h3
      exact h3

/-- What MakeUp answers. -/
def makeR (id : ByteArray) (want : Int) : R := ⟨0, 0, 1, id, want, []⟩
noncomputable def makeA (X Y : List ByteArray) (ep nx : Int) (us : List U) (id : ByteArray) (want : Int) : WA :=
  if decB (SOk X Y ep nx us) = true ∧ idB id.data.toList = true ∧ 0 ≤ want ∧ want ≤ 1000000 then
    if atU us id = none then
      if nx < (X.length : Int) ∧ us.length ≠ 10 then wroteA X ep nx us [makeR id want] else ⟨X, nx, us, 5⟩
    else ⟨X, nx, us, 3⟩
  else ⟨X, nx, us, 1⟩

/-- What DropUp answers. -/
def dropR (id : ByteArray) : R := ⟨0, 0, 4, id, 0, []⟩
noncomputable def dropA (X Y : List ByteArray) (ep nx : Int) (us : List U) (id : ByteArray) : WA :=
  if decB (SOk X Y ep nx us) = true ∧ idB id.data.toList = true then
    if atU us id = none then ⟨X, nx, us, 2⟩
    else if nx < (X.length : Int) then wroteA X ep nx us [dropR id] else ⟨X, nx, us, 5⟩
  else ⟨X, nx, us, 1⟩

theorem make_fits {us : List U} {id : ByteArray} {want : Int} (h1 : atU us id = none) (h2 : us.length ≤ 10) (h3 : us.length ≠ 10) : oneU us (makeR id want) = some (makeU us ⟨id, want, [], false⟩) := by
  unfold oneU makeR
  dsimp only
  rw [if_pos rfl, if_pos ⟨h1, by omega⟩]

theorem drop_fits {us : List U} {id : ByteArray} {k : Nat} (h1 : atU us id = some k) : ∃ us', oneU us (dropR id) = some us' := by
  obtain ⟨hk, _⟩ := atU_is h1
  refine ⟨us.eraseIdx k, ?_⟩
  unfold oneU dropR
  dsimp only
  rw [if_neg (by decide), h1]
  dsimp only
  rw [List.getElem?_eq_getElem hk]
  rfl

theorem makeA_no {X Y : List ByteArray} {ep nx : Int} {us : List U} {id : ByteArray} {want : Int} (h : (makeA X Y ep nx us id want).c ≠ 0) : makeA X Y ep nx us id want = ⟨X, nx, us, (makeA X Y ep nx us id want).c⟩ := by
  rw [makeA] at h ⊢
  split at h
  · rename_i h1
    split at h
    · split at h
      · exact absurd rfl h
      · rename_i h2 h3; rw [if_pos h1, if_pos h2, if_neg h3]
    · rename_i h2; rw [if_pos h1, if_neg h2]
  · rename_i h1; rw [if_neg h1]

theorem makeA_yes {X Y : List ByteArray} {ep nx : Int} {us : List U} {id : ByteArray} {want : Int} (h : (makeA X Y ep nx us id want).c = 0) : SOk X Y ep nx us ∧ (idB id.data.toList = true ∧ kindB 1 want 0 = true) ∧ nx + 1 ≤ (X.length : Int) ∧ ∃ us', [makeR id want].foldlM oneU us = some us' ∧ makeA X Y ep nx us id want = ⟨wroteX X ep nx.toNat [makeR id want], nx + 1, us', 0⟩ := by
  rw [makeA] at h
  split at h
  · rename_i h1
    split at h
    · rename_i h2
      split at h
      · rename_i h3
        have hso : SOk X Y ep nx us := decB_of h1.1
        have ho := make_fits (want := want) h2 hso.few h3.2
        have hf : [makeR id want].foldlM oneU us = some (makeU us ⟨id, want, [], false⟩) := by rw [List.foldlM_cons, ho]; rfl
        refine ⟨hso, ⟨h1.2.1, ?_⟩, by omega, _, hf, ?_⟩
        · rw [kindB, if_pos rfl, decide_eq_true (show 0 ≤ want ∧ want ≤ 1000000000 by omega)]; rfl
        · rw [makeA, if_pos h1, if_pos h2, if_pos h3, wroteA, hf]; rfl
      · cases h
    · cases h
  · cases h

theorem dropA_no {X Y : List ByteArray} {ep nx : Int} {us : List U} {id : ByteArray} (h : (dropA X Y ep nx us id).c ≠ 0) : dropA X Y ep nx us id = ⟨X, nx, us, (dropA X Y ep nx us id).c⟩ := by
  rw [dropA] at h ⊢
  split at h
  · rename_i h1
    split at h
    · rename_i h2; rw [if_pos h1, if_pos h2]
    · rename_i h2
      split at h
      · exact absurd rfl h
      · rename_i h3; rw [if_pos h1, if_neg h2, if_neg h3]
  · rename_i h1; rw [if_neg h1]

theorem dropA_yes {X Y : List ByteArray} {ep nx : Int} {us : List U} {id : ByteArray} (h : (dropA X Y ep nx us id).c = 0) : SOk X Y ep nx us ∧ (idB id.data.toList = true ∧ kindB 4 0 0 = true) ∧ nx + 1 ≤ (X.length : Int) ∧ ∃ us', [dropR id].foldlM oneU us = some us' ∧ dropA X Y ep nx us id = ⟨wroteX X ep nx.toNat [dropR id], nx + 1, us', 0⟩ := by
  rw [dropA] at h
  split at h
  · rename_i h1
    split at h
    · cases h
    · rename_i h2
      split at h
      · rename_i h3
        have hso : SOk X Y ep nx us := decB_of h1.1
        cases ha : atU us id with
        | none => exact absurd ha h2
        | some k =>
          obtain ⟨us', ho⟩ := drop_fits ha
          have hf : [dropR id].foldlM oneU us = some us' := by rw [List.foldlM_cons, ho]; rfl
          refine ⟨hso, ⟨h1.2, rfl⟩, by omega, us', hf, ?_⟩
          rw [dropA, if_pos h1, if_neg h2, if_pos h3, wroteA, hf]; rfl
      · cases h
  · cases h

end Go.Proofs.YtogopmngbjkcjafDoor

namespace Go.Proofs.YtogopmngbjkcjafDoor
open Go.RowKit
set_option linter.unusedVariables false

/-- The epoch, the number of records and the uploads of the store that is opened. -/
def openO (X Y : List ByteArray) : Option (Int × Nat × List U) :=
  match okD X Y, foldU (scanR X) with
  | true, some us => if 10000 < topE X + 1 then none else some (topE X + 1, (scanR X).length, us)
  | _, _ => none

theorem topE_from (l : List ByteArray) : ∀ m : Int, -1 ≤ m → m ≤ 10000 → -1 ≤ l.foldl topStep m ∧ l.foldl topStep m ≤ 10000 := by
  induction l with
  | nil => exact fun m h1 h2 => ⟨h1, h2⟩
  | cons x l ih =>
    intro m h1 h2
    rw [List.foldl_cons]
    have hs : -1 ≤ topStep m x ∧ topStep m x ≤ 10000 := by
      cases h : recOf x with
      | none => rw [topStep_none h]; exact ⟨h1, h2⟩
      | some r =>
        have hr := (okRec_iff (recOf_iff.1 h).1).1
        rw [topStep_some h]
        split <;> omega
    exact ih _ hs.1 hs.2

theorem topE_range (l : List ByteArray) : -1 ≤ topE l ∧ topE l ≤ 10000 := topE_from l (-1) (by omega) (by omega)

/-- The answer. -/
def OpenAns (base : Nat) (X Y : List ByteArray) (e : Ending) (w' : World) : Prop :=
  match openO X Y with
  | none => ∃ v, e = .returned (.tuple #[v, .bool false]) ∧ AnsS base [] [] 0 0 [] v w'
  | some (ep, nx, us) => ∃ v, e = .returned (.tuple #[v, .bool true]) ∧ AnsS base X Y ep (nx : Int) us v w'

end Go.Proofs.YtogopmngbjkcjafDoor
