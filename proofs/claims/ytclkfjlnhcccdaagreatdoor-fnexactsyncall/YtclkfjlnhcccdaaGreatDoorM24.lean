/- What the records ahead are: of their sectors, with their numbers, in the order of their epochs, none above the top; no program in it. A record comes back of its text, and a byte of its sum that is turned is told; no program in it. Stores that are right, and what a record written into one makes; no program in it. -/
import Derived.Test.YtclkfjlnhcccdaaGreatDoorM23
import Derived.Test.YtclkfjlnhcccdaaGreatDoorM13
import Derived.Test.YtclkfjlnhcccdaaGreatDoorM14
import Derived.Test.YtclkfjlnhcccdaaGreatDoorM19
namespace Go.Proofs.YtclkfjlnhcccdaaGreatDoor
open Go.RowKit
set_option linter.unusedVariables false

theorem scanFrom_at (l : List ByteArray) : ∀ (i : Nat) (last : Int) (k : Nat) (r : R), (scanFrom i last l)[k]? = some r → (∃ x, l[k]? = some x ∧ recOf x = some r) ∧ r.q = ((i + k : Nat) : Int) ∧ last ≤ r.e := by
  induction l with
  | nil => intro i last k r h; simp [scanFrom] at h
  | cons s l ih =>
    intro i last k r h
    rw [scanFrom] at h
    cases hn : nextR i last s with
    | none => rw [hn] at h; simp at h
    | some r0 =>
      rw [hn] at h
      obtain ⟨h1, h2, h3⟩ := nextR_ok hn
      cases k with
      | zero =>
        simp at h
        subst h
        exact ⟨⟨s, rfl, h1⟩, by simpa using h2, h3⟩
      | succ k =>
        simp at h
        obtain ⟨⟨x, hx, hr⟩, hq, he⟩ := ih (i + 1) r0.e k r h
        exact ⟨⟨x, by simpa using hx, hr⟩, by rw [hq]; congr 1; omega, by omega⟩

theorem scanFrom_len (l : List ByteArray) : ∀ (i : Nat) (last : Int), (scanFrom i last l).length ≤ l.length := by
  induction l with
  | nil => intro i last; exact Nat.le_refl _
  | cons s l ih =>
    intro i last
    rw [scanFrom]
    cases hn : nextR i last s with
    | none => exact Nat.zero_le _
    | some r0 =>
      have := ih (i + 1) r0.e
      simp only [List.length_cons]
      omega

theorem scanFrom_up (l : List ByteArray) : ∀ (i : Nat) (last : Int) (k : Nat) (r r' : R), (scanFrom i last l)[k]? = some r → (scanFrom i last l)[k + 1]? = some r' → r.e ≤ r'.e := by
  induction l with
  | nil => intro i last k r r' h; simp [scanFrom] at h
  | cons s l ih =>
    intro i last k r r' h h'
    rw [scanFrom] at h h'
    cases hn : nextR i last s with
    | none => rw [hn] at h; simp at h
    | some r0 =>
      rw [hn] at h h'
      cases k with
      | zero =>
        simp at h h'
        subst h
        exact (scanFrom_at l (i + 1) r0.e 0 r' (by simpa using h')).2.2
      | succ k =>
        simp at h h'
        exact ih (i + 1) r0.e k r r' h h'

theorem topStep_ge (m : Int) (s : ByteArray) : m ≤ topStep m s := by
  cases h : recOf s with
  | none => rw [topStep_none h]; exact Int.le_refl _
  | some r => rw [topStep_some h]; split <;> omega

theorem top_ge (l : List ByteArray) : ∀ m : Int, m ≤ l.foldl topStep m := by
  induction l with
  | nil => intro m; exact Int.le_refl _
  | cons s l ih => intro m; exact Int.le_trans (topStep_ge m s) (ih _)

theorem top_in (l : List ByteArray) : ∀ (m : Int) (k : Nat) (x : ByteArray) (r : R), l[k]? = some x → recOf x = some r → r.e ≤ l.foldl topStep m := by
  induction l with
  | nil => intro m k x r h; simp at h
  | cons s l ih =>
    intro m k x r h hr
    cases k with
    | zero =>
      simp at h
      subst h
      refine Int.le_trans ?_ (top_ge l _)
      rw [topStep_some hr]
      split <;> omega
    | succ k => exact ih _ k x r (by simpa using h) hr

/-- One of the records ahead. -/
theorem scan_one {X : List ByteArray} {k : Nat} {r : R} (h : (scanR X)[k]? = some r) : (∃ x, X[k]? = some x ∧ recOf x = some r) ∧ r.q = (k : Int) ∧ r.e ≤ topE X := by
  obtain ⟨⟨x, hx, hr⟩, hq, _⟩ := scanFrom_at X 0 0 k r h
  exact ⟨⟨x, hx, hr⟩, by rw [hq]; congr 1; omega, top_in X (-1) k x r hx hr⟩

theorem scan_two {X : List ByteArray} {k : Nat} {r r' : R} (h : (scanR X)[k]? = some r) (h' : (scanR X)[k + 1]? = some r') : r.e ≤ r'.e := scanFrom_up X 0 0 k r r' h h'

end Go.Proofs.YtclkfjlnhcccdaaGreatDoor

namespace Go.Proofs.YtclkfjlnhcccdaaGreatDoor
open Go.RowKit
set_option linter.unusedVariables false

theorem putT_ok {r : R} (h : r.ok = true) : putT r.e r.q r.k r.id r.n r.zs = txU r.put := by
  rw [putT, show okRec r.e r.q r.k r.id r.n r.zs.length = true from h]
  rfl

theorem put_range {r : R} (hz : ∀ x ∈ r.zs, 0 ≤ x ∧ x ≤ 255) : ∀ x ∈ r.put, 0 ≤ x ∧ x ≤ 255 := sumB_range _ (recB_range _ _ _ _ _ _ hz)

theorem rec_back {r : R} (h : r.ok = true) (hz : ∀ x ∈ r.zs, 0 ≤ x ∧ x ≤ 255) : recOf (txU r.put) = some r := recOf_iff.2 ⟨h, (txI_txU _ (put_range hz)).symm⟩

/-- Another text of the same length that is the same but for the last four bytes is no record. -/
theorem rec_turned {r : R} (h : r.ok = true) {t : List Int} (ht : ∀ x ∈ t, 0 ≤ x ∧ x ≤ 255) (hl : t.length = r.put.length) (hs : t.take (r.put.length - 4) = r.put.take (r.put.length - 4)) (hne : t ≠ r.put) : recOf (txU t) = none := by
  cases hr : recOf (txU t) with
  | none => rfl
  | some r' =>
    exfalso
    obtain ⟨h1, h2⟩ := recOf_iff.1 hr
    rw [txI_txU t ht] at h2
    have l1 := put_len r
    have l2 := put_len r'
    have b1 : r.put.take (r.put.length - 4) = r.body := by
      rw [l1, R.put, sumB, show 16 + r.id.size + r.zs.length - 4 = r.body.length by rw [R.body, recB_len]; omega]
      exact List.take_left
    have b2 : r'.put.take (r'.put.length - 4) = r'.body := by
      rw [l2, R.put, sumB, show 16 + r'.id.size + r'.zs.length - 4 = r'.body.length by rw [R.body, recB_len]; omega]
      exact List.take_left
    have hlen : r'.put.length = r.put.length := by rw [h2, hl]
    have hb : r'.body = r.body := by rw [← b2, ← b1, hlen, h2, hs]
    exact hne (by rw [← h2, R.put, R.put, hb])

end Go.Proofs.YtclkfjlnhcccdaaGreatDoor

namespace Go.Proofs.YtclkfjlnhcccdaaGreatDoor
open Go.RowKit
set_option linter.unusedVariables false

/-- A store is right. -/
def SOk (X Y : List ByteArray) (ep nx : Int) (us : List U) : Prop :=
  okD X Y = true ∧ (0 ≤ ep ∧ ep ≤ 10000) ∧ foldU (scanR X) = some us ∧ nx = ((scanR X).length : Int) ∧ (∀ r, (scanR X).getLast? = some r → r.e ≤ ep) ∧ ∀ k x r, (scanR X).length ≤ k → X[k]? = some x → recOf x = some r → r.e < ep

noncomputable def decB (P : Prop) : Bool := @decide P (Classical.propDecidable P)
theorem decB_true {P : Prop} (h : P) : decB P = true := @decide_eq_true P (Classical.propDecidable P) h
theorem decB_false {P : Prop} (h : ¬ P) : decB P = false := @decide_eq_false P (Classical.propDecidable P) h
theorem decB_iff {P : Prop} {b : Bool} (h : b = true ↔ P) : b = decB P := by
  cases b with
  | true => exact (decB_true (h.1 rfl)).symm
  | false => exact (decB_false (fun p => by cases h.2 p)).symm

theorem no_store {X Y : List ByteArray} {ep nx : Int} {us : List U} (h : ¬ SOk X Y ep nx us) : (false = true ↔ SOk X Y ep nx us) := ⟨fun h2 => (by cases h2), fun h2 => absurd h2 h⟩

theorem scan_last {ep : Int} (l : List ByteArray) : ∀ (i : Nat) (last : Int), (∀ r, (scanFrom i last l).getLast? = some r → r.e ≤ ep) → ∀ r ∈ scanFrom i last l, r.e ≤ ep := by
  induction l with
  | nil => intro i last _ r hr; simp [scanFrom] at hr
  | cons s l ih =>
    intro i last h r hr
    rw [scanFrom] at h hr
    cases hn : nextR i last s with
    | none => rw [hn] at hr; simp at hr
    | some r0 =>
      rw [hn] at h hr
      dsimp only at h hr
      cases hL : scanFrom (i + 1) r0.e l with
      | nil =>
        rw [hL] at h hr
        obtain rfl : r = r0 := by simpa using hr
        exact h r rfl
      | cons r1 L =>
        have hin : ∀ r ∈ scanFrom (i + 1) r0.e l, r.e ≤ ep := ih (i + 1) r0.e (fun r hr => h r (by rw [hL] at hr ⊢; simpa using hr))
        rcases List.mem_cons.1 hr with rfl | hr
        · have h1 := (scanFrom_at l (i + 1) r.e 0 r1 (by rw [hL]; rfl)).2.2
          have h2 := hin r1 (by rw [hL]; exact List.mem_cons_self ..)
          omega
        · exact hin r hr

/-- A record is written behind the last one that follows. -/
theorem scan_set {r : R} {s : ByteArray} (hs : recOf s = some r) (l : List ByteArray) : ∀ (i : Nat) (last : Int), last ≤ r.e → (scanFrom i last l).length < l.length → r.q = ((i + (scanFrom i last l).length : Nat) : Int) → (∀ x ∈ scanFrom i last l, x.e ≤ r.e) → (∀ k x y, (scanFrom i last l).length < k → l[k]? = some x → recOf x = some y → y.e < r.e) → scanFrom i last (l.set (scanFrom i last l).length s) = scanFrom i last l ++ [r] := by
  induction l with
  | nil => intro i last _ h; simp at h
  | cons t l ih =>
    intro i last hl hlen hq ha hb
    cases hn : nextR i last t with
    | none =>
      have e : scanFrom i last (t :: l) = [] := by rw [scanFrom, hn]
      rw [e] at hlen hq ha hb ⊢
      have hn2 : nextR i last s = some r := by
        rw [nextR, hs]
        exact if_pos ⟨by simpa using hq, hl⟩
      rw [List.length_nil, List.set_cons_zero, scanFrom, hn2]
      cases l with
      | nil => rfl
      | cons y l =>
        have hy : nextR (i + 1) r.e y = none := by
          rw [nextR]
          cases hr : recOf y with
          | none => rfl
          | some z =>
            have := hb 1 y z (by simp) rfl hr
            exact if_neg (fun h => by omega)
        dsimp only
        rw [scanFrom, hy]
        rfl
    | some r0 =>
      have e : scanFrom i last (t :: l) = r0 :: scanFrom (i + 1) r0.e l := by rw [scanFrom, hn]
      rw [e] at hlen hq ha hb ⊢
      rw [List.length_cons, List.set_cons_succ, scanFrom, hn]
      dsimp only
      rw [ih (i + 1) r0.e (ha r0 (List.mem_cons_self ..)) (by simpa using hlen) (by rw [hq, List.length_cons]; congr 1; omega) (fun x hx => ha x (List.mem_cons_of_mem _ hx)) (fun k x y hk hx hy => hb (k + 1) x y (by rw [List.length_cons]; omega) (by simpa using hx) hy)]
      rfl

theorem put_size {r : R} (h : r.ok = true) : (txU r.put).size ≤ 48 := by
  have := okRec_iff h
  rw [txU_size, put_len]
  omega

theorem foldU_snoc (rs : List R) (r : R) : foldU (rs ++ [r]) = (foldU rs).bind fun l => oneU l r := by
  rw [foldU, foldU, List.foldlM_append]
  simp [List.foldlM]

/-- What is right stays so behind a record that fits. -/
theorem SOk.put {X Y : List ByteArray} {ep nx : Int} {us us' : List U} {r : R} (h : SOk X Y ep nx us) (hok : r.ok = true) (hz : ∀ x ∈ r.zs, 0 ≤ x ∧ x ≤ 255) (he : r.e = ep) (hq : r.q = nx) (hlt : nx < (X.length : Int)) (ho : oneU us r = some us') :
    scanR (X.set nx.toNat (txU r.put)) = scanR X ++ [r] ∧ SOk (X.set nx.toNat (txU r.put)) Y ep (nx + 1) us' := by
  obtain ⟨h1, h2, h3, h4, h5, h6⟩ := h
  have hn : nx.toNat = (scanR X).length := by omega
  have hb := rec_back hok hz
  have hsc : scanR (X.set nx.toNat (txU r.put)) = scanR X ++ [r] := by
    rw [hn]
    exact scan_set hb X 0 0 (by omega) (by show (scanR X).length < _; omega) (by rw [hq, h4, Nat.zero_add]; rfl) (fun x hx => by rw [he]; exact scan_last X 0 0 h5 x hx) (fun k x y hk hx hy => by rw [he]; exact h6 k x y (Nat.le_of_lt hk) hx hy)
  refine ⟨hsc, ?_, h2, ?_, ?_, ?_, ?_⟩
  · rw [okD_iff] at h1 ⊢
    refine ⟨by rw [List.length_set]; exact h1.1, by rw [List.length_set]; exact h1.2.1, fun x hx => ?_, h1.2.2.2⟩
    rcases List.mem_or_eq_of_mem_set hx with hx | rfl
    · exact h1.2.2.1 x hx
    · have := put_size hok; omega
  · rw [hsc, foldU_snoc, h3]
    exact ho
  · rw [hsc, List.length_append, h4]
    simp
  · intro y hy
    rw [hsc] at hy
    obtain rfl : r = y := by simpa using hy
    omega
  · intro k x y hk hx hy
    rw [hsc, List.length_append] at hk
    simp at hk
    rw [List.getElem?_set_ne (by omega)] at hx
    exact h6 k x y (by omega) hx hy

theorem top_le {ep : Int} (l : List ByteArray) : ∀ m : Int, (l.foldl topStep m ≤ ep ↔ m ≤ ep ∧ ∀ (k : Nat) x r, l[k]? = some x → recOf x = some r → r.e ≤ ep) := by
  induction l with
  | nil => intro m; simp
  | cons s l ih =>
    intro m
    rw [List.foldl_cons, ih]
    constructor
    · rintro ⟨h1, h2⟩
      refine ⟨Int.le_trans (topStep_ge m s) h1, fun k x r hx hr => ?_⟩
      cases k with
      | zero =>
        simp at hx
        subst hx
        rw [topStep_some hr] at h1
        split at h1 <;> omega
      | succ k => exact h2 k x r (by simpa using hx) hr
    · rintro ⟨h1, h2⟩
      refine ⟨?_, fun k x r hx hr => h2 (k + 1) x r (by simpa using hx) hr⟩
      cases hs : recOf s with
      | none => rw [topStep_none hs]; exact h1
      | some r =>
        rw [topStep_some hs]
        have := h2 0 s r rfl hs
        split <;> omega

/-- Said as the program goes: the greatest epoch ahead and behind. -/
theorem SOk_top {X Y : List ByteArray} {ep nx : Int} {us : List U} (n : Nat) (h1 : okD X Y = true) (h2 : 0 ≤ ep ∧ ep ≤ 10000) (h3 : foldU (scanR X) = some us) (h4 : nx = ((scanR X).length : Int)) (hn : (scanR X).length = n) :
    SOk X Y ep nx us ↔ topE (X.take n) ≤ ep ∧ topE (X.drop n) < ep := by
  subst hn
  have ht : topE (X.take (scanR X).length) ≤ ep ↔ -1 ≤ ep ∧ ∀ (k : Nat) x r, (X.take (scanR X).length)[k]? = some x → recOf x = some r → r.e ≤ ep := top_le _ (-1)
  have hd : topE (X.drop (scanR X).length) ≤ ep - 1 ↔ -1 ≤ ep - 1 ∧ ∀ (k : Nat) x r, (X.drop (scanR X).length)[k]? = some x → recOf x = some r → r.e ≤ ep - 1 := top_le _ (-1)
  rw [show topE (X.drop (scanR X).length) < ep ↔ topE (X.drop (scanR X).length) ≤ ep - 1 from by omega, ht, hd]
  constructor
  · rintro ⟨_, _, _, _, h5, h6⟩
    refine ⟨⟨by omega, fun k x r hx hr => ?_⟩, by omega, fun k x r hx hr => ?_⟩
    · have hk : k < (scanR X).length := by
        have := (List.getElem?_eq_some_iff.1 hx).1
        rw [List.length_take] at this
        omega
      obtain ⟨⟨x', hx', hr'⟩, _⟩ := scan_one (List.getElem?_eq_getElem hk)
      rw [List.getElem?_take_of_lt hk, hx'] at hx
      obtain rfl : x' = x := by simpa using hx
      rw [hr'] at hr
      obtain rfl : (scanR X)[k] = r := by simpa using hr
      exact scan_last X 0 0 h5 _ (List.getElem_mem hk)
    · rw [List.getElem?_drop] at hx
      have := h6 _ x r (by omega) hx hr
      omega
  · rintro ⟨⟨_, h5⟩, _, h6⟩
    refine ⟨h1, h2, h3, h4, fun r hr => ?_, fun k x r hk hx hr => ?_⟩
    · rw [List.getLast?_eq_getElem?] at hr
      have hk := (List.getElem?_eq_some_iff.1 hr).1
      obtain ⟨⟨x', hx', hr'⟩, _⟩ := scan_one hr
      exact h5 _ x' r (by rw [List.getElem?_take_of_lt (by omega)]; exact hx') hr'
    · have := h6 (k - (scanR X).length) x r (by rw [List.getElem?_drop, Nat.add_sub_cancel' hk]; exact hx) hr
      omega

end Go.Proofs.YtclkfjlnhcccdaaGreatDoor
