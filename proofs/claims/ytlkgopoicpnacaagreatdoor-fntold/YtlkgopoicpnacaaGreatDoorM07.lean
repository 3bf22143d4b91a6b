/- A store that is drawn: right, of few epochs, and no record of its disk is above its epoch or of the name that no draw takes. No program in it. An upload that is asked for: what both functions answer; no program in it. Answers that wait: three numbers each; rows of them in memory, rows that a call has made. No statement of the program but its table of types. What the program's RespOk answers. What the program's ServerOk asks of the answers that wait. What the test of a range answers. What the specification's RespOk answers. A list of bytes as what is appended. No program in it. Rows of bytes that grow: an append as a step of a region that draws, PutBig onto a row of the call's own, a row as a text. An append of whatever may be appended, and where its row lies: where it lay, or behind all. No program in it. -/
import Derived.Test.YtlkgopoicpnacaaGreatDoorM06
import Derived.Test.YtlkgopoicpnacaaGreatDoorM06
import Derived.Test.YtlkgopoicpnacaaGreatDoorM05
import Derived.Test.YtlkgopoicpnacaaGreatDoorM06
import Derived.Test.YtlkgopoicpnacaaGreatDoorM06
import Derived.Test.YtlkgopoicpnacaaGreatDoorM03
import Derived.Test.YtlkgopoicpnacaaGreatDoorM04
import Derived.Test.YtlkgopoicpnacaaGreatDoorM01
import Derived.WalkKit
import Derived.Test.YtlkgopoicpnacaaGreatDoorM02
import Derived.Deep.RegionLaw
import Derived.Laws.IdiomStrings
namespace Go.Proofs.YtlkgopoicpnacaaGreatDoor
open Go.RowKit
set_option linter.unusedVariables false

/-- The name that no draw takes. -/
def newId : ByteArray := ⟨#[110, 101, 119]⟩

structure SG (k : Int) (X Y : List ByteArray) (ep nx : Int) (us : List U) : Prop where
  ok : SOk X Y ep nx us
  few : ep ≤ k
  recs : ∀ x, x ∈ X ∨ x ∈ Y → ∀ r, recOf x = some r → r.e ≤ ep ∧ r.id ≠ newId

theorem SG.more {k k' : Int} {X Y : List ByteArray} {ep nx : Int} {us : List U} (h : SG k X Y ep nx us) (hk : k ≤ k') : SG k' X Y ep nx us := ⟨h.ok, by have := h.few; omega, h.recs⟩

/-- Each sector behind a write is one of before, or a record of those that were written. -/
theorem wroteX_mem {ep : Int} : ∀ {rs : List R} {X : List ByteArray} {nx : Nat} {x : ByteArray}, x ∈ wroteX X ep nx rs → x ∈ X ∨ ∃ r ∈ rs, ∃ q, x = txU (r.at ep q).put
  | [], X, nx, x, h => .inl h
  | r :: rs, X, nx, x, h => by
    rcases wroteX_mem (rs := rs) h with h | ⟨r', hr, q, h⟩
    · rcases List.mem_or_eq_of_mem_set h with h | rfl
      · exact .inl h
      · exact .inr ⟨r, List.mem_cons_self .., nx, rfl⟩
    · exact .inr ⟨r', List.mem_cons_of_mem _ hr, q, h⟩

/-- What is read of a text that a record made is that record. -/
theorem recOf_put {r r' : R} (h : recOf (txU r.put) = some r') (hz : ∀ x ∈ r.zs, 0 ≤ x ∧ x ≤ 255) (hok : r.ok = true) : r' = r := by
  rw [rec_back hok hz] at h
  injection h with h
  exact h.symm

/-- A record that is right but for its place, at a place of a disk. -/
theorem at_ok {r : R} {ep : Int} {q : Nat} (h1 : idB r.id.data.toList = true) (h2 : kindB r.k r.n r.zs.length = true) (he : 0 ≤ ep ∧ ep ≤ 10000) (hq : q < 200) : (r.at ep q).ok = true := by
  show okRec ep (q : Int) r.k r.id r.n r.zs.length = true
  rw [okRec, decide_eq_true (show 0 ≤ ep ∧ ep ≤ 10000 from he), decide_eq_true (show 0 ≤ (q : Int) ∧ (q : Int) ≤ 199 by omega), h1, h2]
  rfl

/-- Each sector behind a write, with its place. -/
theorem wroteX_memq {ep : Int} : ∀ {rs : List R} {X : List ByteArray} {nx : Nat} {x : ByteArray}, x ∈ wroteX X ep nx rs → x ∈ X ∨ ∃ r ∈ rs, ∃ q, q < nx + rs.length ∧ x = txU (r.at ep q).put
  | [], X, nx, x, h => .inl h
  | r :: rs, X, nx, x, h => by
    rcases wroteX_memq (rs := rs) h with h | ⟨r', hr, q, hq, h⟩
    · rcases List.mem_or_eq_of_mem_set h with h | rfl
      · exact .inl h
      · exact .inr ⟨r, List.mem_cons_self .., nx, by simp, rfl⟩
    · exact .inr ⟨r', List.mem_cons_of_mem _ hr, q, by simp at hq ⊢; omega, h⟩

/-- A write keeps a drawn store. -/
theorem SG.wrote {k : Int} {X Y : List ByteArray} {ep nx : Int} {us us' : List U} {rs : List R} (h : SG k X Y ep nx us) (hr : ∀ r ∈ rs, idB r.id.data.toList = true ∧ kindB r.k r.n r.zs.length = true ∧ ∀ x ∈ r.zs, 0 ≤ x ∧ x ≤ 255) (hn : ∀ r ∈ rs, r.id ≠ newId) (hl : nx + (rs.length : Int) ≤ (X.length : Int)) (hf : rs.foldlM oneU us = some us') : SG k (wroteX X ep nx.toNat rs) Y ep (nx + (rs.length : Int)) us' := by
  obtain ⟨he, h0, hX, h200⟩ := h.ok.nums
  refine ⟨wrote_ok h.ok hr hl hf, h.few, fun x hx r hrx => ?_⟩
  rcases hx with hx | hx
  · rcases wroteX_memq hx with hx | ⟨r', hr', q, hq, rfl⟩
    · exact h.recs x (.inl hx) r hrx
    · have h3 := hr r' hr'
      have h4 : r = r'.at ep q := recOf_put hrx h3.2.2 (at_ok h3.1 h3.2.1 he (by omega))
      rw [h4]
      exact ⟨Int.le_refl _, hn r' hr'⟩
  · exact h.recs x (.inr hx) r hrx

theorem SG.make {k : Int} {X Y : List ByteArray} {ep nx : Int} {us : List U} {id : ByteArray} {want : Int} (h : SG k X Y ep nx us) (hid : id ≠ newId) : SG k (makeA X Y ep nx us id want).X Y ep (makeA X Y ep nx us id want).nx (makeA X Y ep nx us id want).us := by
  by_cases hc : (makeA X Y ep nx us id want).c = 0
  · obtain ⟨_, hk, hl, us', hf, he⟩ := makeA_yes hc
    rw [he]
    exact h.wrote (rs := [makeR id want]) (fun r hr => by rw [List.mem_singleton.1 hr]; exact ⟨hk.1, hk.2, by simp [makeR]⟩) (fun r hr => by rw [List.mem_singleton.1 hr]; exact hid) hl hf
  · rw [makeA_no hc]
    exact h

theorem SG.drop {k : Int} {X Y : List ByteArray} {ep nx : Int} {us : List U} {id : ByteArray} (h : SG k X Y ep nx us) (hid : id ≠ newId) : SG k (dropA X Y ep nx us id).X Y ep (dropA X Y ep nx us id).nx (dropA X Y ep nx us id).us := by
  by_cases hc : (dropA X Y ep nx us id).c = 0
  · obtain ⟨_, hk, hl, us', hf, he⟩ := dropA_yes hc
    rw [he]
    exact h.wrote (rs := [dropR id]) (fun r hr => by rw [List.mem_singleton.1 hr]; exact ⟨hk.1, hk.2, by simp [dropR]⟩) (fun r hr => by rw [List.mem_singleton.1 hr]; exact hid) hl hf
  · rw [dropA_no hc]
    exact h

theorem SG.put {k : Int} {X Y : List ByteArray} {ep nx : Int} {us : List U} {id : ByteArray} {off : Int} {zs : List Int} (h : SG k X Y ep nx us) (hid : id ≠ newId) (hz : ∀ x ∈ zs, 0 ≤ x ∧ x ≤ 255) : SG k (putA X Y ep nx us id off zs).X Y ep (putA X Y ep nx us id off zs).nx (putA X Y ep nx us id off zs).us := by
  by_cases hc : (putA X Y ep nx us id off zs).c = 0
  · obtain ⟨_, hi, hl, kk, u, h4, h5, h6, h7, h8, h9, hf, he⟩ := putA_yes hc
    rw [he]
    have hw := h.ok.wants u (List.mem_of_getElem? h5)
    have hlen := dataRs_len id off zs
    have := h.wrote (rs := dataRs id off zs) (dataRs_ok hi (by omega) (by omega) hz) (fun r hr => by
      obtain ⟨i, _, rfl⟩ := List.mem_map.1 hr
      exact hid) (by rw [hlen]; exact h9) hf
    rw [hlen] at this
    exact this
  · rw [putA_no hc]
    exact h

theorem SG.done {k : Int} {X Y : List ByteArray} {ep nx : Int} {us : List U} {id : ByteArray} {sum : Int} (h : SG k X Y ep nx us) (hid : id ≠ newId) : SG k (doneA X Y ep nx us id sum).X Y ep (doneA X Y ep nx us id sum).nx (doneA X Y ep nx us id sum).us := by
  unfold doneA
  by_cases h1 : decB (SOk X Y ep nx us) = true ∧ idB id.data.toList = true
  · rw [if_pos h1]
    cases ha : atU us id with
    | none => exact h
    | some kk =>
      dsimp only
      cases hu : us[kk]? with
      | none => exact h
      | some u =>
        dsimp only
        by_cases h2 : (u.zs.length : Int) < u.want
        · rw [if_pos h2]; exact h
        · rw [if_neg h2]
          by_cases h3 : sum ≠ crcI u.zs
          · rw [if_pos h3]; exact h
          · rw [if_neg h3]
            by_cases h4 : u.done = true
            · rw [if_pos h4]; exact h
            · rw [if_neg h4]
              by_cases h5 : nx < (X.length : Int)
              · rw [if_pos h5]
                have hfit := h.ok.fits u (List.mem_of_getElem? hu)
                have hd : u.done = false := by simpa using h4
                have hw : (u.zs.length : Int) = u.want := by have := hfit.1; omega
                have hf : [doneR id].foldlM oneU us = some (us.set kk { u with done := true }) := by rw [List.foldlM_cons, done_fits ha hu hd hw]; rfl
                rw [wroteA, hf]
                exact h.wrote (rs := [doneR id]) (fun r hr => by rw [List.mem_singleton.1 hr]; exact ⟨h1.2, rfl, by simp [doneR]⟩) (fun r hr => by rw [List.mem_singleton.1 hr]; exact hid) (by simp; omega) hf
              · rw [if_neg h5]; exact h
  · rw [if_neg h1]; exact h

theorem SG.sync {k : Int} {X Y : List ByteArray} {ep nx : Int} {us : List U} (h : SG k X Y ep nx us) : syncY X Y ep nx us = X ∧ SG k X X ep nx us := by
  refine ⟨if_pos (decB_true h.ok), ?_, h.few, fun x hx r hr => h.recs x (.inl (by rcases hx with hx | hx <;> exact hx)) r hr⟩
  obtain ⟨h1, h2⟩ := h.ok
  refine ⟨?_, h2⟩
  have h3 := okD_iff.1 h1
  exact okD_iff.2 ⟨rfl, h3.2.1, h3.2.2.1, h3.2.2.1⟩

/-- What is opened is right. -/
theorem open_ok {X Y : List ByteArray} {ep : Int} {nx : Nat} {us : List U} (h : openO X Y = some (ep, nx, us)) : SOk X Y ep (nx : Int) us ∧ ep = topE X + 1 := by
  rw [openO] at h
  split at h
  · rename_i hok hf
    split at h
    · cases h
    · rename_i h9
      simp only [Option.some.injEq, Prod.mk.injEq] at h
      obtain ⟨rfl, rfl, rfl⟩ := h
      have ht := topE_range X
      refine ⟨⟨hok, by omega, hf, rfl, fun r hr => ?_, fun k x r hk hx hr => ?_⟩, rfl⟩
      · have hm := List.mem_of_getLast? hr
        obtain ⟨i, hi, rfl⟩ := List.getElem_of_mem hm
        have := (scan_one (X := X) (k := i) (List.getElem?_eq_getElem hi)).2.2
        omega
      · have := top_in X (-1) k x r hx hr
        show r.e < topE X + 1
        have e : topE X = X.foldl topStep (-1) := rfl
        omega
  · cases h

/-- A bound of the greatest epoch. -/
theorem topE_le {X : List ByteArray} {ep : Int} (h0 : -1 ≤ ep) (h : ∀ x ∈ X, ∀ r, recOf x = some r → r.e ≤ ep) : topE X ≤ ep :=
  (top_le (ep := ep) X (-1)).2 ⟨h0, fun k x r hx hr => h x (List.mem_of_getElem? hx) r hr⟩

theorem fallL_mem {xs ys : List ByteArray} {ks : List Bool} (hl : xs.length = ys.length) {x : ByteArray} (h : x ∈ fallL xs ys ks) : x ∈ xs ∨ x ∈ ys := by
  obtain ⟨i, hi, rfl⟩ := List.mem_map.1 h
  have hi2 := List.mem_range.1 hi
  have e1 : xs.getD i ⟨#[]⟩ = xs[i] := by rw [List.getD_eq_getElem?_getD, List.getElem?_eq_getElem hi2]; rfl
  have e2 : ys.getD i ⟨#[]⟩ = ys[i]'(by omega) := by rw [List.getD_eq_getElem?_getD, List.getElem?_eq_getElem (by omega)]; rfl
  split
  · rw [e1]; exact .inl (List.getElem_mem _)
  · rw [e2]; exact .inr (List.getElem_mem _)

theorem fall_same {X Y : List ByteArray} (ks : List Bool) (h : okD X Y = true) : fallX X Y ks = fallL X Y ks ∧ fallY X Y ks = fallL X Y ks := by rw [fallX, fallY, h]; exact ⟨rfl, rfl⟩

/-- What opens behind a crash. -/
theorem SG.opened {k : Int} {X Y : List ByteArray} {ep nx : Int} {us : List U} (h : SG k X Y ep nx us) (ks : List Bool) {ep' : Int} {nx' : Nat} {us' : List U} (ho : openO (fallX X Y ks) (fallY X Y ks) = some (ep', nx', us')) : SG (k + 1) (fallX X Y ks) (fallY X Y ks) ep' (nx' : Int) us' := by
  obtain ⟨h1, h2⟩ := open_ok ho
  obtain ⟨e1, e2⟩ := fall_same ks h.ok.1
  have hxy := (okD_iff.1 h.ok.1).1
  have hen := h.ok.nums.1
  have hm : ∀ x, x ∈ fallL X Y ks → ∀ r, recOf x = some r → r.e ≤ ep ∧ r.id ≠ newId := fun x hx r hr => h.recs x (fallL_mem hxy hx) r hr
  have ht : topE (fallX X Y ks) ≤ ep := by rw [e1]; exact topE_le (by omega) (fun x hx r hr => (hm x hx r hr).1)
  refine ⟨h1, by have := h.few; omega, fun x hx r hr => ?_⟩
  have hx' : x ∈ fallX X Y ks := by rw [e1]; rw [e1, e2] at hx; rcases hx with hx | hx <;> exact hx
  obtain ⟨i, hi, rfl⟩ := List.getElem_of_mem hx'
  have h5 := top_in (fallX X Y ks) (-1) i _ r (List.getElem?_eq_getElem hi) hr
  have e : topE (fallX X Y ks) = (fallX X Y ks).foldl topStep (-1) := rfl
  refine ⟨by omega, (hm _ (by rw [← e1]; exact hx') r hr).2⟩

/-- A new store. -/
theorem SG.new (n : Nat) (h : n ≤ 200) : SG 0 (List.replicate n ⟨#[]⟩) (List.replicate n ⟨#[]⟩) 0 0 [] := by
  have h0 : recOf ⟨#[]⟩ = none := by decide
  have hs : scanR (List.replicate n ⟨#[]⟩) = [] := by
    cases n with
    | zero => rfl
    | succ n => show scanFrom 0 0 (⟨#[]⟩ :: List.replicate n ⟨#[]⟩) = []; rw [scanFrom, show nextR 0 0 ⟨#[]⟩ = none by rw [nextR, h0]]
  refine ⟨⟨?_, by omega, ?_, ?_, ?_, ?_⟩, Int.le_refl _, fun x hx r hr => ?_⟩
  · refine okD_iff.2 ⟨rfl, by simpa using h, fun x hx => ?_, fun x hx => ?_⟩ <;> (rw [List.eq_of_mem_replicate hx]; exact Nat.zero_le _)
  · rw [hs]; rfl
  · rw [hs]; rfl
  · rw [hs]; intro r hr; cases hr
  · intro k x r _ hx hr
    rw [List.eq_of_mem_replicate (List.mem_of_getElem? hx), h0] at hr
    cases hr
  · rcases hx with hx | hx <;> (rw [List.eq_of_mem_replicate hx, h0] at hr; cases hr)

end Go.Proofs.YtlkgopoicpnacaaGreatDoor

namespace Go.Proofs.YtlkgopoicpnacaaGreatDoor
open Go.RowKit
set_option linter.unusedVariables false

/-- The upload with a name; one of noughts, where there is none. -/
def gotU (us : List U) (id : ByteArray) : U := match atU us id with
  | some k => us.getD k ⟨⟨#[]⟩, 0, [], false⟩
  | none => ⟨⟨#[]⟩, 0, [], false⟩

theorem gotU_none {us : List U} {id : ByteArray} (h : atU us id = none) : gotU us id = ⟨⟨#[]⟩, 0, [], false⟩ := by rw [gotU, h]
theorem gotU_some {l : List UE} {id : ByteArray} {k : Nat} (h : atU (l.map UE.u) id = some k) (hk : k < l.length) : gotU (l.map UE.u) id = (l[k]).u := by
  rw [gotU, h]
  simp [List.getD_eq_getElem?_getD, hk]

/-- What is answered: the upload, in memory of its own, and whether there is one. -/
def AnsU (base : Nat) (us : List U) (id : ByteArray) (e : Ending) (w' : World) : Prop :=
  ∃ (A : Option Addr) (C : Nat), e = .returned (.tuple #[.agg #[.string (gotU us id).id, .int .i64 (gotU us id).want, .slice A (gotU us id).zs.length C, .bool (gotU us id).done], .bool (atU us id).isSome]) ∧ Owns w' base A (gotU us id).zs.length C (gotU us id).zs

end Go.Proofs.YtlkgopoicpnacaaGreatDoor

namespace Go.Proofs.YtlkgopoicpnacaaGreatDoor
open Go.RowKit
set_option linter.unusedVariables false

/-- To whom, the status, how much there is. -/
abbrev Hd := Int × Int × Int

/-- The cells of a row. -/
def heCells (l : List Hd) : List Value := l.flatMap fun s => [.int .i64 s.1, .int .i64 s.2.1, .int .i64 s.2.2]

theorem heCells_cons (s : Hd) (l : List Hd) : heCells (s :: l) = .int .i64 s.1 :: .int .i64 s.2.1 :: .int .i64 s.2.2 :: heCells l := rfl

theorem heCells_append (l m : List Hd) : heCells (l ++ m) = heCells l ++ heCells m := by simp [heCells]

theorem heCells_len (l : List Hd) : (heCells l).length = l.length * 3 := by
  induction l with
  | nil => rfl
  | cons f fs ih => rw [heCells_cons]; simp only [List.length_cons, ih]; omega

theorem heCells_at (l : List Hd) : ∀ i (hi : i < l.length), (heCells l)[i * 3]? = some (.int .i64 (l[i]).1) ∧ (heCells l)[i * 3 + 1]? = some (.int .i64 (l[i]).2.1) ∧ (heCells l)[i * 3 + 2]? = some (.int .i64 (l[i]).2.2) := by
  induction l with
  | nil => intro i hi; simp at hi
  | cons f fs ih =>
    intro i hi
    rw [heCells_cons]
    cases i with
    | zero => simp
    | succ i =>
      have := ih i (by simpa using hi)
      rw [show (i + 1) * 3 = i * 3 + 1 + 1 + 1 by omega]
      simpa using this

theorem heCells_one (l : List Hd) : ∀ u ∈ heCells l, u.oneCell' = true := by
  intro u hu
  simp only [heCells, List.mem_flatMap] at hu
  obtain ⟨f, _, hf⟩ := hu
  simp at hf
  rcases hf with rfl | rfl | rfl <;> rfl

theorem heCells_set (l : List Hd) (x y z : Int) : ∀ k, k < l.length → (((heCells l).set (k * 3) (.int .i64 x)).set (k * 3 + 1) (.int .i64 y)).set (k * 3 + 2) (.int .i64 z) = heCells (l.set k (x, y, z)) := by
  induction l with
  | nil => intro k hk; simp at hk
  | cons f fs ih =>
    intro k hk
    rw [heCells_cons]
    cases k with
    | zero => rfl
    | succ k =>
      rw [show (k + 1) * 3 = k * 3 + 1 + 1 + 1 by omega]
      have := ih k (by simpa using hk)
      simp only [List.set_cons_succ]
      rw [this]
      rfl

/-- A number of 64 bits. -/
def i64h (x : Int) : Prop := -9223372036854775808 ≤ x ∧ x ≤ 9223372036854775807

def hd64 (s : Hd) : Prop := i64h s.1 ∧ i64h s.2.1 ∧ i64h s.2.2

/-- The slice (a, n) holds these answers in the world w. -/
def Helds (w : World) (a : Option Addr) (n : Nat) (l : List Hd) : Prop :=
  l.length = n ∧ (∀ s ∈ l, hd64 s) ∧
  (n = 0 ∨ ∃ b off, a = some ⟨b, off, none⟩ ∧ b < w.heap.size ∧ ∀ i (hi : i < l.length), w.cell? ⟨b, off + i * 3, none⟩ = some (.int .i64 (l[i]).1) ∧ w.cell? ⟨b, off + i * 3 + 1, none⟩ = some (.int .i64 (l[i]).2.1) ∧ w.cell? ⟨b, off + i * 3 + 2, none⟩ = some (.int .i64 (l[i]).2.2))

theorem Helds.below {w w' : World} {a : Option Addr} {n : Nat} {l : List Hd} (h : Helds w a n l) (hb : Below w.heap.size w w') : Helds w' a n l := by
  obtain ⟨h1, h2, h3⟩ := h
  refine ⟨h1, h2, ?_⟩
  rcases h3 with h0 | ⟨b, off, ha, hlt, hc⟩
  · exact .inl h0
  · refine .inr ⟨b, off, ha, Nat.lt_of_lt_of_le hlt hb.size, fun i hi => ?_⟩
    have key : ∀ j v, w.cell? ⟨b, j, none⟩ = some v → w'.cell? ⟨b, j, none⟩ = some v := fun j v hv => (hb.cell (p := ⟨b, j, none⟩) hlt).trans hv
    exact ⟨key _ _ (hc i hi).1, key _ _ (hc i hi).2.1, key _ _ (hc i hi).2.2⟩

/-- The cells at one index. -/
theorem Helds.at {w : World} {a : Option Addr} {n : Nat} {l : List Hd} (h : Helds w a n l) {k : Nat} (hk : k < n) : ∃ b off x y z, a = some ⟨b, off, none⟩ ∧ b < w.heap.size ∧ l[k]? = some (x, y, z) ∧ w.cell? ⟨b, off + k * 3, none⟩ = some (.int .i64 x) ∧ w.cell? ⟨b, off + k * 3 + 1, none⟩ = some (.int .i64 y) ∧ w.cell? ⟨b, off + k * 3 + 2, none⟩ = some (.int .i64 z) ∧ hd64 (x, y, z) := by
  obtain ⟨h1, h2, h3⟩ := h
  rcases h3 with h0 | ⟨b, off, ha, hlt, hc⟩
  · omega
  · have hk' : k < l.length := by omega
    have hm := h2 (l[k]) (List.getElem_mem hk')
    exact ⟨b, off, (l[k]).1, (l[k]).2.1, (l[k]).2.2, ha, hlt, List.getElem?_eq_getElem hk', (hc k hk').1, (hc k hk').2.1, (hc k hk').2.2, hm⟩

/-- A slice value that owns these answers, in a block from base on. -/
def OwnH (w : World) (base : Nat) (a : Option Addr) (n cap : Nat) (l : List Hd) : Prop := w.ownsRow base 54 3 (.slice a n cap) n (heCells l) ∧ ∀ s ∈ l, hd64 s

theorem OwnH.len {w : World} {base n cap : Nat} {a : Option Addr} {l : List Hd} (h : OwnH w base a n cap l) : l.length = n := by
  have := h.1.1
  rw [heCells_len] at this
  omega

theorem OwnH.below {w w' : World} {base n cap : Nat} {a : Option Addr} {l : List Hd} (h : OwnH w base a n cap l) (hb : Below w.heap.size w w') : OwnH w' base a n cap l := ⟨own_below h.1 hb, h.2⟩

theorem OwnH.helds {w : World} {base n cap : Nat} {a : Option Addr} {l : List Hd} (h : OwnH w base a n cap l) : Helds w a n l := by
  have hl := h.len
  refine ⟨hl, h.2, ?_⟩
  rcases h.1.2 with ⟨_, hn⟩ | ⟨g, cap', cur, he, hb, hg, hn, hm, hc, ht⟩
  · exact .inl hn
  · injection he with e1 e2 e3
    subst e1
    refine .inr ⟨g, 0, rfl, (Array.getElem?_eq_some_iff.1 hg).1, fun i hi => ?_⟩
    have hi' : i < n := by omega
    have hget : ∀ j, j < n * 3 → w.cell? ⟨g, j, none⟩ = (heCells l)[j]? := by
      intro j hj
      rw [cell_of_row w g j cur _ (0, 0) hg, ← ht, List.getElem?_take, if_pos hj, Array.getElem?_toList]
    have := heCells_at l i hi
    rw [Nat.zero_add, hget (i * 3) (by omega), hget (i * 3 + 1) (by omega), hget (i * 3 + 2) (by omega)]
    exact this

theorem OwnH.lt {w : World} {base n cap : Nat} {a : Option Addr} {l : List Hd} (h : OwnH w base a n cap l) : ∀ k, a.map (·.block) = some k → base ≤ k ∧ k < w.heap.size := by
  intro k hk
  cases a with
  | none => simp at hk
  | some p => exact h.1.lt k (by simpa [Value.ownBlock] using hk)

theorem OwnH.kept {w w' : World} {base n cap : Nat} {a : Option Addr} {l : List Hd} {r : Option Nat} (h : OwnH w base a n cap l) (hg : w.grownBy w' r) (hr : ∀ k, r = some k → a.map (·.block) ≠ some k) : OwnH w' base a n cap l := by
  refine ⟨h.1.kept hg ?_, h.2⟩
  cases a with
  | none => exact .inl rfl
  | some p =>
    refine .inr ?_
    cases r with
    | none => simp [Value.ownBlock]
    | some k => have := hr k rfl; simpa [Value.ownBlock] using this

theorem OwnH.low {w : World} {base b n cap : Nat} {a : Option Addr} {l : List Hd} (h : OwnH w base a n cap l) (hb : b ≤ base) : OwnH w b a n cap l := by
  refine ⟨⟨h.1.1, ?_⟩, h.2⟩
  rcases h.1.2 with h0 | ⟨g, cap', cur, he, hg, r⟩
  · exact .inl h0
  · exact .inr ⟨g, cap', cur, he, Nat.le_trans hb hg, r⟩

theorem made_threeH (v : Value) (n : Nat) : (madeCells #[v, v, v] n).toList = List.replicate n v := by
  apply List.ext_getElem?
  intro j
  by_cases hj : j < n
  · have : j % 3 = 0 ∨ j % 3 = 1 ∨ j % 3 = 2 := by omega
    rcases this with h | h | h <;> simp [madeCells, hj, h]
  · simp [madeCells, hj]

theorem heCells_nil (n : Nat) : heCells (List.replicate n (0, 0, 0)) = List.replicate (n * 3) (.int .i64 0) := by
  induction n with
  | zero => rfl
  | succ n ih =>
    rw [show (n + 1) * 3 = n * 3 + 1 + 1 + 1 by omega, List.replicate_succ, List.replicate_succ, List.replicate_succ, List.replicate_succ, ← ih]
    rfl

/-- A row that is copied up to k. -/
def heTo (l : List Hd) (len k : Nat) : List Hd := l.take k ++ List.replicate (len - k) (0, 0, 0)

theorem heTo_step (l : List Hd) (len k : Nat) (s : Hd) (h : l[k]? = some s) (hk : k < len) : (heTo l len k).set k s = heTo l len (k + 1) := by
  have hl : k < l.length := (List.getElem?_eq_some_iff.1 h).1
  have ht : (l.take k).length = k := by simp; omega
  rw [heTo, heTo, List.set_append_right k _ (by omega), ht, Nat.sub_self, List.take_add_one, h, show len - k = (len - (k + 1)) + 1 by omega, List.replicate_succ]
  simp

theorem heTo_len (l : List Hd) (len k : Nat) (h : l.length = len) (hk : k ≤ len) : (heTo l len k).length = len := by
  simp [heTo]; omega

theorem info_held : (Tryz.prog.info? 54).map (fun i => (i.zero, i.size, i.bytes)) = some (some (.agg #[.int .i64 0, .int .i64 0, .int .i64 0]), 3, 24) := by kernel_rfl

end Go.Proofs.YtlkgopoicpnacaaGreatDoor

namespace Go.Proofs.YtlkgopoicpnacaaGreatDoor
open Go.RowKit
set_option linter.unusedVariables false

theorem ret_bR {a b : Bool} (h : a = b) : Ending.returned (.bool a) = .returned (.bool b) := by rw [h]

set_option maxRecDepth 10000 in
set_option maxHeartbeats 800000 in
theorem implRespOk_any (st off : Int) (w : World) :
    Calls Tryz.prog 43 #[.agg #[.int .i64 st, .int .i64 off]] w fun e w' => e = .returned (.bool (respB st off)) ∧ Below w.heap.size w w' := by
  have HB0 : Hid (Below w.heap.size w (w.alloc (.cells #[.int .i64 st, .int .i64 off] 52))) := (Below.refl _ _).alloc (Nat.le_refl _) _
  have HR : Hid (respB st off = (decide (100 ≤ st ∧ st ≤ 599) && decide (-1 ≤ off ∧ off ≤ 1000000000))) := rfl
  by_cases h1 : 100 ≤ st
  · by_cases h2 : st ≤ 599
    · by_cases h3 : -1 ≤ off
      · have HF : Hid (respB st off = decide (off ≤ 1000000000)) := by
          show _ = _
          rw [HR.out, decide_eq_true ⟨h1, h2⟩, Bool.true_and, Bool.eq_iff_iff, decide_eq_true_eq, decide_eq_true_eq]
          omega
        go_enter Tryz.func43, Tryz.ntmps43
        go_wp2_with fail
        go_ret
        exact ⟨ret_bR HF.out.symm, HB0.out⟩
      · have HF : Hid (respB st off = false) := by show _ = _; rw [HR.out, decide_eq_false (p := -1 ≤ off ∧ _) (by omega), Bool.and_false]
        go_enter Tryz.func43, Tryz.ntmps43
        go_wp2_with fail
        go_ret
        exact ⟨ret_bR HF.out.symm, HB0.out⟩
    · have HF : Hid (respB st off = false) := by show _ = _; rw [HR.out, decide_eq_false (p := 100 ≤ st ∧ _) (by omega), Bool.false_and]
      go_enter Tryz.func43, Tryz.ntmps43
      go_wp2_with fail
      go_ret
      exact ⟨ret_bR HF.out.symm, HB0.out⟩
  · have HF : Hid (respB st off = false) := by show _ = _; rw [HR.out, decide_eq_false (p := 100 ≤ st ∧ _) (by omega), Bool.false_and]
    go_enter Tryz.func43, Tryz.ntmps43
    go_wp2_with fail
    go_ret
    exact ⟨ret_bR HF.out.symm, HB0.out⟩

end Go.Proofs.YtlkgopoicpnacaaGreatDoor

namespace Go.Proofs.YtlkgopoicpnacaaGreatDoor
open Go.RowKit
set_option linter.unusedVariables false

/-- Whether an answer is right. -/
def fitsH (h : Hd) : Bool := respB h.2.1 h.2.2

theorem ret_bH {b c : Bool} (h : b = c) : (Ending.returned (.bool b)) = .returned (.bool c) := by rw [h]

set_option maxRecDepth 10000 in
set_option maxHeartbeats 800000 in
theorem implHeldW_any (x0 x1 x2 : Int) (w : World) :
    Calls Tryz.prog 23 #[.agg #[.int .i64 x0, .int .i64 x1, .int .i64 x2]] w fun e w' => e = .returned (.bool (!fitsH (x0, x1, x2))) ∧ Below w.heap.size w w' := by
  have HB : Hid (Below w.heap.size w (w.alloc (.cells #[.int .i64 x0, .int .i64 x1, .int .i64 x2] 54))) := (Below.refl _ _).alloc (Nat.le_refl _) _
  have HC : Hid (∀ W : World, Calls Tryz.prog 43 #[.agg #[.int .i64 x1, .int .i64 x2]] W fun e w' => e = .returned (.bool (fitsH (x0, x1, x2))) ∧ Below W.heap.size W w') := fun W => implRespOk_any x1 x2 W
  obtain ⟨r, hr⟩ : ∃ r, fitsH (x0, x1, x2) = r := ⟨_, rfl⟩
  rw [hr] at HC ⊢
  clear hr
  go_enter Tryz.func23, Tryz.ntmps23
  go_wp2_with fail
  refine (HC.out _).mono ?_
  rintro e w1 ⟨rfl, hb1⟩
  have HB1 : Hid (Below w.heap.size w w1) := HB.out.trans (hb1.mono HB.out.size)
  clear hb1 HB HC
  go_wp2_with fail
  go_ret
  exact ⟨rfl, HB1.out⟩

/-- Whether one of the answers is wrong. -/
def anyH (xs : List Hd) : Bool := !xs.all fitsH

theorem anyH_false {xs : List Hd} (h : ∀ (k : Nat) (x : Hd), xs[k]? = some x → fitsH x = true) : anyH xs = false := by
  have : xs.all fitsH = true := by
    rw [List.all_eq_true]
    intro f hf
    obtain ⟨k, hk, rfl⟩ := List.mem_iff_getElem.1 hf
    exact h k _ (List.getElem?_eq_getElem hk)
  rw [anyH, this]
  rfl

theorem anyH_true {xs : List Hd} {k : Nat} {x : Hd} (h : xs[k]? = some x) (hw : fitsH x = false) : anyH xs = true := by
  have : xs.all fitsH = false := by
    rw [List.all_eq_false]
    exact ⟨x, List.mem_of_getElem? h, by simp [hw]⟩
  rw [anyH, this]
  rfl

set_option maxRecDepth 10000 in
set_option maxHeartbeats 800000 in
theorem implIdxH_any (a : Option Addr) (len cap : Nat) (xs : List Hd) (w : World) (hx : Helds w a len xs) (hl : len ≤ 1099511627776) :
    Calls Tryz.prog 42 #[.slice a len cap, .func (.func 23) #[] #[]] w fun e w' => (∃ k : Int, e = .returned (.int .i64 k) ∧ decide (0 ≤ k) = anyH xs) ∧ Below w.heap.size w w' := by
  have HX : Hid (Helds w a len xs) := hx
  have HL : Hid (xs.length = len) := hx.1
  clear hx
  go_enter Tryz.func42, Tryz.ntmps42
  go_wp2_with fail
  go_loopw [8] (fun v wr => ∃ k : Nat, k ≤ len ∧ v = .int .i64 k ∧ Hid (Below w.heap.size w wr) ∧ Hid (∀ (j : Nat) (x : Hd), j < k → xs[j]? = some x → fitsH x = true)) (fun v _ => len - (intOf v).toNat)
  case atStart => exact ⟨0, Nat.zero_le _, rfl, Below.refl _ _, fun j _ hj => absurd hj (Nat.not_lt_zero _)⟩
  case round =>
    obtain ⟨k, hk, rfl, HB, HN⟩ := hrel
    by_cases hlt : k < len
    · have hki : (k : Int) < (len : Int) := by omega
      obtain ⟨b, off, x0, x1, x2, rfl, hb, hkx, p0, p1, p2, _⟩ := (HX.out.below HB.out).at hlt
      have HK : Hid (xs[k]? = some (x0, x1, x2)) := hkx
      have HO : Hid (∀ W : World, Calls Tryz.prog 23 #[.agg #[.int .i64 x0, .int .i64 x1, .int .i64 x2]] W fun e w' => e = .returned (.bool (!fitsH (x0, x1, x2))) ∧ Below W.heap.size W w') := fun W => implHeldW_any x0 x1 x2 W
      clear hkx
      go_wp2_with fail
      refine (HO.out _).mono ?_
      rintro e w1 ⟨rfl, hb1⟩
      have HB1 : Hid (Below w.heap.size w w1) := HB.out.trans (hb1.mono HB.out.size)
      clear hb1 p0 p1 p2 HB
      cases hpr : fitsH (x0, x1, x2)
      case false =>
        have HE : Hid (anyH xs = true) := anyH_true HK.out hpr
        clear hpr
        go_wp2_with fail
        go_ret
        exact ⟨⟨k, rfl, by rw [HE.out]; simp⟩, HB1.out⟩
      case true =>
        have HN2 : Hid (∀ (j : Nat) (x : Hd), j < k + 1 → xs[j]? = some x → fitsH x = true) := fun j u hj hju => by
          by_cases e : j = k
          · subst e
            rw [HK.out] at hju
            injection hju with e1
            rw [← e1]
            exact hpr
          · exact HN.out j u (by omega) hju
        clear hpr HN
        go_wp2_with fail
        go_roundw
        case rel => exact ⟨k + 1, by omega, by go_num, HB1, HN2⟩
        case measure => simp [intOf]; omega
    · have HE : Hid (anyH xs = false) := anyH_false fun j x hjx => HN.out j x (by have := (List.getElem?_eq_some_iff.1 hjx).1; have := HL.out; omega) hjx
      have hkl : len = k := by omega
      clear HN HX HL
      subst hkl
      go_wp2_with fail
      go_ret
      exact ⟨⟨-1, rfl, by rw [HE.out]; rfl⟩, HB.out⟩

set_option maxRecDepth 10000 in
theorem implAnyHd_any (a : Option Addr) (len cap : Nat) (xs : List Hd) (w : World) (hx : Helds w a len xs) (hl : len ≤ 1099511627776) :
    Calls Tryz.prog 22 #[.slice a len cap, .func (.func 23) #[] #[]] w fun e w' => e = .returned (.bool (anyH xs)) ∧ Below w.heap.size w w' := by
  go_enter Tryz.func22, Tryz.ntmps22
  go_wp2_with fail
  refine (implIdxH_any a len cap xs w hx hl).mono ?_
  rintro e w1 ⟨⟨k, rfl, hk⟩, hb1⟩
  have HK : Hid (decide (0 ≤ k) = anyH xs) := hk
  have HB1 : Hid (Below w.heap.size w w1) := hb1
  clear hk hb1 hx
  go_wp2_with fail
  go_ret
  exact ⟨ret_bH HK.out, HB1.out⟩

end Go.Proofs.YtlkgopoicpnacaaGreatDoor

namespace Go.Proofs.YtlkgopoicpnacaaGreatDoor
open Go.RowKit
set_option linter.unusedVariables false

set_option maxHeartbeats 400000 in
theorem l1In_yes (x lo hi : Int) (w : World) (h1 : lo ≤ x) (h2 : x ≤ hi) : Calls Tryz.prog 81 #[.int .i64 x, .int .i64 lo, .int .i64 hi] w fun e w' => e = .returned (.bool true) ∧ w' = w := by
  go_enter Tryz.func81, Tryz.ntmps81
  go_wp2
  go_ret
  exact ⟨rfl, rfl⟩

set_option maxHeartbeats 400000 in
theorem l1In_no (x lo hi : Int) (w : World) (h : x < lo ∨ hi < x) : Calls Tryz.prog 81 #[.int .i64 x, .int .i64 lo, .int .i64 hi] w fun e w' => e = .returned (.bool false) ∧ w' = w := by
  by_cases h1 : x < lo
  · clear h
    go_enter Tryz.func81, Tryz.ntmps81
    go_wp2
    go_ret
    exact ⟨rfl, rfl⟩
  · have h2 : hi < x := by omega
    clear h
    go_enter Tryz.func81, Tryz.ntmps81
    go_wp2
    go_ret
    exact ⟨ret_bool (by simp; omega), rfl⟩

theorem l1In_any (x lo hi : Int) (w : World) : Calls Tryz.prog 81 #[.int .i64 x, .int .i64 lo, .int .i64 hi] w fun e w' => e = .returned (.bool (decide (lo ≤ x ∧ x ≤ hi))) ∧ w' = w := by
  by_cases h : lo ≤ x ∧ x ≤ hi
  · rw [decide_eq_true h]
    exact l1In_yes x lo hi w h.1 h.2
  · rw [decide_eq_false h]
    exact l1In_no x lo hi w (by omega)

end Go.Proofs.YtlkgopoicpnacaaGreatDoor

namespace Go.Proofs.YtlkgopoicpnacaaGreatDoor
open Go.RowKit
set_option linter.unusedVariables false

set_option maxRecDepth 10000 in
set_option maxHeartbeats 800000 in
theorem specRespOk_any (st off : Int) (w : World) :
    Calls Tryz.prog 71 #[.agg #[.int .i64 st, .int .i64 off]] w fun e w' => e = .returned (.bool (respB st off)) ∧ Below w.heap.size w w' := by
  have HR : Hid (respB st off = (decide (100 ≤ st ∧ st ≤ 599) && decide (-1 ≤ off ∧ off ≤ 1000000000))) := rfl
  have HB0 : Hid (Below w.heap.size w (w.alloc (.cells #[.int .i64 st, .int .i64 off] 52))) := (Below.refl _ _).alloc (Nat.le_refl _) _
  have hx : (w.alloc (.cells #[.int .i64 st, .int .i64 off] 52)).heap[w.heap.size]? = some (.cells #[.int .i64 st, .int .i64 off] 52 (0, 0)) := heap_alloc_new w _
  go_enter Tryz.func71, Tryz.ntmps71
  go_wp2_with fail
  obtain ⟨w1, hw1⟩ : ∃ w1, w.alloc (.cells #[.int .i64 st, .int .i64 off] 52) = w1 := ⟨_, rfl⟩
  rw [hw1] at HB0 hx ⊢
  clear hw1
  have c0 : w1.cell? ⟨w.heap.size, 0, none⟩ = some (.int .i64 st) := by rw [cell_of_row _ _ _ _ _ _ hx]; rfl
  have c1 : w1.cell? ⟨w.heap.size, 1, none⟩ = some (.int .i64 off) := by rw [cell_of_row _ _ _ _ _ _ hx]; rfl
  clear hx
  refine (l1In_any st 100 599 _).mono ?_
  rintro e w2 ⟨rfl, hw2⟩
  subst hw2
  generalize decide (100 ≤ st ∧ st ≤ 599) = b1 at *
  cases b1
  · go_wp2_with fail
    go_ret
    exact ⟨ret_bool (by rw [HR.out]; rfl), HB0.out⟩
  go_wp2_with fail
  refine (l1In_any off (-1) 1000000000 _).mono ?_
  rintro e w3 ⟨rfl, hw3⟩
  subst hw3
  generalize decide (-1 ≤ off ∧ off ≤ 1000000000) = b2 at *
  go_wp2_with fail
  go_ret
  exact ⟨ret_bool (by rw [HR.out]; rfl), HB0.out⟩

end Go.Proofs.YtlkgopoicpnacaaGreatDoor

namespace Go.Proofs.YtlkgopoicpnacaaGreatDoor
open Go.RowKit
set_option linter.unusedVariables false

theorem ownBlock_of (a : Option Addr) (n cap : Nat) : (Value.slice a n cap).ownBlock = a.map (·.block) := by cases a <;> rfl

theorem seg_nil {w : World} {a : Option Addr} {len : Nat} {zs : List Int} (hs : Seg w a len zs) : a = none → len = 0 := by
  intro h
  rcases hs.2.2 with h0 | ⟨b, off, e, _⟩
  · exact h0
  · rw [h] at e; cases e

theorem seg_src {w : World} {a : Option Addr} {len : Nat} {zs : List Int} (hs : Seg w a len zs) : ∀ ad, a = some ad → ∀ j u, (zs.map (Value.int .u8))[j]? = some u → w.cell? (ad.add j) = some u := by
  intro ad ha j u hj
  have hl2 : j < zs.length := by
    by_cases h : j < zs.length
    · exact h
    · rw [List.getElem?_eq_none (by simp; omega)] at hj; cases hj
  rcases hs.2.2 with h | ⟨b, off, h, _⟩
  · have := hs.1; omega
  · rw [ha] at h
    injection h with h
    subst h
    subst ha
    exact cells_ints hs j u hj

end Go.Proofs.YtlkgopoicpnacaaGreatDoor

namespace Go.Proofs.YtlkgopoicpnacaaGreatDoor
open Go.RowKit
set_option linter.unusedVariables false

theorem step_append_app {P : Program} {ops : Array Oper} {o : Oper} {a : Act} {w : World} {K : Act → World → Prop} {Q : Exit → Act → World → Prop} {E : Prop} (hgd : o.guard = none) (s x : Operand) (t tx : TypeId)
    (ho : o.op = .call { callee := .builtin .append, args := #[s, x], argTypes := #[t, tx] })
    (base : Nat) (e : TypeId) (i : TypeInfo) (z : Value) (size bytes : Nat) (ht : P.underlying t = some (.slice e)) (hi : P.info? e = some i) (hz : i.zero = some z)
    (hsize : i.size = size) (hby : i.bytes = bytes) (hzs : z.cells.size = size) (hsz : 0 < size)
    (g n cap : Nat) (xs : List Value) (hs : a.eval s = .slice (some ⟨g, 0, none⟩) n cap) (hown : w.ownsRow base e size (.slice (some ⟨g, 0, none⟩) n cap) n xs)
    (u : Value) (m : Nat) (news : List Value) (hx : a.eval x = u) (hsrc : Src P size tx u m news w)
    (h63 : n + m ≤ maxLen) (hbytes : (n + m) * bytes ≤ 140737488355328) (hbase : base ≤ w.heap.size) (M : Nat) (hM : n + m = M) (hM0 : 0 < M) (ys : List Value) (hys : xs ++ news = ys)
    (h : ∀ g' c' w', w'.ownsRow base e size (.slice (some ⟨g', 0, none⟩) M c') M ys → w.grownBy w' (some g) → K (a.put o.dst (.slice (some ⟨g', 0, none⟩) M c')) w') :
    if Region.wanted o (yielded ops a.tmps) = true then Oper.wp P o a w K Q else E := by
  have hw : Region.wanted o (yielded ops a.tmps) = true := by simp [Region.wanted, hgd]
  rw [if_pos hw]
  obtain ⟨v', w', hr, h2, h3⟩ := run_append_any (P := P) w base t tx o.type e i z size bytes ht hi hz hsize hby hzs hsz g n cap xs hown u m news hsrc h63 hbytes hbase
  unfold Oper.wp execOp
  simp only [ho, resolve, invoke, builtin, Sem.run_bind, Sem.run_pure, Result.andThen_ok, List.map_toArray, List.map_cons, List.map_nil, hs, hx, hr]
  rw [hM, hys] at h2
  rcases h2.2 with ⟨_, h0⟩ | ⟨g', c', cur, rfl, _⟩
  · omega
  · exact h g' c' w' h2 h3

theorem owns_low {w : World} {base lo n cap : Nat} {a : Option Addr} {zs : List Int} (h : Owns w base a n cap zs) (hl : lo ≤ base) : Owns w lo a n cap zs := ⟨own_low h.1 hl, h.2⟩

/-- Where a row of some bytes lies. -/
theorem owns_at {w : World} {base n cap : Nat} {a : Option Addr} {zs : List Int} (h : Owns w base a n cap zs) (hn : 0 < n) : ∃ g, a = some ⟨g, 0, none⟩ ∧ base ≤ g ∧ g < w.heap.size := by
  rcases h.1.2 with ⟨_, h0⟩ | ⟨g, cap', cur, he, hb, hg, _⟩
  · omega
  · injection he with e1 _ _
    exact ⟨g, e1, hb, (Array.getElem?_eq_some_iff.1 hg).1⟩

/-- A row of bytes as a text. -/
theorem conv_txt {W : World} {g M c : Nat} {zs : List Int} (h : Seg W (some ⟨g, 0, none⟩) M zs) : (convert 22 9 (.slice (some ⟨g, 0, none⟩) M c)).run Tryz.prog W = .ok (.string (txU zs)) W := by
  have hl : (zs.map fun z => UInt8.ofNat z.toNat).length = M := by rw [List.length_map, h.1]
  have hr := run_convert_bytes_back (P := Tryz.prog) W 22 9 5 ⟨g, 0, none⟩ c (zs.map fun z => UInt8.ofNat z.toNat) Tryz.underlying22 (by kernel_rfl) (by kernel_rfl) (by
    intro j hj
    have hjM : j < M := by omega
    have hp : (⟨g, 0, none⟩ : Addr).add j = ⟨g, j, none⟩ := by unfold Addr.add; split <;> simp_all
    rw [hp]
    rcases h.2.2 with h0 | ⟨b, off, e, _, hc⟩
    · omega
    · injection e with e
      injection e with e1 e2 _
      subst e1 e2
      have := hc j hjM
      rw [Nat.zero_add] at this
      rw [this]
      have hjz : j < zs.length := by rw [h.1]; exact hjM
      have hz := h.2.1 zs[j] (List.getElem_mem hjz)
      rw [List.getD_eq_getElem?_getD, List.getElem?_eq_getElem hjz]
      simp
      omega)
  rw [hl] at hr
  exact hr

/-- A part of bytes. -/
theorem Seg.part7 {w : World} {b len : Nat} {zs : List Int} (h : Seg w (some ⟨b, 0, none⟩) len zs) (T n : Nat) (hT : T + n ≤ len) : Seg w (some ⟨b, T, none⟩) n ((zs.drop T).take n) := by
  obtain ⟨h1, h2, h3⟩ := h
  refine ⟨by simp; omega, fun x hx => h2 x (List.mem_of_mem_drop (List.mem_of_mem_take hx)), ?_⟩
  by_cases hn : n = 0
  · exact .inl hn
  · rcases h3 with h0 | ⟨b', off, e, hb, hc⟩
    · omega
    · injection e with e
      injection e with e1 e2 _
      subst e1 e2
      refine .inr ⟨b, T, rfl, hb, fun i hi => ?_⟩
      have := hc (T + i) (by omega)
      rw [Nat.zero_add] at this
      rw [this]
      simp [List.getD_eq_getElem?_getD, List.getElem?_drop, hi]

/-- A part of bytes as a text. -/
theorem conv_txt_at {W : World} {g o M c : Nat} {zs : List Int} (h : Seg W (some ⟨g, o, none⟩) M zs) : (convert 22 9 (.slice (some ⟨g, o, none⟩) M c)).run Tryz.prog W = .ok (.string (txU zs)) W := by
  have hl : (zs.map fun z => UInt8.ofNat z.toNat).length = M := by rw [List.length_map, h.1]
  have hr := run_convert_bytes_back (P := Tryz.prog) W 22 9 5 ⟨g, o, none⟩ c (zs.map fun z => UInt8.ofNat z.toNat) Tryz.underlying22 (by kernel_rfl) (by kernel_rfl) (by
    intro j hj
    have hjM : j < M := by omega
    have hp : (⟨g, o, none⟩ : Addr).add j = ⟨g, o + j, none⟩ := by unfold Addr.add; split <;> simp_all
    rw [hp]
    rcases h.2.2 with h0 | ⟨b, off, e, _, hc⟩
    · omega
    · injection e with e
      injection e with e1 e2 _
      subst e1 e2
      rw [hc j hjM]
      have hjz : j < zs.length := by rw [h.1]; exact hjM
      have hz := h.2.1 zs[j] (List.getElem_mem hjz)
      rw [List.getD_eq_getElem?_getD, List.getElem?_eq_getElem hjz]
      simp
      omega)
  rw [hl] at hr
  exact hr

theorem Seg.src {W : World} {a : Option Addr} {d c : Nat} {zs : List Int} (hs : Seg W a d zs) : Src Tryz.prog 1 22 (.slice a d c) d (zs.map (Value.int .u8)) W := by
  cases a with
  | none =>
    have h0 : d = 0 := seg_nil hs rfl
    subst h0
    obtain rfl : zs = [] := List.eq_nil_of_length_eq_zero hs.1
    exact Src.ofNil _ Tryz.underlying22 c
  | some ad => exact Src.ofSlice _ Tryz.underlying22 ad d c _ (by rw [List.length_map, hs.1, Nat.mul_one]) (seg_src hs ad rfl) (ints_one zs)

theorem byteCells_txI (s : ByteArray) : byteCells s = (txI s).map (Value.int .u8) := by
  simp [byteCells, txI]

end Go.Proofs.YtlkgopoicpnacaaGreatDoor

namespace Go.Proofs.YtlkgopoicpnacaaGreatDoor
open Go.RowKit
set_option linter.unusedVariables false

theorem run_append_loc {P : Program} (w : World) (base : Nat) (t tx ty e : TypeId) (i : TypeInfo) (z : Value) (size bytes : Nat) (ht : P.underlying t = some (.slice e)) (hi : P.info? e = some i) (hz : i.zero = some z)
    (hsize : i.size = size) (hby : i.bytes = bytes) (hzs : z.cells.size = size) (hsz : 0 < size)
    (g n cap : Nat) (xs : List Value) (hown : w.ownsRow base e size (.slice (some ⟨g, 0, none⟩) n cap) n xs)
    (x : Value) (m : Nat) (news : List Value) (hs : Src P size tx x m news w)
    (h63 : n + m ≤ maxLen) (hbytes : (n + m) * bytes ≤ 140737488355328) (hbase : base ≤ w.heap.size) :
    ∃ g' c' w', (Builtin.append_ #[t, tx] ty #[.slice (some ⟨g, 0, none⟩) n cap, x]).run P w = .ok (.slice (some ⟨g', 0, none⟩) (n + m) c') w' ∧ w'.ownsRow base e size (.slice (some ⟨g', 0, none⟩) (n + m) c') (n + m) (xs ++ news) ∧ w.grownBy w' (some g) ∧ (g' = g ∨ g' = w.heap.size) := by
  subst hsize
  subst hby
  have hsmall : n + m ≤ 9223372036854775807 := by simp only [maxLen] at h63; omega
  have hl := hs.newsLen
  have hlen : (xs ++ news).length = (n + m) * i.size := by rw [List.length_append, hown.1, hl, Nat.add_mul]
  rcases hown.2 with ⟨h, _⟩ | ⟨g', cap', cur, heq, hbg, hg, hnc, hcm, hcs, htake⟩
  · cases h
  · injection heq with e1 e2 e3
    injection e1 with e1
    injection e1 with e1
    subst e1
    subst e3
    by_cases hroom : n + m ≤ cap
    · have hfit : n * i.size + news.length ≤ cur.size := by rw [hl, hcs, ← Nat.add_mul]; exact Nat.mul_le_mul_right _ hroom
      have hr := run_room_any w t tx ty e i ht hi g n cap cur hg x m news hs hroom hfit
      refine ⟨_, _, _, hr, ⟨hlen, .inr ⟨g, cap, _, rfl, hbg, setRow_heap w g cur _ e _ hg, hroom, hcm, ?_, ?_⟩⟩, ⟨rfl, rfl, rfl, by simp, fun k _ hk => setRow_other w g k _ (fun e => hk (by simp [e]))⟩, .inl rfl⟩
      · simp only [List.size_toArray, List.length_append, List.length_take, List.length_drop, Array.length_toList]
        omega
      · rw [htake, ← hlen]
        exact List.take_left
    · have holds : ∀ j u, xs[j]? = some u → w.cell? ((⟨g, 0, none⟩ : Addr).add j) = some u := hown.cells (g := g) rfl
      have hold := run_firstCells_some (P := P) w.drew i.size n ⟨g, 0, none⟩ n cap xs hown.1 (by simpa using holds)
      have hr := run_append_grow_src (P := P) w t tx ty e i z ht hi hz (some ⟨g, 0, none⟩) n cap xs hold x m news hs (by omega) (by omega) (growslice_fits (by omega) hbytes)
      have hge := grownCap_ge w (n + m) cap e
      have hcm' : grownCap w (n + m) cap e ≤ maxLen := grownCap_le_maxLen w (n + m) cap e h63
      refine ⟨_, _, _, hr, ⟨hlen, .inr ⟨w.heap.size, _, _, rfl, hbase, heap_alloc_new w.drew _, hge, hcm', ?_, ?_⟩⟩, ⟨rfl, rfl, rfl, by simp, fun k hk _ => heap_alloc_old w.drew _ hk⟩, .inr rfl⟩
      · simp only [Array.size_append, List.size_toArray, size_zeroCells, hzs, hlen, ← Nat.add_mul]
        congr 1
        omega
      · simp only [Array.toList_append]
        rw [← hlen]
        exact List.take_left

theorem wpList_append_loc {P : Program} {w : World} {ops : Array Oper} {rest : List Oper} {o : Oper} {a : Act} {Q : Exit → Act → World → Prop} (hgd : o.guard = none) (s x : Operand) (t tx : TypeId)
    (ho : o.op = .call { callee := .builtin .append, args := #[s, x], argTypes := #[t, tx] })
    (base : Nat) (e : TypeId) (i : TypeInfo) (z : Value) (size bytes : Nat) (ht : P.underlying t = some (.slice e)) (hi : P.info? e = some i) (hz : i.zero = some z)
    (hsize : i.size = size) (hby : i.bytes = bytes) (hzs : z.cells.size = size) (hsz : 0 < size)
    (g n cap : Nat) (xs : List Value) (hs : a.eval s = .slice (some ⟨g, 0, none⟩) n cap) (hown : w.ownsRow base e size (.slice (some ⟨g, 0, none⟩) n cap) n xs)
    (u : Value) (m : Nat) (news : List Value) (hx : a.eval x = u) (hsrc : Src P size tx u m news w)
    (h63 : n + m ≤ maxLen) (hbytes : (n + m) * bytes ≤ 140737488355328) (hbase : base ≤ w.heap.size)
    (h : ∀ g' c' w', w'.ownsRow base e size (.slice (some ⟨g', 0, none⟩) (n + m) c') (n + m) (xs ++ news) → w.grownBy w' (some g) → (g' = g ∨ g' = w.heap.size) → wpList P ops Q rest (a.put o.dst (.slice (some ⟨g', 0, none⟩) (n + m) c')) w') : wpList P ops Q (o :: rest) a w := by
  refine wpList_plain hgd fun K hK => ?_
  obtain ⟨g', c', w', hr, h2, h3, h4⟩ := run_append_loc (P := P) w base t tx o.type e i z size bytes ht hi hz hsize hby hzs hsz g n cap xs hown u m news hsrc h63 hbytes hbase
  unfold Oper.wp execOp
  simp only [ho, resolve, invoke, builtin, Sem.run_bind, Sem.run_pure, Result.andThen_ok, List.map_toArray, List.map_cons, List.map_nil, hs, hx, hr]
  exact hK _ _ (h g' c' w' h2 h3 h4)

theorem step_append_loc {P : Program} {ops : Array Oper} {o : Oper} {a : Act} {w : World} {K : Act → World → Prop} {Q : Exit → Act → World → Prop} {E : Prop} (hgd : o.guard = none) (s x : Operand) (t tx : TypeId)
    (ho : o.op = .call { callee := .builtin .append, args := #[s, x], argTypes := #[t, tx] })
    (base : Nat) (e : TypeId) (i : TypeInfo) (z : Value) (size bytes : Nat) (ht : P.underlying t = some (.slice e)) (hi : P.info? e = some i) (hz : i.zero = some z)
    (hsize : i.size = size) (hby : i.bytes = bytes) (hzs : z.cells.size = size) (hsz : 0 < size)
    (g n cap : Nat) (xs : List Value) (hs : a.eval s = .slice (some ⟨g, 0, none⟩) n cap) (hown : w.ownsRow base e size (.slice (some ⟨g, 0, none⟩) n cap) n xs)
    (u : Value) (m : Nat) (news : List Value) (hx : a.eval x = u) (hsrc : Src P size tx u m news w)
    (h63 : n + m ≤ maxLen) (hbytes : (n + m) * bytes ≤ 140737488355328) (hbase : base ≤ w.heap.size)
    (h : ∀ g' c' w', w'.ownsRow base e size (.slice (some ⟨g', 0, none⟩) (n + m) c') (n + m) (xs ++ news) → w.grownBy w' (some g) → (g' = g ∨ g' = w.heap.size) → K (a.put o.dst (.slice (some ⟨g', 0, none⟩) (n + m) c')) w') :
    if Region.wanted o (yielded ops a.tmps) = true then Oper.wp P o a w K Q else E := by
  have hw : Region.wanted o (yielded ops a.tmps) = true := by simp [Region.wanted, hgd]
  rw [if_pos hw]
  obtain ⟨g', c', w', hr, h2, h3, h4⟩ := run_append_loc (P := P) w base t tx o.type e i z size bytes ht hi hz hsize hby hzs hsz g n cap xs hown u m news hsrc h63 hbytes hbase
  unfold Oper.wp execOp
  simp only [ho, resolve, invoke, builtin, Sem.run_bind, Sem.run_pure, Result.andThen_ok, List.map_toArray, List.map_cons, List.map_nil, hs, hx, hr]
  exact h g' c' w' h2 h3 h4

end Go.Proofs.YtlkgopoicpnacaaGreatDoor
