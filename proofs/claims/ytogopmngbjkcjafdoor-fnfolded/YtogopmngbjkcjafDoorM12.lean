/- What PutUp answers, said as the program goes; no program in it. What is sure behind a flush; no program in it. A disk behind a fall: the model; no program in it. A store that is drawn: right, of few epochs, and no record of its disk is above its epoch or of the name that no draw takes. No program in it. A store in a variable of a draw's, beside the cursor. No statement of the program in it but its table of types. -/
import Derived.Test.YtogopmngbjkcjafDoorM10
import Derived.Test.YtogopmngbjkcjafDoorM11
import Derived.Test.YtogopmngbjkcjafDoorM11
import Derived.Test.YtogopmngbjkcjafDoorM09
import Derived.Test.YtogopmngbjkcjafDoorM02
import Derived.Test.YtogopmngbjkcjafDoorM07
import Derived.Test.YtogopmngbjkcjafDoorM07
namespace Go.Proofs.YtogopmngbjkcjafDoor
open Go.RowKit
set_option linter.unusedVariables false

section
variable {X Y : List ByteArray} {ep nx : Int} {us : List U} {id : ByteArray} {off : Int} {zs : List Int}

theorem putA_no (h : (putA X Y ep nx us id off zs).c ≠ 0) : putA X Y ep nx us id off zs = ⟨X, nx, us, (putA X Y ep nx us id off zs).c⟩ := by
  unfold putA at h ⊢
  by_cases h1 : decB (SOk X Y ep nx us) = true ∧ idB id.data.toList = true ∧ 1 ≤ zs.length ∧ zs.length ≤ 400
  · rw [if_pos h1] at h ⊢
    cases ha : atU us id with
    | none => rfl
    | some k =>
      rw [ha] at h
      dsimp only at h ⊢
      cases hu : us[k]? with
      | none => rfl
      | some u =>
        rw [hu] at h
        dsimp only at h ⊢
        by_cases h2 : u.done = true ∨ off ≠ (u.zs.length : Int) ∨ u.want < off + (zs.length : Int)
        · rw [if_pos h2]
        · rw [if_neg h2] at h ⊢
          by_cases h3 : (X.length : Int) - nx < (pcs zs.length : Int)
          · rw [if_pos h3]
          · rw [if_neg h3] at h
            exact absurd rfl h
  · rw [if_neg h1]

theorem putA_yes (h : (putA X Y ep nx us id off zs).c = 0) : SOk X Y ep nx us ∧ idB id.data.toList = true ∧ (1 ≤ zs.length ∧ zs.length ≤ 400) ∧ ∃ k u, atU us id = some k ∧ us[k]? = some u ∧ u.done = false ∧ off = (u.zs.length : Int) ∧ off + (zs.length : Int) ≤ u.want ∧ nx + (pcs zs.length : Int) ≤ (X.length : Int) ∧ (dataRs id off zs).foldlM oneU us = some (putU us k u zs (pcs zs.length)) ∧ putA X Y ep nx us id off zs = ⟨wroteX X ep nx.toNat (dataRs id off zs), nx + (pcs zs.length : Int), putU us k u zs (pcs zs.length), 0⟩ := by
  by_cases h1 : decB (SOk X Y ep nx us) = true ∧ idB id.data.toList = true ∧ 1 ≤ zs.length ∧ zs.length ≤ 400
  case neg => unfold putA at h; rw [if_neg h1] at h; cases h
  refine ⟨decB_of h1.1, h1.2.1, h1.2.2, ?_⟩
  unfold putA at h
  rw [if_pos h1] at h
  cases ha : atU us id with
  | none => rw [ha] at h; cases h
  | some k =>
    rw [ha] at h
    dsimp only at h
    cases hu : us[k]? with
    | none => rw [hu] at h; cases h
    | some u =>
      rw [hu] at h
      dsimp only at h
      by_cases h2 : u.done = true ∨ off ≠ (u.zs.length : Int) ∨ u.want < off + (zs.length : Int)
      case pos => rw [if_pos h2] at h; cases h
      rw [if_neg h2] at h
      by_cases h3 : (X.length : Int) - nx < (pcs zs.length : Int)
      case pos => rw [if_pos h3] at h; cases h
      have hd : u.done = false := by cases hd : u.done with
        | false => rfl
        | true => exact absurd (.inl hd) h2
      have ho : off = (u.zs.length : Int) := by
        by_cases h9 : off = (u.zs.length : Int)
        · exact h9
        · exact absurd (.inr (.inl h9)) h2
      have hw : off + (zs.length : Int) ≤ u.want := by
        by_cases h9 : u.want < off + (zs.length : Int)
        · exact absurd (.inr (.inr h9)) h2
        · omega
      have hf : (dataRs id off zs).foldlM oneU us = some (putU us k u zs (pcs zs.length)) := put_fold ha hu hd ho hw _ (Nat.le_refl _)
      refine ⟨k, u, rfl, hu, hd, ho, hw, by omega, hf, ?_⟩
      unfold putA
      rw [if_pos h1, ha]
      dsimp only
      rw [hu]
      dsimp only
      rw [if_neg h2, if_neg h3, wroteA, hf, dataRs_len]
      rfl

theorem put_forC (hl : 1 ≤ zs.length ∧ zs.length ≤ 400) (h : forC X Y ep nx us id ≠ 0) : (putA X Y ep nx us id off zs).c = forC X Y ep nx us id := by
  rw [forC] at h ⊢
  unfold putA
  by_cases h1 : decB (SOk X Y ep nx us) = true ∧ idB id.data.toList = true
  · rw [if_pos ⟨h1.1, h1.2, hl⟩]
    rw [if_pos h1] at h ⊢
    by_cases h2 : atU us id = none
    · rw [if_pos h2, h2]
    · rw [if_neg h2] at h; exact absurd rfl h
  · rw [if_neg (fun h9 => h1 ⟨h9.1, h9.2.1⟩), if_neg h1]

theorem put_form (hl : ¬ (1 ≤ zs.length ∧ zs.length ≤ 400)) : (putA X Y ep nx us id off zs).c = 1 := by
  unfold putA
  rw [if_neg (fun h => hl h.2.2)]

theorem put_at {k : Nat} {u : U} (h1 : SOk X Y ep nx us) (h2 : idB id.data.toList = true) (h3 : 1 ≤ zs.length ∧ zs.length ≤ 400) (h4 : atU us id = some k) (h5 : us[k]? = some u) :
    (putA X Y ep nx us id off zs).c = if u.done = true ∨ off ≠ (u.zs.length : Int) ∨ u.want < off + (zs.length : Int) then 4 else if (X.length : Int) - nx < (pcs zs.length : Int) then 5 else 0 := by
  unfold putA
  rw [if_pos ⟨decB_true h1, h2, h3⟩, h4]
  dsimp only
  rw [h5]
  dsimp only
  split
  · rfl
  · split <;> rfl

/-- The records of pieces are right ones. -/
theorem dataRs_ok (hi : idB id.data.toList = true) (h0 : 0 ≤ off) (h1 : off + (zs.length : Int) ≤ 1000000000) (hz : ∀ x ∈ zs, 0 ≤ x ∧ x ≤ 255) : ∀ r ∈ dataRs id off zs, idB r.id.data.toList = true ∧ kindB r.k r.n r.zs.length = true ∧ ∀ x ∈ r.zs, 0 ≤ x ∧ x ≤ 255 := by
  intro r hr
  obtain ⟨i, hi', rfl⟩ := List.mem_map.1 hr
  have hi2 := List.mem_range.1 hi'
  have hil : 24 * i < zs.length := by unfold pcs at hi2; omega
  refine ⟨hi, ?_, fun x hx => hz x (List.mem_of_mem_drop (List.mem_of_mem_take hx))⟩
  show kindB 2 (off + ((24 * i : Nat) : Int)) ((zs.drop (24 * i)).take 24).length = true
  rw [kindB, if_neg (by decide), if_pos rfl, List.length_take, List.length_drop, decide_eq_true (show 0 ≤ off + ((24 * i : Nat) : Int) ∧ off + ((24 * i : Nat) : Int) ≤ 1000000000 by omega), decide_eq_true (show 1 ≤ min 24 (zs.length - 24 * i) ∧ min 24 (zs.length - 24 * i) ≤ 24 by omega)]
  rfl

theorem putA_sz (h1 : X.length ≤ 1048576) (h2 : us.length ≤ 1048576) (h3 : ∀ u ∈ us, u.zs.length ≤ 1048576) : (putA X Y ep nx us id off zs).small := by
  by_cases h : (putA X Y ep nx us id off zs).c = 0
  · obtain ⟨hso, _, hl, k, u, ha, hu, _, _, _, _, hf, hm⟩ := putA_yes h
    rw [hm]
    refine ⟨by show (wroteX _ _ _ _).length ≤ _; rw [wroteX_len]; exact h1, by show (putU _ _ _ _ _).length ≤ _; rw [putU, List.length_set]; exact h2, fun v hv => ?_⟩
    have hs := fold_small hso.1 hso.2.2.1
    rcases List.mem_or_eq_of_mem_set hv with h9 | rfl
    · exact h3 v h9
    · have := hs.2 u (List.mem_of_getElem? hu)
      simp only [List.length_append, List.length_take]
      omega
  · rw [putA_no h]
    exact ⟨h1, h2, h3⟩
end

end Go.Proofs.YtogopmngbjkcjafDoor

namespace Go.Proofs.YtogopmngbjkcjafDoor
open Go.RowKit

/-- What is sure behind a flush. -/
noncomputable def syncY (X Y : List ByteArray) (ep nx : Int) (us : List U) : List ByteArray := if decB (SOk X Y ep nx us) = true then X else Y

end Go.Proofs.YtogopmngbjkcjafDoor

namespace Go.Proofs.YtogopmngbjkcjafDoor
open Go.RowKit
set_option linter.unusedVariables false

/-- What is kept of a sector. -/
def fallL (xs ys : List ByteArray) (ks : List Bool) : List ByteArray := (List.range xs.length).map fun i => if ks.getD i false then xs.getD i ⟨#[]⟩ else ys.getD i ⟨#[]⟩

def fallX (xs ys : List ByteArray) (ks : List Bool) : List ByteArray := if okD xs ys then fallL xs ys ks else xs
def fallY (xs ys : List ByteArray) (ks : List Bool) : List ByteArray := if okD xs ys then fallL xs ys ks else ys

theorem fallL_len (xs ys : List ByteArray) (ks : List Bool) : (fallL xs ys ks).length = xs.length := by simp [fallL]

theorem fallX_len (xs ys : List ByteArray) (ks : List Bool) : (fallX xs ys ks).length ≤ xs.length ∧ (fallY xs ys ks).length ≤ xs.length + ys.length := by
  rw [fallX, fallY]
  split
  · rw [fallL_len]
    omega
  · omega

theorem fallL_at {xs ys : List ByteArray} {ks : List Bool} {k : Nat} {x y : ByteArray} (hx : xs[k]? = some x) (hy : ys[k]? = some y) : (fallL xs ys ks)[k]? = some (if ks.getD k false then x else y) := by
  have hk : k < xs.length := (List.getElem?_eq_some_iff.1 hx).1
  obtain ⟨_, rfl⟩ := List.getElem?_eq_some_iff.1 hx
  simp [fallL, hk, List.getD_eq_getElem?_getD, hy]

/-- A row of which the first k are as F says. -/
def fallTo (F L : List ByteArray) (k : Nat) : List ByteArray := F.take k ++ L.drop k

theorem fallTo_zero (F L : List ByteArray) : fallTo F L 0 = L := by simp [fallTo]
theorem fallTo_all (F L : List ByteArray) (h : F.length = L.length) : fallTo F L L.length = F := by simp [fallTo, ← h]

theorem fallTo_len (F L : List ByteArray) (k : Nat) (h : F.length = L.length) (hk : k ≤ L.length) : (fallTo F L k).length = L.length := by simp [fallTo]; omega

theorem fallTo_at (F L : List ByteArray) (k : Nat) (h : F.length = L.length) (hk : k < L.length) : (fallTo F L k)[k]? = L[k]? := by
  rw [fallTo, List.getElem?_append_right (by simp; omega), List.length_take, List.getElem?_drop]
  congr 1
  omega

theorem fallTo_set (F L : List ByteArray) (k : Nat) (x : ByteArray) (h : F.length = L.length) (hk : k < L.length) (hF : F[k]? = some x) : (fallTo F L k).set k x = fallTo F L (k + 1) := by
  have ht : (F.take k).length = k := by simp; omega
  rw [fallTo, fallTo, List.set_append_right k _ (by omega), ht, Nat.sub_self, List.drop_eq_getElem_cons hk, List.set_cons_zero, List.take_add_one, hF]
  simp

theorem fallTo_same (F L : List ByteArray) (k : Nat) (x : ByteArray) (h : F.length = L.length) (hL : L[k]? = some x) (hF : F[k]? = some x) : fallTo F L k = fallTo F L (k + 1) := by
  have hk : k < L.length := (List.getElem?_eq_some_iff.1 hL).1
  rw [← fallTo_set F L k x h hk hF]
  apply List.ext_getElem?
  intro j
  rw [List.getElem?_set]
  by_cases hj : k = j
  · subst hj
    have := fallTo_len F L k h (by omega)
    rw [if_pos rfl, if_pos (by omega), fallTo_at F L k h hk, hL]
  · rw [if_neg hj]

end Go.Proofs.YtogopmngbjkcjafDoor

namespace Go.Proofs.YtogopmngbjkcjafDoor
open Go.RowKit
set_option linter.unusedVariables false

/-- The name that no draw takes. -/
def newId : ByteArray := ⟨#[110, 101, 119]⟩

structure SG (k : Int) (X Y : List ByteArray) (ep nx : Int) (us : List U) : Prop where
  ok : SOk X Y ep nx us
  few : ep ≤ k
  recs : ∀ x, x ∈ X ∨ x ∈ Y → ∀ r, recOf x = some r → r.e ≤ ep ∧ r.id ≠ newId

theorem SG.more {k k' : Int} {X Y : List ByteArray} {ep nx : Int} {us : List U} (h : SG k X Y ep nx us) (hk : k ≤ k') : SG k' X Y ep nx us := ⟨h.ok, by have := h.few; omega, h.recs⟩

/-- Each sector behind a write is one of before, or a record of those that were written. -/
theorem wroteX_mem {ep : Int} : ∀ {rs : List R} {X : List ByteArray} {nx : Nat} {x : ByteArray}, x ∈ wroteX X ep nx rs → x ∈ X ∨ ∃ r ∈ rs, ∃ q, x = txU (r.at ep q).put
  | [], X, nx, x, h => .inl h
  | r :: rs, X, nx, x, h => by
    rcases wroteX_mem (rs := rs) h with h | ⟨r', hr, q, h⟩
    · rcases List.mem_or_eq_of_mem_set h with h | rfl
      · exact .inl h
      · exact .inr ⟨r, List.mem_cons_self .., nx, rfl⟩
    · exact .inr ⟨r', List.mem_cons_of_mem _ hr, q, h⟩

/-- What is read of a text that a record made is that record. -/
theorem recOf_put {r r' : R} (h : recOf (txU r.put) = some r') (hz : ∀ x ∈ r.zs, 0 ≤ x ∧ x ≤ 255) (hok : r.ok = true) : r' = r := by
  rw [rec_back hok hz] at h
  injection h with h
  exact h.symm

/-- A record that is right but for its place, at a place of a disk. -/
theorem at_ok {r : R} {ep : Int} {q : Nat} (h1 : idB r.id.data.toList = true) (h2 : kindB r.k r.n r.zs.length = true) (he : 0 ≤ ep ∧ ep ≤ 10000) (hq : q < 200) : (r.at ep q).ok = true := by
  show okRec ep (q : Int) r.k r.id r.n r.zs.length = true
  rw [okRec, decide_eq_true (show 0 ≤ ep ∧ ep ≤ 10000 from he), decide_eq_true (show 0 ≤ (q : Int) ∧ (q : Int) ≤ 199 by omega), h1, h2]
  rfl

/-- Each sector behind a write, with its place. -/
theorem wroteX_memq {ep : Int} : ∀ {rs : List R} {X : List ByteArray} {nx : Nat} {x : ByteArray}, x ∈ wroteX X ep nx rs → x ∈ X ∨ ∃ r ∈ rs, ∃ q, q < nx + rs.length ∧ x = txU (r.at ep q).put
  | [], X, nx, x, h => .inl h
  | r :: rs, X, nx, x, h => by
    rcases wroteX_memq (rs := rs) h with h | ⟨r', hr, q, hq, h⟩
    · rcases List.mem_or_eq_of_mem_set h with h | rfl
      · exact .inl h
      · exact .inr ⟨r, List.mem_cons_self .., nx, by simp, rfl⟩
    · exact .inr ⟨r', List.mem_cons_of_mem _ hr, q, by simp at hq ⊢; omega, h⟩

/-- A write keeps a drawn store. -/
theorem SG.wrote {k : Int} {X Y : List ByteArray} {ep nx : Int} {us us' : List U} {rs : List R} (h : SG k X Y ep nx us) (hr : ∀ r ∈ rs, idB r.id.data.toList = true ∧ kindB r.k r.n r.zs.length = true ∧ ∀ x ∈ r.zs, 0 ≤ x ∧ x ≤ 255) (hn : ∀ r ∈ rs, r.id ≠ newId) (hl : nx + (rs.length : Int) ≤ (X.length : Int)) (hf : rs.foldlM oneU us = some us') : SG k (wroteX X ep nx.toNat rs) Y ep (nx + (rs.length : Int)) us' := by
  obtain ⟨he, h0, hX, h200⟩ := h.ok.nums
  refine ⟨wrote_ok h.ok hr hl hf, h.few, fun x hx r hrx => ?_⟩
  rcases hx with hx | hx
  · rcases wroteX_memq hx with hx | ⟨r', hr', q, hq, rfl⟩
    · exact h.recs x (.inl hx) r hrx
    · have h3 := hr r' hr'
      have h4 : r = r'.at ep q := recOf_put hrx h3.2.2 (at_ok h3.1 h3.2.1 he (by omega))
      rw [h4]
      exact ⟨Int.le_refl _, hn r' hr'⟩
  · exact h.recs x (.inr hx) r hrx

theorem SG.make {k : Int} {X Y : List ByteArray} {ep nx : Int} {us : List U} {id : ByteArray} {want : Int} (h : SG k X Y ep nx us) (hid : id ≠ newId) : SG k (makeA X Y ep nx us id want).X Y ep (makeA X Y ep nx us id want).nx (makeA X Y ep nx us id want).us := by
  by_cases hc : (makeA X Y ep nx us id want).c = 0
  · obtain ⟨_, hk, hl, us', hf, he⟩ := makeA_yes hc
    rw [he]
    exact h.wrote (rs := [makeR id want]) (fun r hr => by rw [List.mem_singleton.1 hr]; exact ⟨hk.1, hk.2, by simp [makeR]⟩) (fun r hr => by rw [List.mem_singleton.1 hr]; exact hid) hl hf
  · rw [makeA_no hc]
    exact h

theorem SG.drop {k : Int} {X Y : List ByteArray} {ep nx : Int} {us : List U} {id : ByteArray} (h : SG k X Y ep nx us) (hid : id ≠ newId) : SG k (dropA X Y ep nx us id).X Y ep (dropA X Y ep nx us id).nx (dropA X Y ep nx us id).us := by
  by_cases hc : (dropA X Y ep nx us id).c = 0
  · obtain ⟨_, hk, hl, us', hf, he⟩ := dropA_yes hc
    rw [he]
    exact h.wrote (rs := [dropR id]) (fun r hr => by rw [List.mem_singleton.1 hr]; exact ⟨hk.1, hk.2, by simp [dropR]⟩) (fun r hr => by rw [List.mem_singleton.1 hr]; exact hid) hl hf
  · rw [dropA_no hc]
    exact h

theorem SG.put {k : Int} {X Y : List ByteArray} {ep nx : Int} {us : List U} {id : ByteArray} {off : Int} {zs : List Int} (h : SG k X Y ep nx us) (hid : id ≠ newId) (hz : ∀ x ∈ zs, 0 ≤ x ∧ x ≤ 255) : SG k (putA X Y ep nx us id off zs).X Y ep (putA X Y ep nx us id off zs).nx (putA X Y ep nx us id off zs).us := by
  by_cases hc : (putA X Y ep nx us id off zs).c = 0
  · obtain ⟨_, hi, hl, kk, u, h4, h5, h6, h7, h8, h9, hf, he⟩ := putA_yes hc
    rw [he]
    have hw := h.ok.wants u (List.mem_of_getElem? h5)
    have hlen := dataRs_len id off zs
    have := h.wrote (rs := dataRs id off zs) (dataRs_ok hi (by omega) (by omega) hz) (fun r hr => by
      obtain ⟨i, _, rfl⟩ := List.mem_map.1 hr
      exact hid) (by rw [hlen]; exact h9) hf
    rw [hlen] at this
    exact this
  · rw [putA_no hc]
    exact h

theorem SG.done {k : Int} {X Y : List ByteArray} {ep nx : Int} {us : List U} {id : ByteArray} {sum : Int} (h : SG k X Y ep nx us) (hid : id ≠ newId) : SG k (doneA X Y ep nx us id sum).X Y ep (doneA X Y ep nx us id sum).nx (doneA X Y ep nx us id sum).us := by
  unfold doneA
  by_cases h1 : decB (SOk X Y ep nx us) = true ∧ idB id.data.toList = true
  · rw [if_pos h1]
    cases ha : atU us id with
    | none => exact h
    | some kk =>
      dsimp only
      cases hu : us[kk]? with
      | none => exact h
      | some u =>
        dsimp only
        by_cases h2 : (u.zs.length : Int) < u.want
        · rw [if_pos h2]; exact h
        · rw [if_neg h2]
          by_cases h3 : sum ≠ crcI u.zs
          · rw [if_pos h3]; exact h
          · rw [if_neg h3]
            by_cases h4 : u.done = true
            · rw [if_pos h4]; exact h
            · rw [if_neg h4]
              by_cases h5 : nx < (X.length : Int)
              · rw [if_pos h5]
                have hfit := h.ok.fits u (List.mem_of_getElem? hu)
                have hd : u.done = false := by simpa using h4
                have hw : (u.zs.length : Int) = u.want := by have := hfit.1; omega
                have hf : [doneR id].foldlM oneU us = some (us.set kk { u with done := true }) := by rw [List.foldlM_cons, done_fits ha hu hd hw]; rfl
                rw [wroteA, hf]
                exact h.wrote (rs := [doneR id]) (fun r hr => by rw [List.mem_singleton.1 hr]; exact ⟨h1.2, rfl, by simp [doneR]⟩) (fun r hr => by rw [List.mem_singleton.1 hr]; exact hid) (by simp; omega) hf
              · rw [if_neg h5]; exact h
  · rw [if_neg h1]; exact h

theorem SG.sync {k : Int} {X Y : List ByteArray} {ep nx : Int} {us : List U} (h : SG k X Y ep nx us) : syncY X Y ep nx us = X ∧ SG k X X ep nx us := by
  refine ⟨if_pos (decB_true h.ok), ?_, h.few, fun x hx r hr => h.recs x (.inl (by rcases hx with hx | hx <;> exact hx)) r hr⟩
  obtain ⟨h1, h2⟩ := h.ok
  refine ⟨?_, h2⟩
  have h3 := okD_iff.1 h1
  exact okD_iff.2 ⟨rfl, h3.2.1, h3.2.2.1, h3.2.2.1⟩

/-- What is opened is right. -/
theorem open_ok {X Y : List ByteArray} {ep : Int} {nx : Nat} {us : List U} (h : openO X Y = some (ep, nx, us)) : SOk X Y ep (nx : Int) us ∧ ep = topE X + 1 := by
  rw [openO] at h
  split at h
  · rename_i hok hf
    split at h
    · cases h
    · rename_i h9
      simp only [Option.some.injEq, Prod.mk.injEq] at h
      obtain ⟨rfl, rfl, rfl⟩ := h
      have ht := topE_range X
      refine ⟨⟨hok, by omega, hf, rfl, fun r hr => ?_, fun k x r hk hx hr => ?_⟩, rfl⟩
      · have hm := List.mem_of_getLast? hr
        obtain ⟨i, hi, rfl⟩ := List.getElem_of_mem hm
        have := (scan_one (X := X) (k := i) (List.getElem?_eq_getElem hi)).2.2
        omega
      · have := top_in X (-1) k x r hx hr
        show r.e < topE X + 1
        have e : topE X = X.foldl topStep (-1) := rfl
        omega
  · cases h

/-- A bound of the greatest epoch. -/
theorem topE_le {X : List ByteArray} {ep : Int} (h0 : -1 ≤ ep) (h : ∀ x ∈ X, ∀ r, recOf x = some r → r.e ≤ ep) : topE X ≤ ep :=
  (top_le (ep := ep) X (-1)).2 ⟨h0, fun k x r hx hr => h x (List.mem_of_getElem? hx) r hr⟩

theorem fallL_mem {xs ys : List ByteArray} {ks : List Bool} (hl : xs.length = ys.length) {x : ByteArray} (h : x ∈ fallL xs ys ks) : x ∈ xs ∨ x ∈ ys := by
  obtain ⟨i, hi, rfl⟩ := List.mem_map.1 h
  have hi2 := List.mem_range.1 hi
  have e1 : xs.getD i ⟨#[]⟩ = xs[i] := by rw [List.getD_eq_getElem?_getD, List.getElem?_eq_getElem hi2]; rfl
  have e2 : ys.getD i ⟨#[]⟩ = ys[i]'(by omega) := by rw [List.getD_eq_getElem?_getD, List.getElem?_eq_getElem (by omega)]; rfl
  split
  · rw [e1]; exact .inl (List.getElem_mem _)
  · rw [e2]; exact .inr (List.getElem_mem _)

theorem fall_same {X Y : List ByteArray} (ks : List Bool) (h : okD X Y = true) : fallX X Y ks = fallL X Y ks ∧ fallY X Y ks = fallL X Y ks := by rw [fallX, fallY, h]; exact ⟨rfl, rfl⟩

/-- What opens behind a crash. -/
theorem SG.opened {k : Int} {X Y : List ByteArray} {ep nx : Int} {us : List U} (h : SG k X Y ep nx us) (ks : List Bool) {ep' : Int} {nx' : Nat} {us' : List U} (ho : openO (fallX X Y ks) (fallY X Y ks) = some (ep', nx', us')) : SG (k + 1) (fallX X Y ks) (fallY X Y ks) ep' (nx' : Int) us' := by
  obtain ⟨h1, h2⟩ := open_ok ho
  obtain ⟨e1, e2⟩ := fall_same ks h.ok.1
  have hxy := (okD_iff.1 h.ok.1).1
  have hen := h.ok.nums.1
  have hm : ∀ x, x ∈ fallL X Y ks → ∀ r, recOf x = some r → r.e ≤ ep ∧ r.id ≠ newId := fun x hx r hr => h.recs x (fallL_mem hxy hx) r hr
  have ht : topE (fallX X Y ks) ≤ ep := by rw [e1]; exact topE_le (by omega) (fun x hx r hr => (hm x hx r hr).1)
  refine ⟨h1, by have := h.few; omega, fun x hx r hr => ?_⟩
  have hx' : x ∈ fallX X Y ks := by rw [e1]; rw [e1, e2] at hx; rcases hx with hx | hx <;> exact hx
  obtain ⟨i, hi, rfl⟩ := List.getElem_of_mem hx'
  have h5 := top_in (fallX X Y ks) (-1) i _ r (List.getElem?_eq_getElem hi) hr
  have e : topE (fallX X Y ks) = (fallX X Y ks).foldl topStep (-1) := rfl
  refine ⟨by omega, (hm _ (by rw [← e1]; exact hx') r hr).2⟩

/-- A new store. -/
theorem SG.new (n : Nat) (h : n ≤ 200) : SG 0 (List.replicate n ⟨#[]⟩) (List.replicate n ⟨#[]⟩) 0 0 [] := by
  have h0 : recOf ⟨#[]⟩ = none := by decide
  have hs : scanR (List.replicate n ⟨#[]⟩) = [] := by
    cases n with
    | zero => rfl
    | succ n => show scanFrom 0 0 (⟨#[]⟩ :: List.replicate n ⟨#[]⟩) = []; rw [scanFrom, show nextR 0 0 ⟨#[]⟩ = none by rw [nextR, h0]]
  refine ⟨⟨?_, by omega, ?_, ?_, ?_, ?_⟩, Int.le_refl _, fun x hx r hr => ?_⟩
  · refine okD_iff.2 ⟨rfl, by simpa using h, fun x hx => ?_, fun x hx => ?_⟩ <;> (rw [List.eq_of_mem_replicate hx]; exact Nat.zero_le _)
  · rw [hs]; rfl
  · rw [hs]; rfl
  · rw [hs]; intro r hr; cases hr
  · intro k x r _ hx hr
    rw [List.eq_of_mem_replicate (List.mem_of_getElem? hx), h0] at hr
    cases hr
  · rcases hx with hx | hx <;> (rw [List.eq_of_mem_replicate hx, h0] at hr; cases hr)

end Go.Proofs.YtogopmngbjkcjafDoor

namespace Go.Proofs.YtogopmngbjkcjafDoor
open Go.RowKit
set_option linter.unusedVariables false

/-- Rows behind a bound are as they were where a cursor ahead of it moves. -/
theorem StoAt.moved {W W' : World} {lo c : Nat} {A : Option Addr} {n C : Nat} {X : List ByteArray} {A' : Option Addr} {n' C' : Nat} {Y : List ByteArray} {ua : Option Addr} {un uc : Nat} {l : List UE} (h : StoAt W lo A n C X A' n' C' Y ua un uc l) (hg : W.grownBy W' (some c)) (hc : c < lo) : StoAt W' lo A n C X A' n' C' Y ua un uc l := by
  refine ⟨h.now.kept hg (fun q hq hq2 => ?_), h.sure.kept hg (fun q hq hq2 => ?_), h.apart, h.ups.grown hg (fun q hq hq2 => ?_) (fun e he q hq hq2 => ?_), h.len⟩
  · injection hq with hq; have := (h.now.lt q hq2).1; omega
  · injection hq with hq; have := (h.sure.lt q hq2).1; omega
  · injection hq with hq; have := (h.ups.lts.1 q hq2).1; omega
  · injection hq with hq; have := (h.ups.lts.2 e he q hq2).1; omega

/-- What the functions of a store ask of a right one. -/
theorem StoAt.pre {W : World} {lo : Nat} {A : Option Addr} {n C : Nat} {X : List ByteArray} {A' : Option Addr} {n' C' : Nat} {Y : List ByteArray} {ua : Option Addr} {un uc : Nat} {l : List UE} {ep nx : Int} (h : StoAt W lo A n C X A' n' C' Y ua un uc l) (hs : SOk X Y ep nx (l.map UE.u)) :
    Strs W A n X ∧ Strs W A' n' Y ∧ n ≤ 200 ∧ n' ≤ 200 ∧ (∀ x ∈ X, x.size ≤ 1048576) ∧ UpRow W lo (.slice ua un uc) l ∧ un = l.length ∧ un ≤ 10 ∧ (∀ e ∈ l, e.n ≤ 4800) ∧ X.length = n ∧ Y.length = n' := by
  have h1 := okD_iff.1 hs.1
  have h2 := h.now.len
  have h3 := h.sure.len
  have h4 := hs.few
  rw [List.length_map] at h4
  have h5 := h.len
  have hf := (fold_small hs.1 hs.2.2.1).2
  refine ⟨h.now.strs, h.sure.strs, by omega, by omega, fun x hx => by have := h1.2.2.1 x hx; omega, h.ups, h5, by omega, fun e he => ?_, h2, h3⟩
  have h6 := (h.ups.2.1 e he).seg.1
  have h7 := hf e.u (List.mem_map_of_mem he)
  omega

structure DSt (w W : World) (B c : Nat) (a : Option Addr) (len cap : Nat) (zs : List Int) (lo : Nat) (k : Int) (A : Option Addr) (n C : Nat) (X : List ByteArray) (A' : Option Addr) (n' C' : Nat) (Y : List ByteArray) (ep nx : Int) (ua : Option Addr) (un uc : Nat) (l : List UE) : Prop where
  box : BoxN W w.heap.size 37 [.slice A n C, .slice A' n' C', .int .i64 ep, .int .i64 nx, .slice ua un uc]
  zero : BoxN W (w.heap.size + 1) 37 [.slice none 0 0, .slice none 0 0, .int .i64 0, .int .i64 0, .slice none 0 0]
  sto : StoAt W lo A n C X A' n' C' Y ua un uc l
  cur : Cur W B c a len cap zs
  grown : w.grownBy W (some c)
  sg : SG k X Y ep nx (l.map UE.u)
  clo : c < lo
  low : lo ≤ w.heap.size

section
variable {w W W' : World} {B c : Nat} {a : Option Addr} {len cap : Nat} {zs : List Int} {lo : Nat} {k : Int} {A : Option Addr} {n C : Nat} {X : List ByteArray} {A' : Option Addr} {n' C' : Nat} {Y : List ByteArray} {ep nx : Int} {ua : Option Addr} {un uc : Nat} {l : List UE}

theorem DSt.call (h : DSt w W B c a len cap zs lo k A n C X A' n' C' Y ep nx ua un uc l) (hc : Cur W' B c a len cap zs) (hg : W.grownBy W' (some c)) : DSt w W' B c a len cap zs lo k A n C X A' n' C' Y ep nx ua un uc l := by
  have h1 := h.clo
  have h2 := h.low
  exact ⟨h.box.grown hg (fun e => by injection e with e; omega), h.zero.grown hg (fun e => by injection e with e; omega), h.sto.moved hg h.clo, hc, gtrans h.grown hg, h.sg, h.clo, h.low⟩

theorem DSt.stays (h : DSt w W B c a len cap zs lo k A n C X A' n' C' Y ep nx ua un uc l) (hb : Below W.heap.size W W') : DSt w W' B c a len cap zs lo k A n C X A' n' C' Y ep nx ua un uc l :=
  ⟨h.box.stays hb, h.zero.stays hb, h.sto.stays hb, h.cur.kept (gbelow hb none) (by simp), gtrans h.grown (gbelow hb _), h.sg, h.clo, h.low⟩

theorem DSt.new (h : DSt w W B c a len cap zs lo k A n C X A' n' C' Y ep nx ua un uc l) (o : Obj) : DSt w (W.alloc o) B c a len cap zs lo k A n C X A' n' C' Y ep nx ua un uc l := h.stays ((Below.refl _ _).alloc (Nat.le_refl _) _)

theorem DSt.more (h : DSt w W B c a len cap zs lo k A n C X A' n' C' Y ep nx ua un uc l) {k' : Int} (hk : k ≤ k') : DSt w W B c a len cap zs lo k' A n C X A' n' C' Y ep nx ua un uc l := ⟨h.box, h.zero, h.sto, h.cur, h.grown, h.sg.more hk, h.clo, h.low⟩

/-- A cell of the variable that holds the store. -/
theorem DSt.put (h : DSt w W B c a len cap zs lo k A n C X A' n' C' Y ep nx ua un uc l) {vs : List Value} {lo2 : Nat} {A2 : Option Addr} {n2 C2 : Nat} {X2 : List ByteArray} {A2' : Option Addr} {n2' C2' : Nat} {Y2 : List ByteArray} {ua2 : Option Addr} {un2 uc2 : Nat} {l2 : List UE} (hs : StoAt W lo2 A2 n2 C2 X2 A2' n2' C2' Y2 ua2 un2 uc2 l2) (hlo : lo ≤ lo2) {ep2 nx2 k2 : Int} (hsg : SG k2 X2 Y2 ep2 nx2 (l2.map UE.u)) :
    DSt w (((((W.setCell ⟨w.heap.size, 0, none⟩ (.slice A2 n2 C2)).setCell ⟨w.heap.size, 1, none⟩ (.slice A2' n2' C2')).setCell ⟨w.heap.size, 2, none⟩ (.int .i64 ep2)).setCell ⟨w.heap.size, 3, none⟩ (.int .i64 nx2)).setCell ⟨w.heap.size, 4, none⟩ (.slice ua2 un2 uc2)) B c a len cap zs lo k2 A2 n2 C2 X2 A2' n2' C2' Y2 ep2 nx2 ua2 un2 uc2 l2 := by
  have h1 := h.clo
  have h2 := h.low
  have b0 := h.box
  have b1 := b0.set 0 (.slice A2 n2 C2)
  have b2 := b1.set 1 (.slice A2' n2' C2')
  have b3 := b2.set 2 (.int .i64 ep2)
  have b4 := b3.set 3 (.int .i64 nx2)
  have b5 := b4.set 4 (.slice ua2 un2 uc2)
  refine ⟨b5, ((((h.zero.other (by omega) _).other (by omega) _).other (by omega) _).other (by omega) _).other (by omega) _, (((((hs.setBox b0 _).setBox b1 _).setBox b2 _).setBox b3 _).setBox b4 _).low hlo, ((((h.cur.put (by omega) _).put (by omega) _).put (by omega) _).put (by omega) _).put (by omega) _, gput (gput (gput (gput (gput h.grown (Nat.le_refl _) _) (Nat.le_refl _) _) (Nat.le_refl _) _) (Nat.le_refl _) _) (Nat.le_refl _) _, hsg, h1, h2⟩

end

/-- Some store that is drawn, of few epochs. -/
def DrawnS (lo : Nat) (k : Int) (v : Value) (w' : World) : Prop := ∃ X Y ep nx us, AnsS lo X Y ep nx us v w' ∧ SG k X Y ep nx us

section
variable {w W W' : World} {B c : Nat} {a : Option Addr} {len cap : Nat} {zs : List Int} {lo : Nat} {k : Int} {A : Option Addr} {n C : Nat} {X : List ByteArray} {A' : Option Addr} {n' C' : Nat} {Y : List ByteArray} {ep nx : Int} {ua : Option Addr} {un uc : Nat} {l : List UE}

/-- The store is answered. -/
theorem DSt.done (h : DSt w W B c a len cap zs lo k A n C X A' n' C' Y ep nx ua un uc l) :
    DrawnS lo k (.agg #[.slice A n C, .slice A' n' C', .int .i64 ep, .int .i64 nx, .slice ua un uc]) (((((W.setCell ⟨w.heap.size + 1, 0, none⟩ (.slice A n C)).setCell ⟨w.heap.size + 1, 1, none⟩ (.slice A' n' C')).setCell ⟨w.heap.size + 1, 2, none⟩ (.int .i64 ep)).setCell ⟨w.heap.size + 1, 3, none⟩ (.int .i64 nx)).setCell ⟨w.heap.size + 1, 4, none⟩ (.slice ua un uc)) ∧
    Cur (((((W.setCell ⟨w.heap.size + 1, 0, none⟩ (.slice A n C)).setCell ⟨w.heap.size + 1, 1, none⟩ (.slice A' n' C')).setCell ⟨w.heap.size + 1, 2, none⟩ (.int .i64 ep)).setCell ⟨w.heap.size + 1, 3, none⟩ (.int .i64 nx)).setCell ⟨w.heap.size + 1, 4, none⟩ (.slice ua un uc)) B c a len cap zs ∧
    w.grownBy (((((W.setCell ⟨w.heap.size + 1, 0, none⟩ (.slice A n C)).setCell ⟨w.heap.size + 1, 1, none⟩ (.slice A' n' C')).setCell ⟨w.heap.size + 1, 2, none⟩ (.int .i64 ep)).setCell ⟨w.heap.size + 1, 3, none⟩ (.int .i64 nx)).setCell ⟨w.heap.size + 1, 4, none⟩ (.slice ua un uc)) (some c) := by
  have h1 := h.clo
  have h2 := h.low
  have b0 := h.zero
  have b1 := b0.set 0 (.slice A n C)
  have b2 := b1.set 1 (.slice A' n' C')
  have b3 := b2.set 2 (.int .i64 ep)
  have b4 := b3.set 3 (.int .i64 nx)
  refine ⟨⟨X, Y, ep, nx, l.map UE.u, ⟨A, n, C, A', n', C', ua, un, uc, l, rfl, ((((h.sto.setBox b0 _).setBox b1 _).setBox b2 _).setBox b3 _).setBox b4 _, rfl⟩, h.sg⟩, ((((h.cur.put (by omega) _).put (by omega) _).put (by omega) _).put (by omega) _).put (by omega) _, gput (gput (gput (gput (gput h.grown (by omega) _) (by omega) _) (by omega) _) (by omega) _) (by omega) _⟩
end

end Go.Proofs.YtogopmngbjkcjafDoor
