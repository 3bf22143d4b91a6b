/- A store that is drawn: right, of few epochs, and no record of its disk is above its epoch or of the name that no draw takes. No program in it. A store in a variable of a draw's, beside the cursor. No statement of the program in it but its table of types. What is opened in a draw's variable. No statement of the program in it but its table of types. A draw of one of so many. A text that is drawn: one of a list. For codes of at most 2^40 bytes. Bytes that are drawn. For codes of at most 2^40 bytes. Rows of truths in memory: what they hold, rows that a call has made. No statement of the program but its table of types. -/
import Derived.Test.YtiigdcpjelbdjaaGreatDoorM07
import Derived.Test.YtiigdcpjelbdjaaGreatDoorM08
import Derived.Test.YtiigdcpjelbdjaaGreatDoorM07
import Derived.Test.YtiigdcpjelbdjaaGreatDoorM08
import Derived.Test.YtiigdcpjelbdjaaGreatDoorM08
import Derived.Test.YtiigdcpjelbdjaaGreatDoorM01
import Derived.Test.YtiigdcpjelbdjaaGreatDoorM05
import Derived.Test.YtiigdcpjelbdjaaGreatDoorM05
import Derived.Test.YtiigdcpjelbdjaaGreatDoorM04
import Derived.Deep.QuietTactic
namespace Go.Proofs.YtiigdcpjelbdjaaGreatDoor
open Go.RowKit
set_option linter.unusedVariables false

/-- The name that no draw takes. -/
def newId : ByteArray := ⟨#[110, 101, 119]⟩

structure SG (k : Int) (X Y : List ByteArray) (ep nx : Int) (us : List U) : Prop where
  ok : SOk X Y ep nx us
  few : ep ≤ k
  recs : ∀ x, x ∈ X ∨ x ∈ Y → ∀ r, recOf x = some r → r.e ≤ ep ∧ r.id ≠ newId

theorem SG.more {k k' : Int} {X Y : List ByteArray} {ep nx : Int} {us : List U} (h : SG k X Y ep nx us) (hk : k ≤ k') : SG k' X Y ep nx us := ⟨h.ok, by have := h.few; omega, h.recs⟩

/-- Each sector behind a write is one of before, or a record of those that were written. -/
theorem wroteX_mem {ep : Int} : ∀ {rs : List R} {X : List ByteArray} {nx : Nat} {x : ByteArray}, x ∈ wroteX X ep nx rs → x ∈ X ∨ ∃ r ∈ rs, ∃ q, x = txU (r.at ep q).put
  | [], X, nx, x, h => .inl h
  | r :: rs, X, nx, x, h => by
    rcases wroteX_mem (rs := rs) h with h | ⟨r', hr, q, h⟩
    · rcases List.mem_or_eq_of_mem_set h with h | rfl
      · exact .inl h
      · exact .inr ⟨r, List.mem_cons_self .., nx, rfl⟩
    · exact .inr ⟨r', List.mem_cons_of_mem _ hr, q, h⟩

/-- What is read of a text that a record made is that record. -/
theorem recOf_put {r r' : R} (h : recOf (txU r.put) = some r') (hz : ∀ x ∈ r.zs, 0 ≤ x ∧ x ≤ 255) (hok : r.ok = true) : r' = r := by
  rw [rec_back hok hz] at h
  injection h with h
  exact h.symm

/-- A record that is right but for its place, at a place of a disk. -/
theorem at_ok {r : R} {ep : Int} {q : Nat} (h1 : idB r.id.data.toList = true) (h2 : kindB r.k r.n r.zs.length = true) (he : 0 ≤ ep ∧ ep ≤ 10000) (hq : q < 200) : (r.at ep q).ok = true := by
  show okRec ep (q : Int) r.k r.id r.n r.zs.length = true
  rw [okRec, decide_eq_true (show 0 ≤ ep ∧ ep ≤ 10000 from he), decide_eq_true (show 0 ≤ (q : Int) ∧ (q : Int) ≤ 199 by omega), h1, h2]
  rfl

/-- Each sector behind a write, with its place. -/
theorem wroteX_memq {ep : Int} : ∀ {rs : List R} {X : List ByteArray} {nx : Nat} {x : ByteArray}, x ∈ wroteX X ep nx rs → x ∈ X ∨ ∃ r ∈ rs, ∃ q, q < nx + rs.length ∧ x = txU (r.at ep q).put
  | [], X, nx, x, h => .inl h
  | r :: rs, X, nx, x, h => by
    rcases wroteX_memq (rs := rs) h with h | ⟨r', hr, q, hq, h⟩
    · rcases List.mem_or_eq_of_mem_set h with h | rfl
      · exact .inl h
      · exact .inr ⟨r, List.mem_cons_self .., nx, by simp, rfl⟩
    · exact .inr ⟨r', List.mem_cons_of_mem _ hr, q, by simp at hq ⊢; omega, h⟩

/-- A write keeps a drawn store. -/
theorem SG.wrote {k : Int} {X Y : List ByteArray} {ep nx : Int} {us us' : List U} {rs : List R} (h : SG k X Y ep nx us) (hr : ∀ r ∈ rs, idB r.id.data.toList = true ∧ kindB r.k r.n r.zs.length = true ∧ ∀ x ∈ r.zs, 0 ≤ x ∧ x ≤ 255) (hn : ∀ r ∈ rs, r.id ≠ newId) (hl : nx + (rs.length : Int) ≤ (X.length : Int)) (hf : rs.foldlM oneU us = some us') : SG k (wroteX X ep nx.toNat rs) Y ep (nx + (rs.length : Int)) us' := by
  obtain ⟨he, h0, hX, h200⟩ := h.ok.nums
  refine ⟨wrote_ok h.ok hr hl hf, h.few, fun x hx r hrx => ?_⟩
  rcases hx with hx | hx
  · rcases wroteX_memq hx with hx | ⟨r', hr', q, hq, rfl⟩
    · exact h.recs x (.inl hx) r hrx
    · have h3 := hr r' hr'
      have h4 : r = r'.at ep q := recOf_put hrx h3.2.2 (at_ok h3.1 h3.2.1 he (by omega))
      rw [h4]
      exact ⟨Int.le_refl _, hn r' hr'⟩
  · exact h.recs x (.inr hx) r hrx

theorem SG.make {k : Int} {X Y : List ByteArray} {ep nx : Int} {us : List U} {id : ByteArray} {want : Int} (h : SG k X Y ep nx us) (hid : id ≠ newId) : SG k (makeA X Y ep nx us id want).X Y ep (makeA X Y ep nx us id want).nx (makeA X Y ep nx us id want).us := by
  by_cases hc : (makeA X Y ep nx us id want).c = 0
  · obtain ⟨_, hk, hl, us', hf, he⟩ := makeA_yes hc
    rw [he]
    exact h.wrote (rs := [makeR id want]) (fun r hr => by rw [List.mem_singleton.1 hr]; exact ⟨hk.1, hk.2, by simp [makeR]⟩) (fun r hr => by rw [List.mem_singleton.1 hr]; exact hid) hl hf
  · rw [makeA_no hc]
    exact h

theorem SG.drop {k : Int} {X Y : List ByteArray} {ep nx : Int} {us : List U} {id : ByteArray} (h : SG k X Y ep nx us) (hid : id ≠ newId) : SG k (dropA X Y ep nx us id).X Y ep (dropA X Y ep nx us id).nx (dropA X Y ep nx us id).us := by
  by_cases hc : (dropA X Y ep nx us id).c = 0
  · obtain ⟨_, hk, hl, us', hf, he⟩ := dropA_yes hc
    rw [he]
    exact h.wrote (rs := [dropR id]) (fun r hr => by rw [List.mem_singleton.1 hr]; exact ⟨hk.1, hk.2, by simp [dropR]⟩) (fun r hr => by rw [List.mem_singleton.1 hr]; exact hid) hl hf
  · rw [dropA_no hc]
    exact h

theorem SG.put {k : Int} {X Y : List ByteArray} {ep nx : Int} {us : List U} {id : ByteArray} {off : Int} {zs : List Int} (h : SG k X Y ep nx us) (hid : id ≠ newId) (hz : ∀ x ∈ zs, 0 ≤ x ∧ x ≤ 255) : SG k (putA X Y ep nx us id off zs).X Y ep (putA X Y ep nx us id off zs).nx (putA X Y ep nx us id off zs).us := by
  by_cases hc : (putA X Y ep nx us id off zs).c = 0
  · obtain ⟨_, hi, hl, kk, u, h4, h5, h6, h7, h8, h9, hf, he⟩ := putA_yes hc
    rw [he]
    have hw := h.ok.wants u (List.mem_of_getElem? h5)
    have hlen := dataRs_len id off zs
    have := h.wrote (rs := dataRs id off zs) (dataRs_ok hi (by omega) (by omega) hz) (fun r hr => by
      obtain ⟨i, _, rfl⟩ := List.mem_map.1 hr
      exact hid) (by rw [hlen]; exact h9) hf
    rw [hlen] at this
    exact this
  · rw [putA_no hc]
    exact h

theorem SG.done {k : Int} {X Y : List ByteArray} {ep nx : Int} {us : List U} {id : ByteArray} {sum : Int} (h : SG k X Y ep nx us) (hid : id ≠ newId) : SG k (doneA X Y ep nx us id sum).X Y ep (doneA X Y ep nx us id sum).nx (doneA X Y ep nx us id sum).us := by
  unfold doneA
  by_cases h1 : decB (SOk X Y ep nx us) = true ∧ idB id.data.toList = true
  · rw [if_pos h1]
    cases ha : atU us id with
    | none => exact h
    | some kk =>
      dsimp only
      cases hu : us[kk]? with
      | none => exact h
      | some u =>
        dsimp only
        by_cases h2 : (u.zs.length : Int) < u.want
        · rw [if_pos h2]; exact h
        · rw [if_neg h2]
          by_cases h3 : sum ≠ crcI u.zs
          · rw [if_pos h3]; exact h
          · rw [if_neg h3]
            by_cases h4 : u.done = true
            · rw [if_pos h4]; exact h
            · rw [if_neg h4]
              by_cases h5 : nx < (X.length : Int)
              · rw [if_pos h5]
                have hfit := h.ok.fits u (List.mem_of_getElem? hu)
                have hd : u.done = false := by simpa using h4
                have hw : (u.zs.length : Int) = u.want := by have := hfit.1; omega
                have hf : [doneR id].foldlM oneU us = some (us.set kk { u with done := true }) := by rw [List.foldlM_cons, done_fits ha hu hd hw]; rfl
                rw [wroteA, hf]
                exact h.wrote (rs := [doneR id]) (fun r hr => by rw [List.mem_singleton.1 hr]; exact ⟨h1.2, rfl, by simp [doneR]⟩) (fun r hr => by rw [List.mem_singleton.1 hr]; exact hid) (by simp; omega) hf
              · rw [if_neg h5]; exact h
  · rw [if_neg h1]; exact h

theorem SG.sync {k : Int} {X Y : List ByteArray} {ep nx : Int} {us : List U} (h : SG k X Y ep nx us) : syncY X Y ep nx us = X ∧ SG k X X ep nx us := by
  refine ⟨if_pos (decB_true h.ok), ?_, h.few, fun x hx r hr => h.recs x (.inl (by rcases hx with hx | hx <;> exact hx)) r hr⟩
  obtain ⟨h1, h2⟩ := h.ok
  refine ⟨?_, h2⟩
  have h3 := okD_iff.1 h1
  exact okD_iff.2 ⟨rfl, h3.2.1, h3.2.2.1, h3.2.2.1⟩

/-- What is opened is right. -/
theorem open_ok {X Y : List ByteArray} {ep : Int} {nx : Nat} {us : List U} (h : openO X Y = some (ep, nx, us)) : SOk X Y ep (nx : Int) us ∧ ep = topE X + 1 := by
  rw [openO] at h
  split at h
  · rename_i hok hf
    split at h
    · cases h
    · rename_i h9
      simp only [Option.some.injEq, Prod.mk.injEq] at h
      obtain ⟨rfl, rfl, rfl⟩ := h
      have ht := topE_range X
      refine ⟨⟨hok, by omega, hf, rfl, fun r hr => ?_, fun k x r hk hx hr => ?_⟩, rfl⟩
      · have hm := List.mem_of_getLast? hr
        obtain ⟨i, hi, rfl⟩ := List.getElem_of_mem hm
        have := (scan_one (X := X) (k := i) (List.getElem?_eq_getElem hi)).2.2
        omega
      · have := top_in X (-1) k x r hx hr
        show r.e < topE X + 1
        have e : topE X = X.foldl topStep (-1) := rfl
        omega
  · cases h

/-- A bound of the greatest epoch. -/
theorem topE_le {X : List ByteArray} {ep : Int} (h0 : -1 ≤ ep) (h : ∀ x ∈ X, ∀ r, recOf x = some r → r.e ≤ ep) : topE X ≤ ep :=
  (top_le (ep := ep) X (-1)).2 ⟨h0, fun k x r hx hr => h x (List.mem_of_getElem? hx) r hr⟩

theorem fallL_mem {xs ys : List ByteArray} {ks : List Bool} (hl : xs.length = ys.length) {x : ByteArray} (h : x ∈ fallL xs ys ks) : x ∈ xs ∨ x ∈ ys := by
  obtain ⟨i, hi, rfl⟩ := List.mem_map.1 h
  have hi2 := List.mem_range.1 hi
  have e1 : xs.getD i ⟨#[]⟩ = xs[i] := by rw [List.getD_eq_getElem?_getD, List.getElem?_eq_getElem hi2]; rfl
  have e2 : ys.getD i ⟨#[]⟩ = ys[i]'(by omega) := by rw [List.getD_eq_getElem?_getD, List.getElem?_eq_getElem (by omega)]; rfl
  split
  · rw [e1]; exact .inl (List.getElem_mem _)
  · rw [e2]; exact .inr (List.getElem_mem _)

theorem fall_same {X Y : List ByteArray} (ks : List Bool) (h : okD X Y = true) : fallX X Y ks = fallL X Y ks ∧ fallY X Y ks = fallL X Y ks := by rw [fallX, fallY, h]; exact ⟨rfl, rfl⟩

/-- What opens behind a crash. -/
theorem SG.opened {k : Int} {X Y : List ByteArray} {ep nx : Int} {us : List U} (h : SG k X Y ep nx us) (ks : List Bool) {ep' : Int} {nx' : Nat} {us' : List U} (ho : openO (fallX X Y ks) (fallY X Y ks) = some (ep', nx', us')) : SG (k + 1) (fallX X Y ks) (fallY X Y ks) ep' (nx' : Int) us' := by
  obtain ⟨h1, h2⟩ := open_ok ho
  obtain ⟨e1, e2⟩ := fall_same ks h.ok.1
  have hxy := (okD_iff.1 h.ok.1).1
  have hen := h.ok.nums.1
  have hm : ∀ x, x ∈ fallL X Y ks → ∀ r, recOf x = some r → r.e ≤ ep ∧ r.id ≠ newId := fun x hx r hr => h.recs x (fallL_mem hxy hx) r hr
  have ht : topE (fallX X Y ks) ≤ ep := by rw [e1]; exact topE_le (by omega) (fun x hx r hr => (hm x hx r hr).1)
  refine ⟨h1, by have := h.few; omega, fun x hx r hr => ?_⟩
  have hx' : x ∈ fallX X Y ks := by rw [e1]; rw [e1, e2] at hx; rcases hx with hx | hx <;> exact hx
  obtain ⟨i, hi, rfl⟩ := List.getElem_of_mem hx'
  have h5 := top_in (fallX X Y ks) (-1) i _ r (List.getElem?_eq_getElem hi) hr
  have e : topE (fallX X Y ks) = (fallX X Y ks).foldl topStep (-1) := rfl
  refine ⟨by omega, (hm _ (by rw [← e1]; exact hx') r hr).2⟩

/-- A new store. -/
theorem SG.new (n : Nat) (h : n ≤ 200) : SG 0 (List.replicate n ⟨#[]⟩) (List.replicate n ⟨#[]⟩) 0 0 [] := by
  have h0 : recOf ⟨#[]⟩ = none := by decide
  have hs : scanR (List.replicate n ⟨#[]⟩) = [] := by
    cases n with
    | zero => rfl
    | succ n => show scanFrom 0 0 (⟨#[]⟩ :: List.replicate n ⟨#[]⟩) = []; rw [scanFrom, show nextR 0 0 ⟨#[]⟩ = none by rw [nextR, h0]]
  refine ⟨⟨?_, by omega, ?_, ?_, ?_, ?_⟩, Int.le_refl _, fun x hx r hr => ?_⟩
  · refine okD_iff.2 ⟨rfl, by simpa using h, fun x hx => ?_, fun x hx => ?_⟩ <;> (rw [List.eq_of_mem_replicate hx]; exact Nat.zero_le _)
  · rw [hs]; rfl
  · rw [hs]; rfl
  · rw [hs]; intro r hr; cases hr
  · intro k x r _ hx hr
    rw [List.eq_of_mem_replicate (List.mem_of_getElem? hx), h0] at hr
    cases hr
  · rcases hx with hx | hx <;> (rw [List.eq_of_mem_replicate hx, h0] at hr; cases hr)

end Go.Proofs.YtiigdcpjelbdjaaGreatDoor

namespace Go.Proofs.YtiigdcpjelbdjaaGreatDoor
open Go.RowKit
set_option linter.unusedVariables false

/-- Rows behind a bound are as they were where a cursor ahead of it moves. -/
theorem StoAt.moved {W W' : World} {lo c : Nat} {A : Option Addr} {n C : Nat} {X : List ByteArray} {A' : Option Addr} {n' C' : Nat} {Y : List ByteArray} {ua : Option Addr} {un uc : Nat} {l : List UE} (h : StoAt W lo A n C X A' n' C' Y ua un uc l) (hg : W.grownBy W' (some c)) (hc : c < lo) : StoAt W' lo A n C X A' n' C' Y ua un uc l := by
  refine ⟨h.now.kept hg (fun q hq hq2 => ?_), h.sure.kept hg (fun q hq hq2 => ?_), h.apart, h.ups.grown hg (fun q hq hq2 => ?_) (fun e he q hq hq2 => ?_), h.len⟩
  · injection hq with hq; have := (h.now.lt q hq2).1; omega
  · injection hq with hq; have := (h.sure.lt q hq2).1; omega
  · injection hq with hq; have := (h.ups.lts.1 q hq2).1; omega
  · injection hq with hq; have := (h.ups.lts.2 e he q hq2).1; omega

/-- What the functions of a store ask of a right one. -/
theorem StoAt.pre {W : World} {lo : Nat} {A : Option Addr} {n C : Nat} {X : List ByteArray} {A' : Option Addr} {n' C' : Nat} {Y : List ByteArray} {ua : Option Addr} {un uc : Nat} {l : List UE} {ep nx : Int} (h : StoAt W lo A n C X A' n' C' Y ua un uc l) (hs : SOk X Y ep nx (l.map UE.u)) :
    Strs W A n X ∧ Strs W A' n' Y ∧ n ≤ 200 ∧ n' ≤ 200 ∧ (∀ x ∈ X, x.size ≤ 1048576) ∧ UpRow W lo (.slice ua un uc) l ∧ un = l.length ∧ un ≤ 10 ∧ (∀ e ∈ l, e.n ≤ 4800) ∧ X.length = n ∧ Y.length = n' := by
  have h1 := okD_iff.1 hs.1
  have h2 := h.now.len
  have h3 := h.sure.len
  have h4 := hs.few
  rw [List.length_map] at h4
  have h5 := h.len
  have hf := (fold_small hs.1 hs.2.2.1).2
  refine ⟨h.now.strs, h.sure.strs, by omega, by omega, fun x hx => by have := h1.2.2.1 x hx; omega, h.ups, h5, by omega, fun e he => ?_, h2, h3⟩
  have h6 := (h.ups.2.1 e he).seg.1
  have h7 := hf e.u (List.mem_map_of_mem he)
  omega

structure DSt (w W : World) (B c : Nat) (a : Option Addr) (len cap : Nat) (zs : List Int) (lo : Nat) (k : Int) (A : Option Addr) (n C : Nat) (X : List ByteArray) (A' : Option Addr) (n' C' : Nat) (Y : List ByteArray) (ep nx : Int) (ua : Option Addr) (un uc : Nat) (l : List UE) : Prop where
  box : BoxN W w.heap.size 29 [.slice A n C, .slice A' n' C', .int .i64 ep, .int .i64 nx, .slice ua un uc]
  zero : BoxN W (w.heap.size + 1) 29 [.slice none 0 0, .slice none 0 0, .int .i64 0, .int .i64 0, .slice none 0 0]
  sto : StoAt W lo A n C X A' n' C' Y ua un uc l
  cur : Cur W B c a len cap zs
  grown : w.grownBy W (some c)
  sg : SG k X Y ep nx (l.map UE.u)
  clo : c < lo
  low : lo ≤ w.heap.size

section
variable {w W W' : World} {B c : Nat} {a : Option Addr} {len cap : Nat} {zs : List Int} {lo : Nat} {k : Int} {A : Option Addr} {n C : Nat} {X : List ByteArray} {A' : Option Addr} {n' C' : Nat} {Y : List ByteArray} {ep nx : Int} {ua : Option Addr} {un uc : Nat} {l : List UE}

theorem DSt.call (h : DSt w W B c a len cap zs lo k A n C X A' n' C' Y ep nx ua un uc l) (hc : Cur W' B c a len cap zs) (hg : W.grownBy W' (some c)) : DSt w W' B c a len cap zs lo k A n C X A' n' C' Y ep nx ua un uc l := by
  have h1 := h.clo
  have h2 := h.low
  exact ⟨h.box.grown hg (fun e => by injection e with e; omega), h.zero.grown hg (fun e => by injection e with e; omega), h.sto.moved hg h.clo, hc, gtrans h.grown hg, h.sg, h.clo, h.low⟩

theorem DSt.stays (h : DSt w W B c a len cap zs lo k A n C X A' n' C' Y ep nx ua un uc l) (hb : Below W.heap.size W W') : DSt w W' B c a len cap zs lo k A n C X A' n' C' Y ep nx ua un uc l :=
  ⟨h.box.stays hb, h.zero.stays hb, h.sto.stays hb, h.cur.kept (gbelow hb none) (by simp), gtrans h.grown (gbelow hb _), h.sg, h.clo, h.low⟩

theorem DSt.new (h : DSt w W B c a len cap zs lo k A n C X A' n' C' Y ep nx ua un uc l) (o : Obj) : DSt w (W.alloc o) B c a len cap zs lo k A n C X A' n' C' Y ep nx ua un uc l := h.stays ((Below.refl _ _).alloc (Nat.le_refl _) _)

theorem DSt.more (h : DSt w W B c a len cap zs lo k A n C X A' n' C' Y ep nx ua un uc l) {k' : Int} (hk : k ≤ k') : DSt w W B c a len cap zs lo k' A n C X A' n' C' Y ep nx ua un uc l := ⟨h.box, h.zero, h.sto, h.cur, h.grown, h.sg.more hk, h.clo, h.low⟩

/-- A cell of the variable that holds the store. -/
theorem DSt.put (h : DSt w W B c a len cap zs lo k A n C X A' n' C' Y ep nx ua un uc l) {vs : List Value} {lo2 : Nat} {A2 : Option Addr} {n2 C2 : Nat} {X2 : List ByteArray} {A2' : Option Addr} {n2' C2' : Nat} {Y2 : List ByteArray} {ua2 : Option Addr} {un2 uc2 : Nat} {l2 : List UE} (hs : StoAt W lo2 A2 n2 C2 X2 A2' n2' C2' Y2 ua2 un2 uc2 l2) (hlo : lo ≤ lo2) {ep2 nx2 k2 : Int} (hsg : SG k2 X2 Y2 ep2 nx2 (l2.map UE.u)) :
    DSt w (((((W.setCell ⟨w.heap.size, 0, none⟩ (.slice A2 n2 C2)).setCell ⟨w.heap.size, 1, none⟩ (.slice A2' n2' C2')).setCell ⟨w.heap.size, 2, none⟩ (.int .i64 ep2)).setCell ⟨w.heap.size, 3, none⟩ (.int .i64 nx2)).setCell ⟨w.heap.size, 4, none⟩ (.slice ua2 un2 uc2)) B c a len cap zs lo k2 A2 n2 C2 X2 A2' n2' C2' Y2 ep2 nx2 ua2 un2 uc2 l2 := by
  have h1 := h.clo
  have h2 := h.low
  have b0 := h.box
  have b1 := b0.set 0 (.slice A2 n2 C2)
  have b2 := b1.set 1 (.slice A2' n2' C2')
  have b3 := b2.set 2 (.int .i64 ep2)
  have b4 := b3.set 3 (.int .i64 nx2)
  have b5 := b4.set 4 (.slice ua2 un2 uc2)
  refine ⟨b5, ((((h.zero.other (by omega) _).other (by omega) _).other (by omega) _).other (by omega) _).other (by omega) _, (((((hs.setBox b0 _).setBox b1 _).setBox b2 _).setBox b3 _).setBox b4 _).low hlo, ((((h.cur.put (by omega) _).put (by omega) _).put (by omega) _).put (by omega) _).put (by omega) _, gput (gput (gput (gput (gput h.grown (Nat.le_refl _) _) (Nat.le_refl _) _) (Nat.le_refl _) _) (Nat.le_refl _) _) (Nat.le_refl _) _, hsg, h1, h2⟩

end

/-- Some store that is drawn, of few epochs. -/
def DrawnS (lo : Nat) (k : Int) (v : Value) (w' : World) : Prop := ∃ X Y ep nx us, AnsS lo X Y ep nx us v w' ∧ SG k X Y ep nx us

section
variable {w W W' : World} {B c : Nat} {a : Option Addr} {len cap : Nat} {zs : List Int} {lo : Nat} {k : Int} {A : Option Addr} {n C : Nat} {X : List ByteArray} {A' : Option Addr} {n' C' : Nat} {Y : List ByteArray} {ep nx : Int} {ua : Option Addr} {un uc : Nat} {l : List UE}

/-- The store is answered. -/
theorem DSt.done (h : DSt w W B c a len cap zs lo k A n C X A' n' C' Y ep nx ua un uc l) :
    DrawnS lo k (.agg #[.slice A n C, .slice A' n' C', .int .i64 ep, .int .i64 nx, .slice ua un uc]) (((((W.setCell ⟨w.heap.size + 1, 0, none⟩ (.slice A n C)).setCell ⟨w.heap.size + 1, 1, none⟩ (.slice A' n' C')).setCell ⟨w.heap.size + 1, 2, none⟩ (.int .i64 ep)).setCell ⟨w.heap.size + 1, 3, none⟩ (.int .i64 nx)).setCell ⟨w.heap.size + 1, 4, none⟩ (.slice ua un uc)) ∧
    Cur (((((W.setCell ⟨w.heap.size + 1, 0, none⟩ (.slice A n C)).setCell ⟨w.heap.size + 1, 1, none⟩ (.slice A' n' C')).setCell ⟨w.heap.size + 1, 2, none⟩ (.int .i64 ep)).setCell ⟨w.heap.size + 1, 3, none⟩ (.int .i64 nx)).setCell ⟨w.heap.size + 1, 4, none⟩ (.slice ua un uc)) B c a len cap zs ∧
    w.grownBy (((((W.setCell ⟨w.heap.size + 1, 0, none⟩ (.slice A n C)).setCell ⟨w.heap.size + 1, 1, none⟩ (.slice A' n' C')).setCell ⟨w.heap.size + 1, 2, none⟩ (.int .i64 ep)).setCell ⟨w.heap.size + 1, 3, none⟩ (.int .i64 nx)).setCell ⟨w.heap.size + 1, 4, none⟩ (.slice ua un uc)) (some c) := by
  have h1 := h.clo
  have h2 := h.low
  have b0 := h.zero
  have b1 := b0.set 0 (.slice A n C)
  have b2 := b1.set 1 (.slice A' n' C')
  have b3 := b2.set 2 (.int .i64 ep)
  have b4 := b3.set 3 (.int .i64 nx)
  refine ⟨⟨X, Y, ep, nx, l.map UE.u, ⟨A, n, C, A', n', C', ua, un, uc, l, rfl, ((((h.sto.setBox b0 _).setBox b1 _).setBox b2 _).setBox b3 _).setBox b4 _, rfl⟩, h.sg⟩, ((((h.cur.put (by omega) _).put (by omega) _).put (by omega) _).put (by omega) _).put (by omega) _, gput (gput (gput (gput (gput h.grown (by omega) _) (by omega) _) (by omega) _) (by omega) _) (by omega) _⟩
end

end Go.Proofs.YtiigdcpjelbdjaaGreatDoor

namespace Go.Proofs.YtiigdcpjelbdjaaGreatDoor
open Go.RowKit
set_option linter.unusedVariables false

theorem SG.openedA {k : Int} {X Y : List ByteArray} {ep nx : Int} {us : List U} (h : SG k X Y ep nx us) (ks : List Bool) (ho : (openA (fallX X Y ks) (fallY X Y ks)).ok = true) : SG (k + 1) (openA (fallX X Y ks) (fallY X Y ks)).X (openA (fallX X Y ks) (fallY X Y ks)).Y (openA (fallX X Y ks) (fallY X Y ks)).ep (openA (fallX X Y ks) (fallY X Y ks)).nx (openA (fallX X Y ks) (fallY X Y ks)).us := by
  rw [openA] at ho ⊢
  cases h1 : openO (fallX X Y ks) (fallY X Y ks) with
  | none => rw [h1] at ho; cases ho
  | some t =>
    obtain ⟨e, n, us'⟩ := t
    exact h.opened ks h1

theorem fall_small {X Y : List ByteArray} (h : okD X Y = true) (ks : List Bool) : (fallX X Y ks).length ≤ 200 ∧ (fallY X Y ks).length ≤ 400 ∧ ∀ x ∈ fallX X Y ks, x.size ≤ 1048576 := by
  obtain ⟨e1, e2⟩ := fall_same ks h
  have hd := okD_iff.1 h
  rw [e1, e2, fallL_len]
  refine ⟨hd.2.1, by omega, fun x hx => ?_⟩
  rcases fallL_mem hd.1 hx with h1 | h1
  · have := hd.2.2.1 x h1; omega
  · have := hd.2.2.2 x h1; omega

section
variable {w W W' : World} {B c : Nat} {a : Option Addr} {len cap : Nat} {zs : List Int} {lo : Nat} {k : Int} {A : Option Addr} {n C : Nat} {X : List ByteArray} {A' : Option Addr} {n' C' : Nat} {Y : List ByteArray} {ep nx : Int} {ua : Option Addr} {un uc : Nat} {l : List UE}

/-- Another variable that holds a store is written. -/
theorem DSt.far (h : DSt w W B c a len cap zs lo k A n C X A' n' C' Y ep nx ua un uc l) {p i : Nat} {vs : List Value} (hz : BoxN W p 29 vs) (hp : w.heap.size + 1 < p) (v : Value) : DSt w (W.setCell ⟨p, i, none⟩ v) B c a len cap zs lo k A n C X A' n' C' Y ep nx ua un uc l := by
  have h1 := h.clo
  have h2 := h.low
  exact ⟨h.box.other (by omega) _, h.zero.other (by omega) _, h.sto.setBox hz _, h.cur.put (by omega) _, gput h.grown (by omega) _, h.sg, h1, h2⟩

theorem DSt.box5 (h : DSt w W B c a len cap zs lo k A n C X A' n' C' Y ep nx ua un uc l) {p : Nat} {v0 v1 v2 v3 v4 : Value} (hz : BoxN W p 29 [v0, v1, v2, v3, v4] ∧ w.heap.size + 1 < p) {lo2 : Nat} {A2 : Option Addr} {n2 C2 : Nat} {X2 : List ByteArray} {A2' : Option Addr} {n2' C2' : Nat} {Y2 : List ByteArray} {ua2 : Option Addr} {un2 uc2 : Nat} {l2 : List UE} (hs : StoAt W lo2 A2 n2 C2 X2 A2' n2' C2' Y2 ua2 un2 uc2 l2) (ep2 nx2 : Int) :
    DSt w (((((W.setCell ⟨p, 0, none⟩ (.slice A2 n2 C2)).setCell ⟨p, 1, none⟩ (.slice A2' n2' C2')).setCell ⟨p, 2, none⟩ (.int .i64 ep2)).setCell ⟨p, 3, none⟩ (.int .i64 nx2)).setCell ⟨p, 4, none⟩ (.slice ua2 un2 uc2)) B c a len cap zs lo k A n C X A' n' C' Y ep nx ua un uc l ∧
    StoAt (((((W.setCell ⟨p, 0, none⟩ (.slice A2 n2 C2)).setCell ⟨p, 1, none⟩ (.slice A2' n2' C2')).setCell ⟨p, 2, none⟩ (.int .i64 ep2)).setCell ⟨p, 3, none⟩ (.int .i64 nx2)).setCell ⟨p, 4, none⟩ (.slice ua2 un2 uc2)) lo2 A2 n2 C2 X2 A2' n2' C2' Y2 ua2 un2 uc2 l2 ∧
    BoxN (((((W.setCell ⟨p, 0, none⟩ (.slice A2 n2 C2)).setCell ⟨p, 1, none⟩ (.slice A2' n2' C2')).setCell ⟨p, 2, none⟩ (.int .i64 ep2)).setCell ⟨p, 3, none⟩ (.int .i64 nx2)).setCell ⟨p, 4, none⟩ (.slice ua2 un2 uc2)) p 29 [.slice A2 n2 C2, .slice A2' n2' C2', .int .i64 ep2, .int .i64 nx2, .slice ua2 un2 uc2] := by
  obtain ⟨b0, hp⟩ := hz
  have b1 := b0.set 0 (.slice A2 n2 C2)
  have b2 := b1.set 1 (.slice A2' n2' C2')
  have b3 := b2.set 2 (.int .i64 ep2)
  have b4 := b3.set 3 (.int .i64 nx2)
  have b5 := b4.set 4 (.slice ua2 un2 uc2)
  exact ⟨((((h.far b0 hp _).far b1 hp _).far b2 hp _).far b3 hp _).far b4 hp _, ((((hs.setBox b0 _).setBox b1 _).setBox b2 _).setBox b3 _).setBox b4 _, b5⟩

/-- Where the store stands is as it was. -/
theorem far5 (h : DSt w W B c a len cap zs lo k A n C X A' n' C' Y ep nx ua un uc l) {p : Nat} {vs : List Value} (hz : BoxN W p 29 vs ∧ w.heap.size + 1 < p) (v0 v1 v2 v3 v4 : Value) :
    (((((W.setCell ⟨p, 0, none⟩ v0).setCell ⟨p, 1, none⟩ v1).setCell ⟨p, 2, none⟩ v2).setCell ⟨p, 3, none⟩ v3).setCell ⟨p, 4, none⟩ v4).cell? ⟨w.heap.size, 0, none⟩ = some (.slice A n C) ∧ (((((W.setCell ⟨p, 0, none⟩ v0).setCell ⟨p, 1, none⟩ v1).setCell ⟨p, 2, none⟩ v2).setCell ⟨p, 3, none⟩ v3).setCell ⟨p, 4, none⟩ v4).cell? ⟨w.heap.size, 1, none⟩ = some (.slice A' n' C') := by
  obtain ⟨b0, hp⟩ := hz
  have b1 := b0.set 0 v0
  have b2 := b1.set 1 v1
  have b3 := b2.set 2 v2
  have b4 := b3.set 3 v3
  have h5 := ((((h.far b0 hp v0).far b1 hp v1).far b2 hp v2).far b3 hp v3).far (i := 4) b4 hp v4
  exact ⟨h5.box.cell 0 rfl, h5.box.cell 1 rfl⟩

theorem DSt.new5 (h : DSt w W B c a len cap zs lo k A n C X A' n' C' Y ep nx ua un uc l) {lo2 : Nat} {A2 : Option Addr} {n2 C2 : Nat} {X2 : List ByteArray} {A2' : Option Addr} {n2' C2' : Nat} {Y2 : List ByteArray} {ua2 : Option Addr} {un2 uc2 : Nat} {l2 : List UE} (hs : StoAt W lo2 A2 n2 C2 X2 A2' n2' C2' Y2 ua2 un2 uc2 l2) (ep2 nx2 : Int) :
    DSt w (W.alloc (.cells #[.slice A2 n2 C2, .slice A2' n2' C2', .int .i64 ep2, .int .i64 nx2, .slice ua2 un2 uc2] 29)) B c a len cap zs lo k A n C X A' n' C' Y ep nx ua un uc l ∧
    StoAt (W.alloc (.cells #[.slice A2 n2 C2, .slice A2' n2' C2', .int .i64 ep2, .int .i64 nx2, .slice ua2 un2 uc2] 29)) lo2 A2 n2 C2 X2 A2' n2' C2' Y2 ua2 un2 uc2 l2 ∧
    BoxN (W.alloc (.cells #[.slice A2 n2 C2, .slice A2' n2' C2', .int .i64 ep2, .int .i64 nx2, .slice ua2 un2 uc2] 29)) W.heap.size 29 [.slice A2 n2 C2, .slice A2' n2' C2', .int .i64 ep2, .int .i64 nx2, .slice ua2 un2 uc2] :=
  ⟨h.new _, hs.stays ((Below.refl _ _).alloc (Nat.le_refl _) _), BoxN.new _ _ _⟩
end

end Go.Proofs.YtiigdcpjelbdjaaGreatDoor

namespace Go.Proofs.YtiigdcpjelbdjaaGreatDoor
open Go.RowKit
set_option linter.unusedVariables false

set_option maxRecDepth 10000 in
set_option maxHeartbeats 400000 in
theorem l1Once_any (B c : Nat) (a : Option Addr) (len cap : Nat) (zs : List Int) (n : Int) (w : World) (hcur : Cur w B c a len cap zs) (hl : len ≤ 1099511627776) (hn1 : 1 ≤ n) (hn2 : n ≤ 1000000) :
    Calls Tryz.prog 29 #[.pointer (some ⟨c, 0, none⟩), .int .i64 n] w fun e w' => ∃ b : Bool, e = .returned (.bool b) ∧ Cur w' B c a len cap zs ∧ w.grownBy w' (some c) := by
  have HC : Hid _ := hcur
  clear hcur
  go_enter Tryz.func29, Tryz.ntmps29
  go_wp2_with fail
  refine (l1Below_any B c a len cap zs _ _ HC.out hl hn1 hn2).mono ?_
  rintro e w1 ⟨x, rfl, hx0, hx1, hc1, hg1⟩
  have HC1 : Hid _ := hc1
  have HG1 : Hid _ := hg1
  clear hc1 hg1
  go_wp2_with fail
  go_ret
  exact ⟨_, rfl, HC1.out, HG1.out⟩

end Go.Proofs.YtiigdcpjelbdjaaGreatDoor

namespace Go.Proofs.YtiigdcpjelbdjaaGreatDoor
open Go.RowKit
set_option linter.unusedVariables false

theorem cell_of_strs {w : World} {g : Nat} {L : List ByteArray} (h : w.heap[g]? = some (.cells (L.map Value.string).toArray 9 (0, 0))) (k : Nat) (hk : k < L.length) : w.cell? ⟨g, k, none⟩ = some (.string (L[k]'hk)) := by
  rw [cell_of_row w g k _ 9 (0, 0) h]
  simp [hk]

set_option maxRecDepth 10000 in
set_option maxHeartbeats 400000 in
theorem l1Str_any (B c : Nat) (a : Option Addr) (len cap : Nat) (zs : List Int) (g n cp : Nat) (L : List ByteArray) (w : World) (hcur : Cur w B c a len cap zs) (hl : len ≤ 1099511627776)
    (hL : w.heap[g]? = some (.cells (L.map Value.string).toArray 9 (0, 0))) (hgc : g ≠ c) (hn : L.length = n) (h1 : 1 ≤ n) (h2 : n ≤ 256) :
    Calls Tryz.prog 57 #[.pointer (some ⟨c, 0, none⟩), .slice (some ⟨g, 0, none⟩) n cp] w fun e w' => ∃ v : ByteArray, e = .returned (.string v) ∧ v ∈ L ∧ Cur w' B c a len cap zs ∧ w.grownBy w' (some c) := by
  have HC : Hid _ := hcur
  have HL : Hid _ := hL
  have HN : Hid (L.length = n) := hn
  clear hcur hL hn
  have hi1 : (1 : Int) ≤ (n : Int) := by omega
  have hi2 : (n : Int) ≤ 1000000 := by omega
  have hglt : g < w.heap.size := by
    by_cases hk : g < w.heap.size
    · exact hk
    · have := HL.out; rw [Array.getElem?_eq_none (by omega)] at this; cases this
  go_enter Tryz.func57, Tryz.ntmps57
  go_wp2_with fail
  refine (l1Below_any B c a len cap zs _ _ HC.out hl hi1 hi2).mono ?_
  rintro e w1 ⟨x, rfl, hx0, hx1, hc1, hg1⟩
  obtain ⟨k, rfl⟩ := Int.eq_ofNat_of_zero_le hx0
  have HC1 : Hid _ := hc1
  have HG1 : Hid _ := hg1
  have hkl : k < L.length := by have := HN.out; omega
  obtain ⟨v, hv⟩ : ∃ v, L[k] = v := ⟨_, rfl⟩
  have hcell : w1.cell? ⟨g, k, none⟩ = some (.string v) := by
    rw [← hv]
    refine cell_of_strs ?_ k hkl
    rw [hg1.block g hglt (fun e => hgc (Option.some.inj e))]
    exact HL.out
  have HV : Hid (v ∈ L) := by
    show v ∈ L
    rw [← hv]
    exact List.getElem_mem hkl
  clear hc1 hg1 hv
  go_wp2_with fail
  go_ret
  exact ⟨v, rfl, HV.out, HC1.out, HG1.out⟩

end Go.Proofs.YtiigdcpjelbdjaaGreatDoor

namespace Go.Proofs.YtiigdcpjelbdjaaGreatDoor
open Go.RowKit
set_option linter.unusedVariables false

set_option maxRecDepth 10000 in
set_option maxHeartbeats 400000 in
theorem l1Bytes_any (B c : Nat) (a : Option Addr) (len cap : Nat) (zs : List Int) (n : Nat) (w : World) (hcur : Cur w B c a len cap zs) (hl : len ≤ 1099511627776) (hn2 : n ≤ 1000000) :
    Calls Tryz.prog 61 #[.pointer (some ⟨c, 0, none⟩), .int .i64 n] w fun e w' => ∃ g cp ys, e = .returned (.slice (some ⟨g, 0, none⟩) n cp) ∧ w.heap.size ≤ g ∧ Owns w' w.heap.size (some ⟨g, 0, none⟩) n cp ys ∧ Cur w' B c a len cap zs ∧ w.grownBy w' (some c) := by
  obtain ⟨i0, hi, hz0, hz1, hz2⟩ := info_parts Tryz.info5
  have hcl : c < w.heap.size := hcur.lt
  have HC : Hid (Cur (w.alloc (.cells #[] 5)) B c a len cap zs) := hcur.kept (World.grownBy_alloc w _ none) (by simp)
  have HB : Hid (B ≤ c) := hcur.1
  have HO : Hid ((w.alloc (.cells #[] 5)).ownsRow w.heap.size 5 1 (.slice (some ⟨w.heap.size, 0, none⟩) 0 0) 0 (([] : List Int).map (Value.int .u8))) := World.ownsRow_lit w #[] 0 (Nat.le_refl _) (Nat.zero_le _) rfl
  clear hcur
  go_enter Tryz.func61, Tryz.ntmps61
  go_wp2_with fail
  go_loopw [5, 6] (fun v i wr => ∃ (k g cp : Nat) (ys : List Int), k ≤ n ∧ i = .int .i64 k ∧ v = .slice (some ⟨g, 0, none⟩) k cp ∧ w.heap.size ≤ g ∧ Hid (wr.ownsRow w.heap.size 5 1 (.slice (some ⟨g, 0, none⟩) k cp) k (ys.map (Value.int .u8)) ∧ (∀ x ∈ ys, 0 ≤ x ∧ x ≤ 255)) ∧ Hid (Cur wr B c a len cap zs) ∧ Hid (w.grownBy wr (some c))) (fun _ i _ => n - (intOf i).toNat)
  case atStart => exact ⟨0, w.heap.size, 0, [], Nat.zero_le _, rfl, rfl, Nat.le_refl _, ⟨HO.out, by simp⟩, HC, World.grownBy_alloc w _ _⟩
  case round =>
    clear HO HC
    obtain ⟨k, g, cp, ys, hk, rfl, rfl, hgw, HO, HC, HG⟩ := hrel
    by_cases hlt : k < n
    · go_wp2_with fail
      refine (l1Byte_any B c a len cap zs _ HC.out hl).mono ?_
      rintro e w1 ⟨x, hx0, hx1, rfl, hc1, hg1⟩
      have hgc : ¬ g = c := by omega
      have HO1 : Hid (w1.ownsRow w.heap.size 5 1 (.slice (some ⟨g, 0, none⟩) k cp) k (ys.map (Value.int .u8))) := HO.out.1.kept hg1 (.inr (fun e => hgc (by simpa [Value.ownBlock] using e)))
      have HY : Hid (∀ x ∈ ys, 0 ≤ x ∧ x ≤ 255) := HO.out.2
      have HG1 : Hid (w.grownBy w1 (some c)) := gtrans HG.out hg1
      have HC1 : Hid (Cur w1 B c a len cap zs) := hc1
      have HN : Hid (∀ j u, [Value.int .u8 x][j]? = some u → (w1.alloc (.cells #[.int .u8 x] 5)).cell? ((⟨w1.heap.size, 0, none⟩ : Addr).add j) = some u) := one_new w1 x
      have hsz := HG1.out.size
      clear hc1 hg1 HO HC HG
      go_wp2_with (at_builtin; refine wpList_append_own _ rfl _ _ 22 rfl w.heap.size 5 i0 (.int .u8 0) 1 1 Tryz.underlying22 hi hz0 hz1 hz2 rfl (by decide) (.slice (some ⟨g, 0, none⟩) k cp) k _ rfl (HO1.out.alloc _) ⟨w1.heap.size, 0, none⟩ 1 1 [.int .u8 x] rfl rfl HN.out (ints_one [x]) (by unfold maxLen; omega) (by omega) (by simp; omega) ?_; intro v2 w2 hown2 hgrow2 hnil; refine Hid.out ?_)
      refine hidden ?_
      obtain ⟨g2, cp2, rfl, hg2⟩ := own_some5 hown2 (fun e => by have := (hnil.1 e).1; simp at this)
      have HO2 : Hid (w2.ownsRow w.heap.size 5 1 (.slice (some ⟨g2, 0, none⟩) (k + 1) cp2) (k + 1) ((ys ++ [x]).map (Value.int .u8)) ∧ (∀ z ∈ ys ++ [x], 0 ≤ z ∧ z ≤ 255)) := by
        refine ⟨by rw [List.map_append]; exact hown2, ?_⟩
        intro z hz
        rcases List.mem_append.1 hz with hz | hz
        · exact HY.out z hz
        · obtain rfl : z = x := by simpa using hz
          exact ⟨hx0, hx1⟩
      have hrow : ∀ j, (Value.slice (some ⟨g, 0, none⟩) k cp).ownBlock = some j → w.heap.size ≤ j ∧ j ≠ c := by
        intro j hj
        have : g = j := by simpa [Value.ownBlock] using hj
        omega
      have HG2 : Hid (w.grownBy w2 (some c)) := gown (gown HG1.out (World.grownBy_alloc w1 _ none) (by simp)) hgrow2 (fun j hj => (hrow j hj).1)
      have HC2 : Hid (Cur w2 B c a len cap zs) := (HC1.out.kept (World.grownBy_alloc w1 _ none) (by simp)).kept hgrow2 (fun j hj => ⟨by have := (hrow j hj).1; have := HB.out; omega, (hrow j hj).2⟩)
      clear hown2 hgrow2 hnil HO1 HC1 HG1 HN hrow
      go_wp2_with fail
      go_roundw
      case rel => exact ⟨k + 1, g2, cp2, ys ++ [x], by omega, by go_num, rfl, hg2, HO2, HC2, HG2⟩
      case measure => simp [intOf]; omega
    · have hkn : k = n := by omega
      subst hkn
      go_wp2_with fail
      go_ret
      exact ⟨g, cp, ys, rfl, hgw, ⟨HO.out.1, HO.out.2⟩, HC.out, HG.out⟩

end Go.Proofs.YtiigdcpjelbdjaaGreatDoor

namespace Go.Proofs.YtiigdcpjelbdjaaGreatDoor
open Go.RowKit
set_option linter.unusedVariables false

/-- The cells of a row of truths. -/
def bcells (l : List Bool) : List Value := l.map Value.bool

theorem bcells_len (l : List Bool) : (bcells l).length = l.length := List.length_map ..

theorem bcells_at (l : List Bool) (i : Nat) (hi : i < l.length) : (bcells l)[i]? = some (.bool (l[i])) := by
  simp [bcells, hi]

theorem bcells_append (l r : List Bool) : bcells (l ++ r) = bcells l ++ bcells r := by simp [bcells]

theorem bcells_set (l : List Bool) (x : Bool) (k : Nat) : (bcells l).set k (.bool x) = bcells (l.set k x) := by simp [bcells, List.map_set]

theorem bcells_one (l : List Bool) : ∀ u ∈ bcells l, u.oneCell' = true := by
  intro u hu
  simp only [bcells, List.mem_map] at hu
  obtain ⟨x, _, rfl⟩ := hu
  rfl

/-- The slice (a, n) holds the truths l in the world w. -/
def Bools (w : World) (a : Option Addr) (n : Nat) (l : List Bool) : Prop :=
  l.length = n ∧ True ∧
  (n = 0 ∨ ∃ b off, a = some ⟨b, off, none⟩ ∧ b < w.heap.size ∧ ∀ i (hi : i < l.length), w.cell? ⟨b, off + i, none⟩ = some (.bool (l[i])))

theorem Bools.below {w w' : World} {a : Option Addr} {n : Nat} {l : List Bool} (h : Bools w a n l) (hb : Below w.heap.size w w') : Bools w' a n l := by
  obtain ⟨h1, h2, h3⟩ := h
  refine ⟨h1, h2, ?_⟩
  rcases h3 with h0 | ⟨b, off, ha, hlt, hc⟩
  · exact .inl h0
  · exact .inr ⟨b, off, ha, Nat.lt_of_lt_of_le hlt hb.size, fun i hi => (hb.cell (p := ⟨b, off + i, none⟩) hlt).trans (hc i hi)⟩

/-- The cell at one index. -/
theorem Bools.at {w : World} {a : Option Addr} {n : Nat} {l : List Bool} (h : Bools w a n l) {k : Nat} (hk : k < n) : ∃ b off x, a = some ⟨b, off, none⟩ ∧ b < w.heap.size ∧ l[k]? = some x ∧ w.cell? ⟨b, off + k, none⟩ = some (.bool x) := by
  obtain ⟨h1, h2, h3⟩ := h
  rcases h3 with h0 | ⟨b, off, ha, hlt, hc⟩
  · omega
  · have hk' : k < l.length := by omega
    exact ⟨b, off, l[k], ha, hlt, List.getElem?_eq_getElem hk', hc k hk'⟩

theorem Bools.cells {w : World} {a : Option Addr} {n : Nat} {l : List Bool} (h : Bools w a n l) : ∀ ad, a = some ad → ∀ j u, (bcells l)[j]? = some u → w.cell? (ad.add j) = some u := by
  intro ad ha j u hj
  have hjl : j < l.length := by
    rw [← bcells_len]
    exact (List.getElem?_eq_some_iff.1 hj).1
  rcases h.2.2 with h0 | ⟨b, off, e, hb, hc⟩
  · have := h.1
    omega
  · rw [ha] at e
    injection e with e
    subst e
    have hadd : (⟨b, off, none⟩ : Addr).add j = ⟨b, off + j, none⟩ := by unfold Addr.add; split <;> simp_all
    rw [hadd, hc j hjl, ← bcells_at l j hjl, hj]

theorem Bools.none_nil {w : World} {a : Option Addr} {n : Nat} {l : List Bool} (h : Bools w a n l) (ha : a = none) : n = 0 := by
  rcases h.2.2 with h0 | ⟨b, off, e, _⟩
  · exact h0
  · rw [ha] at e
    cases e

theorem Bools.nil (w : World) (a : Option Addr) : Bools w a 0 [] := ⟨rfl, trivial, .inl rfl⟩

/-- A slice value that owns these truths, in a block from base on. -/
def OwnBo (w : World) (base : Nat) (v : Value) (n : Nat) (l : List Bool) : Prop := w.ownsRow base 4 1 v n (bcells l)∧ True

theorem OwnBo.len {w : World} {base n : Nat} {v : Value} {l : List Bool} (h : OwnBo w base v n l) : l.length = n := by
  have := h.1.1
  rw [bcells_len] at this
  omega

theorem OwnBo.shape {w : World} {base n : Nat} {v : Value} {l : List Bool} (h : OwnBo w base v n l) : ∃ a cap, v = .slice a n cap := by
  rcases h.1.2 with ⟨rfl, rfl⟩ | ⟨g, cap, cur, rfl, _⟩
  · exact ⟨_, _, rfl⟩
  · exact ⟨_, _, rfl⟩

theorem OwnBo.strs {w : World} {base n cap : Nat} {a : Option Addr} {l : List Bool} (h : OwnBo w base (.slice a n cap) n l) : Bools w a n l := by
  have hl := h.len
  refine ⟨hl, h.2, ?_⟩
  rcases h.1.2 with ⟨_, hn⟩ | ⟨g, cap', cur, he, hb, hg, hn, hm, hc, ht⟩
  · exact .inl hn
  · injection he with e1 e2 e3
    subst e1
    refine .inr ⟨g, 0, rfl, (Array.getElem?_eq_some_iff.1 hg).1, fun i hi => ?_⟩
    have hi' : i < n := by omega
    rw [Nat.zero_add, cell_of_row w g i cur _ (0, 0) hg, ← bcells_at l i hi, ← ht, List.getElem?_take, if_pos (by omega), Array.getElem?_toList]

theorem OwnBo.below {w w' : World} {base n : Nat} {v : Value} {l : List Bool} (h : OwnBo w base v n l) (hb : Below w.heap.size w w') : OwnBo w' base v n l := by
  refine ⟨⟨h.1.1, ?_⟩, h.2⟩
  rcases h.1.2 with h0 | ⟨g, cap, cur, he, hg, hh, r⟩
  · exact .inl h0
  · exact .inr ⟨g, cap, cur, he, hg, (hb.block g (Array.getElem?_eq_some_iff.1 hh).1).trans hh, r⟩

theorem OwnBo.grown {w w' : World} {base n : Nat} {v : Value} {l : List Bool} {r : Option Nat} (h : OwnBo w base v n l) (hg : w.grownBy w' r) (hr : ∀ q, r = some q → ∀ p m c, v = .slice (some p) m c → p.block ≠ q) : OwnBo w' base v n l := by
  refine ⟨⟨h.1.1, ?_⟩, h.2⟩
  rcases h.1.2 with h0 | ⟨g, cap, cur, he, hgb, hh, rest⟩
  · exact .inl h0
  · refine .inr ⟨g, cap, cur, he, hgb, (hg.block g (Array.getElem?_eq_some_iff.1 hh).1 ?_).trans hh, rest⟩
    intro e
    exact hr g e.symm _ _ _ he rfl

theorem info_bool : (Tryz.prog.info? 4).map (fun i => (i.zero, i.size, i.bytes)) = some (some (.bool false), 1, 1) := by kernel_rfl

/-- A row that is copied up to k. -/
def browTo (l : List Bool) (len k : Nat) : List Bool := l.take k ++ List.replicate (len - k) false

theorem browTo_step (l : List Bool) (len k : Nat) (x : Bool) (h : l[k]? = some x) (hk : k < len) : (browTo l len k).set k x = browTo l len (k + 1) := by
  have hl : k < l.length := (List.getElem?_eq_some_iff.1 h).1
  have ht : (l.take k).length = k := by simp; omega
  rw [browTo, browTo, List.set_append_right k _ (by omega), ht, Nat.sub_self, List.take_add_one, h, show len - k = (len - (k + 1)) + 1 by omega, List.replicate_succ]
  simp

theorem browTo_len (l : List Bool) (len k : Nat) (h : l.length = len) (hk : k ≤ len) : (browTo l len k).length = len := by
  simp [browTo]; omega

end Go.Proofs.YtiigdcpjelbdjaaGreatDoor
