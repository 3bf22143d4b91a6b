/- What lasts of a store that was made sure, with records written since, behind any crash. No program in it. What is opened, made sure, fallen and opened again has the same uploads; what records made is right. No program in it. A drawn server that is made sure, and that crashes. No program in it. A drawn server in a variable of a draw's. No statement of the program but its table of types. Bytes appended onto a row of the call's own, which may be nil. No program in it but its table of types. What the specification's UpAt answers. -/
import Derived.Test.YtlkgopoicpnacaaGreatDoorM07
import Derived.Test.YtlkgopoicpnacaaGreatDoorM18
import Derived.Test.YtlkgopoicpnacaaGreatDoorM17
import Derived.Test.YtlkgopoicpnacaaGreatDoorM01
import Derived.Deep.AppendSrc
import Derived.Test.YtlkgopoicpnacaaGreatDoorM08
import Derived.Test.YtlkgopoicpnacaaGreatDoorM04
import Derived.Deep.CutBlock
import Derived.Lib.AppendZerosOnto
namespace Go.Proofs.YtlkgopoicpnacaaGreatDoor
open Go.RowKit
set_option linter.unusedVariables false

/-- A scan looks no farther than the first sector that does not follow. -/
theorem scan_prefix : ∀ (Z F : List ByteArray) (i : Nat) (last : Int), F.length = Z.length → (∀ k, k ≤ (scanFrom i last Z).length → F[k]? = Z[k]?) → scanFrom i last F = scanFrom i last Z
  | [], F, i, last, hl, _ => by
    have : F = [] := List.length_eq_zero_iff.1 hl
    rw [this]
  | z :: Z, [], i, last, hl, _ => by simp at hl
  | z :: Z, f :: F, i, last, hl, h => by
    have h0 : f = z := by have := h 0 (Nat.zero_le _); simpa using this
    subst h0
    rw [scanFrom, scanFrom]
    cases hn : nextR i last f with
    | none => rfl
    | some r =>
      dsimp only
      congr 1
      refine scan_prefix Z F (i + 1) r.e (by simpa using hl) (fun k hk => ?_)
      have := h (k + 1) (by rw [scanFrom, hn]; simpa using hk)
      simpa using this

theorem wroteX_low {ep : Int} : ∀ (rs : List R) (X : List ByteArray) (nx i : Nat), i < nx → (wroteX X ep nx rs)[i]? = X[i]?
  | [], X, nx, i, _ => rfl
  | r :: rs, X, nx, i, h => by rw [wroteX, wroteX_low rs _ (nx + 1) i (by omega), List.getElem?_set_ne (by omega)]

theorem wroteX_high {ep : Int} : ∀ (rs : List R) (X : List ByteArray) (nx i : Nat), nx + rs.length ≤ i → (wroteX X ep nx rs)[i]? = X[i]?
  | [], X, nx, i, _ => rfl
  | r :: rs, X, nx, i, h => by rw [List.length_cons] at h; rw [wroteX, wroteX_high rs _ (nx + 1) i (by omega), List.getElem?_set_ne (by omega)]

theorem wroteX_mid {ep : Int} : ∀ (rs : List R) (X : List ByteArray) (nx j : Nat) (r : R), rs[j]? = some r → nx + j < X.length → (wroteX X ep nx rs)[nx + j]? = some (txU (r.at ep (nx + j)).put)
  | [], X, nx, j, r, h, _ => by simp at h
  | x :: rs, X, nx, 0, r, h, hl => by
    obtain rfl : x = r := by simpa using h
    rw [wroteX, wroteX_low rs _ (nx + 1) (nx + 0) (by omega)]
    rw [Nat.add_zero] at hl ⊢
    rw [List.getElem?_set_self hl]
  | x :: rs, X, nx, j + 1, r, h, hl => by
    have := wroteX_mid (ep := ep) rs (X.set nx (txU (x.at ep nx).put)) (nx + 1) j r (by simpa using h) (by rw [List.length_set]; omega)
    rw [show nx + 1 + j = nx + (j + 1) by omega] at this
    rw [wroteX]
    exact this

theorem first_diff (P : Nat → Prop) : ∀ m, ∃ j, j ≤ m ∧ (∀ i, i < j → P i) ∧ (j = m ∨ ¬ P j)
  | 0 => ⟨0, Nat.le_refl _, fun i h => by omega, .inl rfl⟩
  | m + 1 => by
    obtain ⟨j, h1, h2, h3⟩ := first_diff P m
    rcases h3 with rfl | h3
    · by_cases h : P j
      · exact ⟨j + 1, Nat.le_refl _, fun i hi => (Nat.lt_succ_iff_lt_or_eq.1 hi).elim (h2 i) (fun e => e ▸ h), .inl rfl⟩
      · exact ⟨j, by omega, h2, .inr h⟩
    · exact ⟨j, by omega, h2, .inr h3⟩

theorem fall_or {xs ys : List ByteArray} (ks : List Bool) (hl : xs.length = ys.length) (k : Nat) : (fallL xs ys ks)[k]? = xs[k]? ∨ (fallL xs ys ks)[k]? = ys[k]? := by
  by_cases hk : k < xs.length
  · have h := fallL_at (ks := ks) (List.getElem?_eq_getElem hk) (List.getElem?_eq_getElem (show k < ys.length by omega))
    rw [h]
    split
    · left; rw [List.getElem?_eq_getElem hk]
    · right; rw [List.getElem?_eq_getElem (show k < ys.length by omega)]
  · left
    rw [List.getElem?_eq_none (by rw [fallL_len]; omega), List.getElem?_eq_none (by omega)]

theorem foldlM_take {rs : List R} {us us' : List U} (h : rs.foldlM oneU us = some us') (j : Nat) : ∃ u1, (rs.take j).foldlM oneU us = some u1 := by
  have e : rs = rs.take j ++ rs.drop j := (List.take_append_drop j rs).symm
  rw [e, List.foldlM_append] at h
  cases h1 : (rs.take j).foldlM oneU us with
  | none => rw [h1] at h; cases h
  | some u1 => exact ⟨u1, rfl⟩

/-- Behind a crash there is what was sure, and a beginning of what was written since. -/
theorem dur {k : Int} {X : List ByteArray} {ep nx : Int} {us us2 : List U} {rs : List R} (h : SG k X X ep nx us) (hk : k < 10000) (hr : ∀ r ∈ rs, idB r.id.data.toList = true ∧ kindB r.k r.n r.zs.length = true ∧ ∀ x ∈ r.zs, 0 ≤ x ∧ x ≤ 255) (hl : nx + (rs.length : Int) ≤ (X.length : Int)) (hf : rs.foldlM oneU us = some us2) (ks : List Bool) :
    ∃ j, j ≤ rs.length ∧ ∃ usj, (rs.take j).foldlM oneU us = some usj ∧ ∃ e n, openO (fallX (wroteX X ep nx.toNat rs) X ks) (fallY (wroteX X ep nx.toNat rs) X ks) = some (e, n, usj) := by
  obtain ⟨he, h0, hnX, h200⟩ := h.ok.nums
  obtain ⟨X2, hX2⟩ : ∃ X2, wroteX X ep nx.toNat rs = X2 := ⟨_, rfl⟩
  have hlen : X2.length = X.length := by rw [← hX2, wroteX_len]
  have hok2 : SOk X2 X ep (nx + (rs.length : Int)) us2 := by rw [← hX2]; exact wrote_ok h.ok hr hl hf
  rw [hX2]
  obtain ⟨e1, e2⟩ := fall_same ks hok2.1
  rw [e1, e2]
  obtain ⟨F, hF⟩ : ∃ F, fallL X2 X ks = F := ⟨_, rfl⟩
  have hFl : F.length = X.length := by rw [← hF, fallL_len, hlen]
  have hor : ∀ i, F[i]? = X2[i]? ∨ F[i]? = X[i]? := fun i => by rw [← hF]; exact fall_or ks hlen i
  obtain ⟨N, hN⟩ : ∃ N, nx.toNat = N := ⟨_, rfl⟩
  rw [hN] at hX2
  obtain ⟨j, hj, hsame, hstop⟩ := first_diff (fun i => F[N + i]? = X2[N + i]?) rs.length
  obtain ⟨usj, huj⟩ := foldlM_take hf j
  refine ⟨j, hj, usj, huj, ?_⟩
  have htl : (rs.take j).length = j := by rw [List.length_take]; omega
  have hokZ : SOk (wroteX X ep nx.toNat (rs.take j)) X ep (nx + ((rs.take j).length : Int)) usj := wrote_ok h.ok (fun r hr' => hr r (List.mem_of_mem_take hr')) (by omega) huj
  rw [hN, htl] at hokZ
  obtain ⟨Z, hZ⟩ : ∃ Z, wroteX X ep N (rs.take j) = Z := ⟨_, rfl⟩
  rw [hZ] at hokZ
  have hZl : Z.length = X.length := by rw [← hZ, wroteX_len]
  have hsc : (scanR Z).length = N + j := by have := hokZ.2.2.2.1; omega
  have hscan : scanR F = scanR Z := by
    refine scan_prefix Z F 0 0 (by omega) (fun i hi => ?_)
    have hi2 : i ≤ N + j := by rw [← hsc]; exact hi
    by_cases h1 : i < N
    · have a1 : Z[i]? = X[i]? := by rw [← hZ]; exact wroteX_low _ _ _ _ h1
      have a2 : X2[i]? = X[i]? := by rw [← hX2]; exact wroteX_low _ _ _ _ h1
      rcases hor i with h2 | h2
      · rw [h2, a1, a2]
      · rw [h2, a1]
    · obtain ⟨p, rfl⟩ : ∃ p, i = N + p := ⟨i - N, by omega⟩
      by_cases h2 : p < j
      · rw [hsame p h2]
        have hp : p < rs.length := by omega
        have a1 : X2[N + p]? = some (txU (rs[p].at ep (N + p)).put) := by rw [← hX2]; exact wroteX_mid rs X N p _ (List.getElem?_eq_getElem hp) (by omega)
        have a2 : Z[N + p]? = some (txU (rs[p].at ep (N + p)).put) := by rw [← hZ]; exact wroteX_mid (rs.take j) X N p _ (by rw [List.getElem?_take, if_pos h2, List.getElem?_eq_getElem hp]) (by omega)
        rw [a1, a2]
      · obtain rfl : p = j := by omega
        have a1 : Z[N + p]? = X[N + p]? := by rw [← hZ]; exact wroteX_high _ _ _ _ (by rw [htl]; omega)
        rw [a1]
        rcases hstop with h3 | h3
        · have a2 : X2[N + p]? = X[N + p]? := by rw [← hX2]; exact wroteX_high _ _ _ _ (by omega)
          rcases hor (N + p) with h4 | h4
          · rw [h4, a2]
          · exact h4
        · rcases hor (N + p) with h4 | h4
          · exact absurd h4 h3
          · exact h4
  have hmem : ∀ x ∈ F, x ∈ X2 ∨ x ∈ X := fun x hx => by rw [← hF] at hx; exact fallL_mem hlen hx
  have hd2 := okD_iff.1 hok2.1
  have hokF : okD F F = true := okD_iff.2 ⟨rfl, by omega, fun x hx => (hmem x hx).elim (hd2.2.2.1 x) (hd2.2.2.2 x), fun x hx => (hmem x hx).elim (hd2.2.2.1 x) (hd2.2.2.2 x)⟩
  have hfo : foldU (scanR F) = some usj := by rw [hscan]; exact hokZ.2.2.1
  have hX2e : ∀ x ∈ X2, ∀ r, recOf x = some r → r.e ≤ ep := fun x hx r hrx => by
    rw [← hX2] at hx
    rcases wroteX_memq hx with hx | ⟨r', hr', q, hq, rfl⟩
    · exact (h.recs x (.inl hx) r hrx).1
    · have h3 := hr r' hr'
      rw [recOf_put hrx h3.2.2 (at_ok h3.1 h3.2.1 he (by omega))]
      exact Int.le_refl _
  have htop : topE F ≤ ep := topE_le (by omega) (fun x hx r hrx => (hmem x hx).elim (fun h5 => hX2e x h5 r hrx) (fun h5 => (h.recs x (.inl h5) r hrx).1))
  have hfew := h.few
  exact ⟨_, _, by rw [hF, openO, hokF, hfo]; dsimp only; rw [if_neg (by omega)]⟩

/-- In rising order each is found by its name. -/
theorem asc_at {l : List U} (h : Asc l) {p : Nat} {u : U} (hu : l[p]? = some u) : atU l u.id = some p := by
  obtain ⟨hp, rfl⟩ := List.getElem?_eq_some_iff.1 hu
  exact atU_some hp rfl (fun j hj hlt => asc_ne h hj hp hlt)

/-- Names of what records made are names of records. -/
theorem fold_ids {P : ByteArray → Prop} {rs : List R} : ∀ {us us' : List U}, (∀ u ∈ us, P u.id) → (∀ r ∈ rs, P r.id) → rs.foldlM oneU us = some us' → ∀ u ∈ us', P u.id := by
  induction rs with
  | nil => intro us us' h1 _ h; obtain rfl : us = us' := by simpa using h
           exact h1
  | cons r rs ih =>
    intro us us' h1 hr h
    rw [List.foldlM_cons] at h
    cases ho : oneU us r with
    | none => rw [ho] at h; cases h
    | some u1 =>
      rw [ho] at h
      exact ih (oneU_each (P := fun u => P u.id) ho h1 (fun _ => hr r (List.mem_cons_self ..)) (fun u hu _ _ _ => hu) (fun u hu _ _ => hu)) (fun x hx => hr x (List.mem_cons_of_mem _ hx)) h

theorem SG.ids {k : Int} {X Y : List ByteArray} {ep nx : Int} {us : List U} (h : SG k X Y ep nx us) : ∀ u ∈ us, u.id ≠ newId := by
  refine fold_ids (P := fun i => i ≠ newId) (us := []) (by simp) (fun r hr => ?_) h.ok.2.2.1
  obtain ⟨i, hi, rfl⟩ := List.getElem_of_mem hr
  obtain ⟨⟨x, hx, hrx⟩, _⟩ := scan_one (X := X) (k := i) (List.getElem?_eq_getElem hi)
  exact (h.recs x (.inl (List.mem_of_getElem? hx)) _ hrx).2

/-- What stands in a row of uploads stands there when one is put in. -/
theorem makeU_mem {l : List U} {v u : U} (h : u ∈ l) : u ∈ makeU l v := by
  rw [makeU]
  rw [← List.take_append_drop (insK l v.id l.length) l] at h
  rcases List.mem_append.1 h with h | h
  · exact List.mem_append.2 (.inl h)
  · exact List.mem_append.2 (.inr (List.mem_cons_of_mem _ h))

theorem makeU_new {l : List U} {v : U} : v ∈ makeU l v := List.mem_append.2 (.inr (List.mem_cons_self ..))

/-- The upload that is made. -/
def newU : U := ⟨newId, 30, [], false⟩

theorem SOk.asc {X Y : List ByteArray} {ep nx : Int} {us : List U} (h : SOk X Y ep nx us) : Asc us := foldU_asc h.2.2.1

/-- What lasts of the uploads. -/
structure Lasts (us usj us2 : List U) : Prop where
  least : us.length ≤ usj.length
  most : usj.length ≤ us2.length
  same : ∀ u ∈ us, ∃ p, atU usj u.id = some p ∧ usj[p]? = some u
  news : ∀ p v, atU usj newId = some p → usj[p]? = some v → v.zs.length = 0 ∨ v.zs.length = 24 ∨ v.zs.length = 30

theorem lasts_nothing {us us2 : List U} (ha : Asc us) (hi : ∀ u ∈ us, u.id ≠ newId) (hl : us.length ≤ us2.length) : Lasts us us us2 := by
  refine ⟨Nat.le_refl _, hl, fun u hu => ?_, fun p v hp hv => ?_⟩
  · obtain ⟨p, hp, rfl⟩ := List.getElem_of_mem hu
    exact ⟨p, asc_at ha (List.getElem?_eq_getElem hp), List.getElem?_eq_getElem hp⟩
  · obtain ⟨hpl, h⟩ := atU_is hp
    exact absurd h (hi _ (List.getElem_mem hpl))

theorem lasts_some {us us2 : List U} {zs : List Int} (hz : zs.length = 30) (ha : Asc us) (ha1 : Asc (makeU us newU)) (hi : ∀ u ∈ us, u.id ≠ newId) {kk : Nat} (hk : (makeU us newU)[kk]? = some newU) (i : Nat) (hi2 : i ≤ 2) (hl : us2.length = us.length + 1) : Lasts us (putU (makeU us newU) kk newU zs i) us2 := by
  have hkk : atU (makeU us newU) newId = some kk := asc_at (u := newU) ha1 hk
  have hv : ({ newU with zs := newU.zs ++ zs.take (24 * i) } : U).id = newU.id := rfl
  have hlen : (putU (makeU us newU) kk newU zs i).length = us.length + 1 := by rw [putU, List.length_set, makeU_len]
  have ha2 : Asc (putU (makeU us newU) kk newU zs i) := asc_set ha1 hk hv
  refine ⟨by omega, by omega, fun u hu => ?_, fun p v hp hv2 => ?_⟩
  · obtain ⟨p, hp, he⟩ := List.getElem_of_mem (makeU_mem (v := newU) hu)
    have hp' : (makeU us newU)[p]? = some u := by rw [List.getElem?_eq_getElem hp, he]
    have hne : kk ≠ p := fun e => by
      subst e
      rw [hk] at hp'
      injection hp' with hp'
      exact hi u hu (by rw [← hp']; rfl)
    have h3 : (putU (makeU us newU) kk newU zs i)[p]? = some u := by rw [putU, List.getElem?_set_ne hne, hp']
    exact ⟨p, asc_at ha2 h3, h3⟩
  · have h4 : atU (putU (makeU us newU) kk newU zs i) newId = some kk := atU_set hkk hk hv
    rw [h4] at hp
    injection hp with hp
    subst hp
    have hkl : kk < (makeU us newU).length := (List.getElem?_eq_some_iff.1 hk).1
    rw [putU, List.getElem?_set_self hkl] at hv2
    injection hv2 with hv2
    subst hv2
    have hl9 : ({ newU with zs := newU.zs ++ zs.take (24 * i) } : U).zs.length = min (24 * i) 30 := by
      show (([] : List Int) ++ zs.take (24 * i)).length = _
      rw [List.nil_append, List.length_take, hz]
    rw [hl9]
    have : i = 0 ∨ i = 1 ∨ i = 2 := by omega
    rcases this with rfl | rfl | rfl
    · left; rfl
    · right; left; rfl
    · right; right; rfl

/-- Of a store made sure, with an upload made since and something put into it: what is there behind any crash. -/
theorem durable {k : Int} {X : List ByteArray} {ep nx : Int} {us : List U} (h : SG k X X ep nx us) (hk : k < 10000) (ks : List Bool) {zs : List Int} (hz : zs.length = 30) (hb : ∀ x ∈ zs, 0 ≤ x ∧ x ≤ 255) {A1 A2 : WA} (h1 : makeA X X ep nx us newId 30 = A1) (h2 : putA A1.X X ep A1.nx A1.us newId 0 zs = A2) :
    okD A2.X X = true ∧ ∃ e n usj, openO (fallX A2.X X ks) (fallY A2.X X ks) = some (e, n, usj) ∧ Lasts us usj A2.us := by
  have ha := h.ok.asc
  have hids := h.ids
  by_cases hc : A1.c = 0
  · have hc' : (makeA X X ep nx us newId 30).c = 0 := by rw [h1]; exact hc
    obtain ⟨_, hkd, hl, us', hf, he⟩ := makeA_yes hc'
    have hat : atU us newId = none := atU_none (fun p hp => hids _ (List.getElem_mem hp))
    have hone : oneU us (makeR newId 30) = some us' := by
      rw [List.foldlM_cons] at hf
      cases ho : oneU us (makeR newId 30) with
      | none => rw [ho] at hf; cases hf
      | some u1 => rw [ho] at hf; simpa using hf
    have hus' : us' = makeU us newU := by
      rw [oneU, if_pos (show (makeR newId 30).k = 1 from rfl)] at hone
      split at hone
      · injection hone with hone; exact hone.symm
      · cases hone
    have ha1 : Asc us' := oneU_asc ha hone
    subst hus'
    obtain ⟨kk, hkl, hke⟩ := List.getElem_of_mem (makeU_new (l := us) (v := newU))
    have hkk : (makeU us newU)[kk]? = some newU := by rw [List.getElem?_eq_getElem hkl, hke]
    have hA1 : A1 = ⟨wroteX X ep nx.toNat [makeR newId 30], nx + 1, makeU us newU, 0⟩ := by rw [← h1, he]
    have hgm : idB newId.data.toList = true ∧ kindB 1 30 0 = true ∧ ∀ x ∈ ([] : List Int), 0 ≤ x ∧ x ≤ 255 := ⟨hkd.1, hkd.2, by simp⟩
    by_cases hc2 : A2.c = 0
    · have hc2' : (putA A1.X X ep A1.nx A1.us newId 0 zs).c = 0 := by rw [h2]; exact hc2
      obtain ⟨hso1, hid, hzl, k2, u2, h4, h5, h6, h7, h8, h9, hf2, he2⟩ := putA_yes hc2'
      rw [hA1] at hso1 h4 h5 h9 hf2 he2
      dsimp only at hso1 h4 h5 h9 hf2 he2
      have e1 : atU (makeU us newU) newId = some kk := asc_at (u := newU) ha1 hkk
      rw [e1] at h4
      injection h4 with h4
      subst h4
      rw [hkk] at h5
      injection h5 with h5
      subst h5
      have hA2 : A2 = ⟨wroteX X ep nx.toNat (makeR newId 30 :: dataRs newId 0 zs), nx + 1 + (pcs zs.length : Int), putU (makeU us newU) kk newU zs (pcs zs.length), 0⟩ := by
        rw [← h2, hA1]
        dsimp only
        rw [he2]
        have e9 : (nx + 1).toNat = nx.toNat + 1 := by have := h.ok.nums; omega
        rw [e9]
        rfl
      have hgood : ∀ r ∈ makeR newId 30 :: dataRs newId 0 zs, idB r.id.data.toList = true ∧ kindB r.k r.n r.zs.length = true ∧ ∀ x ∈ r.zs, 0 ≤ x ∧ x ≤ 255 := by
        intro r hr
        rcases List.mem_cons.1 hr with rfl | hr
        · exact hgm
        · exact dataRs_ok hid (by omega) (by omega) hb r hr
      have hfold : (makeR newId 30 :: dataRs newId 0 zs).foldlM oneU us = some (putU (makeU us newU) kk newU zs (pcs zs.length)) := by rw [List.foldlM_cons, hone]; exact hf2
      have hll : nx + ((makeR newId 30 :: dataRs newId 0 zs).length : Int) ≤ (X.length : Int) := by
        rw [List.length_cons, dataRs_len]
        rw [wroteX_len] at h9
        omega
      rw [hA2]
      refine ⟨(wrote_ok h.ok hgood hll hfold).1, ?_⟩
      obtain ⟨j, hj, usj, huj, e, n, ho⟩ := dur h hk hgood hll hfold ks
      refine ⟨e, n, usj, ho, ?_⟩
      have hfin : (putU (makeU us newU) kk newU zs (pcs zs.length)).length = us.length + 1 := by rw [putU, List.length_set, makeU_len]
      cases j with
      | zero =>
        obtain rfl : us = usj := by simpa using huj
        exact lasts_nothing ha hids (by dsimp only; omega)
      | succ i =>
        rw [List.take_succ_cons, List.foldlM_cons, hone] at huj
        have hi2 : i ≤ pcs zs.length := by rw [List.length_cons, dataRs_len] at hj; omega
        have huj2 : ((dataRs newId 0 zs).take i).foldlM oneU (makeU us newU) = some usj := huj
        rw [dataRs_take _ _ _ hi2, put_fold (off := 0) e1 hkk rfl rfl h8 i hi2] at huj2
        injection huj2 with huj2
        rw [← huj2]
        refine lasts_some hz ha ha1 hids hkk i ?_ (by dsimp only; omega)
        rw [hz] at hi2
        exact hi2
    · have hA2 : A2 = ⟨A1.X, A1.nx, A1.us, A2.c⟩ := by
        have := putA_no (X := A1.X) (Y := X) (ep := ep) (nx := A1.nx) (us := A1.us) (id := newId) (off := 0) (zs := zs) (by rw [h2]; exact hc2)
        rw [h2] at this
        exact this
      have hgood : ∀ r ∈ [makeR newId 30], idB r.id.data.toList = true ∧ kindB r.k r.n r.zs.length = true ∧ ∀ x ∈ r.zs, 0 ≤ x ∧ x ≤ 255 := fun r hr => by rw [List.mem_singleton.1 hr]; exact hgm
      have eX : A2.X = wroteX X ep nx.toNat [makeR newId 30] := by rw [hA2, hA1]
      have eU : A2.us = makeU us newU := by rw [hA2, hA1]
      rw [eX, eU]
      refine ⟨(wrote_ok h.ok hgood hl hf).1, ?_⟩
      obtain ⟨j, hj, usj, huj, e, n, ho⟩ := dur h hk hgood hl hf ks
      refine ⟨e, n, usj, ho, ?_⟩
      have hfin : (makeU us newU).length = us.length + 1 := makeU_len _ _
      cases j with
      | zero =>
        obtain rfl : us = usj := by simpa using huj
        exact lasts_nothing ha hids (by omega)
      | succ i =>
        have hi0 : i = 0 := by simp at hj; omega
        subst hi0
        rw [List.take_succ_cons, List.foldlM_cons, hone] at huj
        obtain rfl : makeU us newU = usj := by simpa using huj
        have := lasts_some (us2 := makeU us newU) hz ha ha1 hids hkk 0 (by omega) hfin
        rw [putU_zero hkk] at this
        exact this
  · have hA1 : A1 = ⟨X, nx, us, A1.c⟩ := by
      have := makeA_no (X := X) (Y := X) (ep := ep) (nx := nx) (us := us) (id := newId) (want := 30) (by rw [h1]; exact hc)
      rw [h1] at this
      exact this
    have hat : atU us newId = none := atU_none (fun p hp => hids _ (List.getElem_mem hp))
    have hc2 : A2.c ≠ 0 := fun hc2 => by
      have hc2' : (putA A1.X X ep A1.nx A1.us newId 0 zs).c = 0 := by rw [h2]; exact hc2
      obtain ⟨_, _, _, k2, u2, h4, _⟩ := putA_yes hc2'
      rw [hA1] at h4
      dsimp only at h4
      rw [hat] at h4
      cases h4
    have hA2 : A2 = ⟨A1.X, A1.nx, A1.us, A2.c⟩ := by
      have := putA_no (X := A1.X) (Y := X) (ep := ep) (nx := A1.nx) (us := A1.us) (id := newId) (off := 0) (zs := zs) (by rw [h2]; exact hc2)
      rw [h2] at this
      exact this
    have eX : A2.X = wroteX X ep nx.toNat [] := by rw [hA2, hA1]; rfl
    have eU : A2.us = us := by rw [hA2, hA1]
    rw [eX, eU]
    refine ⟨h.ok.1, ?_⟩
    obtain ⟨j, hj, usj, huj, e, n, ho⟩ := dur (rs := []) h hk (by simp) (by have := h.ok.nums; simp; omega) rfl ks
    refine ⟨e, n, usj, ho, ?_⟩
    obtain rfl : us = usj := by simpa using huj
    exact lasts_nothing ha hids (Nat.le_refl _)

end Go.Proofs.YtlkgopoicpnacaaGreatDoor

namespace Go.Proofs.YtlkgopoicpnacaaGreatDoor
open Go.RowKit
set_option linter.unusedVariables false

theorem fallL_self (X : List ByteArray) (ks : List Bool) : fallL X X ks = X := by
  apply List.ext_getElem?
  intro k
  by_cases hk : k < X.length
  · have h := fallL_at (ks := ks) (List.getElem?_eq_getElem hk) (List.getElem?_eq_getElem hk)
    rw [h, List.getElem?_eq_getElem hk]
    split <;> rfl
  · rw [List.getElem?_eq_none (by rw [fallL_len]; omega), List.getElem?_eq_none (by omega)]

theorem okD_self {X Y : List ByteArray} (h : okD X Y = true) : okD X X = true := by
  have hd := okD_iff.1 h
  exact okD_iff.2 ⟨rfl, hd.2.1, hd.2.2.1, hd.2.2.1⟩

/-- Opened again it is the same. -/
theorem reopened {X Y : List ByteArray} {ep : Int} {nx : Nat} {us : List U} (h : openO X Y = some (ep, nx, us)) (ks : List Bool) : openO (fallX X X ks) (fallY X X ks) = some (ep, nx, us) := by
  have hok : okD X Y = true := (open_ok h).1.1
  obtain ⟨e1, e2⟩ := fall_same ks (okD_self hok)
  rw [e1, e2, fallL_self]
  rw [openO] at h ⊢
  rw [hok] at h
  rw [okD_self hok]
  exact h

/-- What records made rises, and none has more than it wants. -/
theorem folded {rs : List R} {us : List U} (h : foldU rs = some us) (hr : ∀ r ∈ rs, r.k = 1 → 0 ≤ r.n) : Asc us ∧ (∀ u ∈ us, u.fit) ∧ us.length ≤ 10 ∧ ∀ j, ∃ u1, foldU (rs.take j) = some u1 :=
  ⟨foldU_asc h, foldlM_fit (us := []) (by simp) hr h, foldlM_len (us := []) (by simp) h, fun j => foldlM_take h j⟩

end Go.Proofs.YtlkgopoicpnacaaGreatDoor

namespace Go.Proofs.YtlkgopoicpnacaaGreatDoor
open Go.RowKit
set_option linter.unusedVariables false

theorem told_sync {k : Int} {X Y : List ByteArray} {ep nx : Int} {us : List U} {hs : List Hd} (h : SGV k X Y ep nx us hs) : saY X Y ep nx us hs = X ∧ saH X Y ep nx us hs = [] ∧ saL X Y ep nx us hs = hs ∧ SGV k X X ep nx us [] := by
  have hok := h.ok
  have hs := h.sg.sync
  refine ⟨by rw [saY, if_pos hok]; exact hs.1, by rw [saH, if_pos hok], by rw [saL, if_pos hok], hs.2, by simp, by simp⟩

/-- Behind a crash of what is sure the same uploads are there. -/
theorem told_crash {k : Int} {X : List ByteArray} {ep nx : Int} {us : List U} (h : SGV k X X ep nx us []) (hk : k < 10000) (ks : List Bool) : ∃ ep' nx', crA X X ep nx us [] ks = ⟨fallX X X ks, fallY X X ks, ep', nx', us, [], true⟩ ∧ SGV (k + 1) (fallX X X ks) (fallY X X ks) ep' nx' us [] := by
  have hok := h.ok
  obtain ⟨he, h0, hnX, h200⟩ := h.sg.ok.nums
  obtain ⟨j, hj, usj, hf, e, n, ho⟩ := dur (rs := []) (us2 := us) h.sg hk (by simp) (by simpa using hnX) rfl ks
  obtain rfl : us = usj := by
    rw [List.take_nil] at hf
    simpa using hf
  have ho' : openO (fallX X X ks) (fallY X X ks) = some (e, n, us) := ho
  have hA : openA (fallX X X ks) (fallY X X ks) = ⟨fallX X X ks, fallY X X ks, e, (n : Int), us, true⟩ := by rw [openA, ho']
  refine ⟨e, (n : Int), ?_, h.sg.opened ks ho', by simp, by simp⟩
  rw [crA, if_pos ⟨hok, by rw [hA]⟩, hA]

/-- Behind a crash that opens a server is right. -/
theorem SGV.crashed {k : Int} {X Y : List ByteArray} {ep nx : Int} {us : List U} {hs : List Hd} (h : SGV k X Y ep nx us hs) (ks : List Bool) {A : CA} (hA : crA X Y ep nx us hs ks = A) (hc : A.ok = true) : SGV (k + 1) A.X A.Y A.ep A.nx A.us A.hs := by
  subst hA
  rw [crA] at hc ⊢
  split at hc
  · rename_i hp
    rw [if_pos hp]
    obtain ⟨_, h2⟩ := hp
    rw [openA] at h2 ⊢
    cases ho : openO (fallX X Y ks) (fallY X Y ks) with
    | none => rw [ho] at h2; cases h2
    | some t =>
      obtain ⟨ep', nx', us'⟩ := t
      exact ⟨h.sg.opened ks ho, by simp, by simp⟩
  · cases hc

end Go.Proofs.YtlkgopoicpnacaaGreatDoor

namespace Go.Proofs.YtlkgopoicpnacaaGreatDoor
open Go.RowKit
set_option linter.unusedVariables false

theorem SvAt.moved {W W' : World} {lo q : Nat} {A : Option Addr} {n C : Nat} {X : List ByteArray} {A' : Option Addr} {n' C' : Nat} {Y : List ByteArray} {ua : Option Addr} {un uc : Nat} {l : List UE} {ha : Option Addr} {hn hc : Nat} {hs : List Hd} (h : SvAt W lo A n C X A' n' C' Y ua un uc l ha hn hc hs) (hg : W.grownBy W' (some q)) (hq : q < lo) : SvAt W' lo A n C X A' n' C' Y ua un uc l ha hn hc hs :=
  ⟨h.sto.moved hg hq, h.held.kept hg (fun k e e2 => by injection e with e; have := (h.held.lt k e2).1; omega)⟩

/-- A server in a variable b of a draw's, beside the answer's. -/
structure DSv (w W : World) (B c : Nat) (a : Option Addr) (len cap : Nat) (zs : List Int) (b : Nat) (k : Int) (A : Option Addr) (n C : Nat) (X : List ByteArray) (A' : Option Addr) (n' C' : Nat) (Y : List ByteArray) (ep nx : Int) (ua : Option Addr) (un uc : Nat) (l : List UE) (ha : Option Addr) (hn hc : Nat) (hs : List Hd) : Prop where
  box : BoxN W b 32 [.slice A n C, .slice A' n' C', .int .i64 ep, .int .i64 nx, .slice ua un uc, .slice ha hn hc]
  zero : BoxN W w.heap.size 32 [.slice none 0 0, .slice none 0 0, .int .i64 0, .int .i64 0, .slice none 0 0, .slice none 0 0]
  sv : SvAt W (w.heap.size + 1) A n C X A' n' C' Y ua un uc l ha hn hc hs
  cur : Cur W B c a len cap zs
  grown : w.grownBy W (some c)
  sgv : SGV k X Y ep nx (l.map UE.u) hs
  clo : c < w.heap.size
  low : w.heap.size < b

section
variable {w W W' : World} {B c : Nat} {a : Option Addr} {len cap : Nat} {zs : List Int} {b : Nat} {k k2 : Int} {A : Option Addr} {n C : Nat} {X : List ByteArray} {A' : Option Addr} {n' C' : Nat} {Y : List ByteArray} {ep nx : Int} {ua : Option Addr} {un uc : Nat} {l : List UE} {ha : Option Addr} {hn hc : Nat} {hs : List Hd} {A2 : Option Addr} {n2 C2 : Nat} {X2 : List ByteArray} {A2' : Option Addr} {n2' C2' : Nat} {Y2 : List ByteArray} {ep2 nx2 : Int} {ua2 : Option Addr} {un2 uc2 : Nat} {l2 : List UE} {ha2 : Option Addr} {hn2 hc2 : Nat} {hs2 : List Hd}

theorem DSv.call (h : DSv w W B c a len cap zs b k A n C X A' n' C' Y ep nx ua un uc l ha hn hc hs) (hc' : Cur W' B c a len cap zs) (hg : W.grownBy W' (some c)) : DSv w W' B c a len cap zs b k A n C X A' n' C' Y ep nx ua un uc l ha hn hc hs := by
  have h1 := h.clo
  have h2 := h.low
  exact ⟨h.box.grown hg (fun e => by injection e with e; omega), h.zero.grown hg (fun e => by injection e with e; omega), h.sv.moved hg (by omega), hc', gtrans h.grown hg, h.sgv, h.clo, h.low⟩

theorem DSv.stays (h : DSv w W B c a len cap zs b k A n C X A' n' C' Y ep nx ua un uc l ha hn hc hs) (hb : Below W.heap.size W W') : DSv w W' B c a len cap zs b k A n C X A' n' C' Y ep nx ua un uc l ha hn hc hs :=
  ⟨h.box.stays hb, h.zero.stays hb, h.sv.stays hb, h.cur.kept (gbelow hb none) (by simp), gtrans h.grown (gbelow hb _), h.sgv, h.clo, h.low⟩

theorem DSv.new (h : DSv w W B c a len cap zs b k A n C X A' n' C' Y ep nx ua un uc l ha hn hc hs) (o : Obj) : DSv w (W.alloc o) B c a len cap zs b k A n C X A' n' C' Y ep nx ua un uc l ha hn hc hs := h.stays ((Below.refl _ _).alloc (Nat.le_refl _) _)

theorem DSv.more (h : DSv w W B c a len cap zs b k A n C X A' n' C' Y ep nx ua un uc l ha hn hc hs) (hk : k ≤ k2) : DSv w W B c a len cap zs b k2 A n C X A' n' C' Y ep nx ua un uc l ha hn hc hs := ⟨h.box, h.zero, h.sv, h.cur, h.grown, h.sgv.more hk, h.clo, h.low⟩

/-- A cell of another variable is written. -/
theorem DSv.far (h : DSv w W B c a len cap zs b k A n C X A' n' C' Y ep nx ua un uc l ha hn hc hs) {q i : Nat} {t : TypeId} {vs : List Value} (hq : BoxN W q t vs) (hqb : b < q) (u : Value) (h0 : t ≠ 9 := by decide) (h1 : t ≠ 64 := by decide) (h2 : t ≠ 5 := by decide) (h3 : t ≠ 54 := by decide) : DSv w (W.setCell ⟨q, i, none⟩ u) B c a len cap zs b k A n C X A' n' C' Y ep nx ua un uc l ha hn hc hs := by
  have k1 := h.clo
  have k2 := h.low
  exact ⟨h.box.other (by omega) _, h.zero.other (by omega) _, h.sv.setBox hq u h0 h1 h2 h3, h.cur.put (by omega) _, gput h.grown (by omega) _, h.sgv, h.clo, h.low⟩

theorem DSv.put (h : DSv w W B c a len cap zs b k A n C X A' n' C' Y ep nx ua un uc l ha hn hc hs) (hs' : SvAt W (w.heap.size + 1) A2 n2 C2 X2 A2' n2' C2' Y2 ua2 un2 uc2 l2 ha2 hn2 hc2 hs2) (hsg : SGV k2 X2 Y2 ep2 nx2 (l2.map UE.u) hs2) :
    DSv w ((((((W.setCell ⟨b, 0, none⟩ (.slice A2 n2 C2)).setCell ⟨b, 1, none⟩ (.slice A2' n2' C2')).setCell ⟨b, 2, none⟩ (.int .i64 ep2)).setCell ⟨b, 3, none⟩ (.int .i64 nx2)).setCell ⟨b, 4, none⟩ (.slice ua2 un2 uc2)).setCell ⟨b, 5, none⟩ (.slice ha2 hn2 hc2)) B c a len cap zs b k2 A2 n2 C2 X2 A2' n2' C2' Y2 ep2 nx2 ua2 un2 uc2 l2 ha2 hn2 hc2 hs2 := by
  have h1 := h.clo
  have h2 := h.low
  have b0 := h.box
  have b1 := b0.set 0 (.slice A2 n2 C2)
  have b2 := b1.set 1 (.slice A2' n2' C2')
  have b3 := b2.set 2 (.int .i64 ep2)
  have b4 := b3.set 3 (.int .i64 nx2)
  have b5 := b4.set 4 (.slice ua2 un2 uc2)
  have b6 := b5.set 5 (.slice ha2 hn2 hc2)
  exact ⟨b6, ((((((h.zero.other (by omega) _).other (by omega) _).other (by omega) _).other (by omega) _).other (by omega) _).other (by omega) _), ((((((hs'.setBox b0 _).setBox b1 _).setBox b2 _).setBox b3 _).setBox b4 _).setBox b5 _), ((((((h.cur.put (by omega) _).put (by omega) _).put (by omega) _).put (by omega) _).put (by omega) _).put (by omega) _), gput (gput (gput (gput (gput (gput h.grown (by omega) _) (by omega) _) (by omega) _) (by omega) _) (by omega) _) (by omega) _, hsg, h1, h2⟩

/-- The server is laid into the answer. -/
theorem DSv.done (h : DSv w W B c a len cap zs b k A n C X A' n' C' Y ep nx ua un uc l ha hn hc hs) : DrawnV w.heap.size k (.agg #[.slice A n C, .slice A' n' C', .int .i64 ep, .int .i64 nx, .slice ua un uc, .slice ha hn hc]) ((((((W.setCell ⟨w.heap.size, 0, none⟩ (.slice A n C)).setCell ⟨w.heap.size, 1, none⟩ (.slice A' n' C')).setCell ⟨w.heap.size, 2, none⟩ (.int .i64 ep)).setCell ⟨w.heap.size, 3, none⟩ (.int .i64 nx)).setCell ⟨w.heap.size, 4, none⟩ (.slice ua un uc)).setCell ⟨w.heap.size, 5, none⟩ (.slice ha hn hc)) ∧ Cur ((((((W.setCell ⟨w.heap.size, 0, none⟩ (.slice A n C)).setCell ⟨w.heap.size, 1, none⟩ (.slice A' n' C')).setCell ⟨w.heap.size, 2, none⟩ (.int .i64 ep)).setCell ⟨w.heap.size, 3, none⟩ (.int .i64 nx)).setCell ⟨w.heap.size, 4, none⟩ (.slice ua un uc)).setCell ⟨w.heap.size, 5, none⟩ (.slice ha hn hc)) B c a len cap zs ∧ w.grownBy ((((((W.setCell ⟨w.heap.size, 0, none⟩ (.slice A n C)).setCell ⟨w.heap.size, 1, none⟩ (.slice A' n' C')).setCell ⟨w.heap.size, 2, none⟩ (.int .i64 ep)).setCell ⟨w.heap.size, 3, none⟩ (.int .i64 nx)).setCell ⟨w.heap.size, 4, none⟩ (.slice ua un uc)).setCell ⟨w.heap.size, 5, none⟩ (.slice ha hn hc)) (some c) := by
  have h1 := h.clo
  have h2 := h.low
  have b0 := h.zero
  have b1 := b0.set 0 (.slice A n C)
  have b2 := b1.set 1 (.slice A' n' C')
  have b3 := b2.set 2 (.int .i64 ep)
  have b4 := b3.set 3 (.int .i64 nx)
  have b5 := b4.set 4 (.slice ua un uc)
  exact ⟨SvAt.drawn (((((((h.sv.setBox b0 _).setBox b1 _).setBox b2 _).setBox b3 _).setBox b4 _).setBox b5 _).low (by omega)) h.sgv, ((((((h.cur.put (by omega) _).put (by omega) _).put (by omega) _).put (by omega) _).put (by omega) _).put (by omega) _), gput (gput (gput (gput (gput (gput h.grown (by omega) _) (by omega) _) (by omega) _) (by omega) _) (by omega) _) (by omega) _⟩
/-- Another server is laid into another variable. -/
theorem DSv.box6 (h : DSv w W B c a len cap zs b k A n C X A' n' C' Y ep nx ua un uc l ha hn hc hs) {q lo2 : Nat} {v0 v1 v2 v3 v4 v5 : Value} (hz : BoxN W q 32 [v0, v1, v2, v3, v4, v5] ∧ b < q) (hs' : SvAt W lo2 A2 n2 C2 X2 A2' n2' C2' Y2 ua2 un2 uc2 l2 ha2 hn2 hc2 hs2) (ep2 nx2 : Int) :
    DSv w ((((((W.setCell ⟨q, 0, none⟩ (.slice A2 n2 C2)).setCell ⟨q, 1, none⟩ (.slice A2' n2' C2')).setCell ⟨q, 2, none⟩ (.int .i64 ep2)).setCell ⟨q, 3, none⟩ (.int .i64 nx2)).setCell ⟨q, 4, none⟩ (.slice ua2 un2 uc2)).setCell ⟨q, 5, none⟩ (.slice ha2 hn2 hc2)) B c a len cap zs b k A n C X A' n' C' Y ep nx ua un uc l ha hn hc hs ∧ SvAt ((((((W.setCell ⟨q, 0, none⟩ (.slice A2 n2 C2)).setCell ⟨q, 1, none⟩ (.slice A2' n2' C2')).setCell ⟨q, 2, none⟩ (.int .i64 ep2)).setCell ⟨q, 3, none⟩ (.int .i64 nx2)).setCell ⟨q, 4, none⟩ (.slice ua2 un2 uc2)).setCell ⟨q, 5, none⟩ (.slice ha2 hn2 hc2)) lo2 A2 n2 C2 X2 A2' n2' C2' Y2 ua2 un2 uc2 l2 ha2 hn2 hc2 hs2 ∧ BoxN ((((((W.setCell ⟨q, 0, none⟩ (.slice A2 n2 C2)).setCell ⟨q, 1, none⟩ (.slice A2' n2' C2')).setCell ⟨q, 2, none⟩ (.int .i64 ep2)).setCell ⟨q, 3, none⟩ (.int .i64 nx2)).setCell ⟨q, 4, none⟩ (.slice ua2 un2 uc2)).setCell ⟨q, 5, none⟩ (.slice ha2 hn2 hc2)) q 32 [.slice A2 n2 C2, .slice A2' n2' C2', .int .i64 ep2, .int .i64 nx2, .slice ua2 un2 uc2, .slice ha2 hn2 hc2] := by
  obtain ⟨b0, hp⟩ := hz
  have b1 := b0.set 0 (.slice A2 n2 C2)
  have b2 := b1.set 1 (.slice A2' n2' C2')
  have b3 := b2.set 2 (.int .i64 ep2)
  have b4 := b3.set 3 (.int .i64 nx2)
  have b5 := b4.set 4 (.slice ua2 un2 uc2)
  have b6 := b5.set 5 (.slice ha2 hn2 hc2)
  exact ⟨(((((h.far b0 hp _).far b1 hp _).far b2 hp _).far b3 hp _).far b4 hp _).far b5 hp _, (((((hs'.setBox b0 _).setBox b1 _).setBox b2 _).setBox b3 _).setBox b4 _).setBox b5 _, b6⟩

/-- Where the server stands is as it was. -/
theorem DSv.far6 (h : DSv w W B c a len cap zs b k A n C X A' n' C' Y ep nx ua un uc l ha hn hc hs) {q : Nat} {vs : List Value} (hz : BoxN W q 32 vs ∧ b < q) (v0 v1 v2 v3 v4 v5 : Value) : DSv w ((((((W.setCell ⟨q, 0, none⟩ (v0)).setCell ⟨q, 1, none⟩ (v1)).setCell ⟨q, 2, none⟩ (v2)).setCell ⟨q, 3, none⟩ (v3)).setCell ⟨q, 4, none⟩ (v4)).setCell ⟨q, 5, none⟩ (v5)) B c a len cap zs b k A n C X A' n' C' Y ep nx ua un uc l ha hn hc hs := by
  obtain ⟨b0, hp⟩ := hz
  have b1 := b0.set 0 v0
  have b2 := b1.set 1 v1
  have b3 := b2.set 2 v2
  have b4 := b3.set 3 v3
  have b5 := b4.set 4 v4
  exact (((((h.far b0 hp v0).far b1 hp v1).far b2 hp v2).far b3 hp v3).far b4 hp v4).far b5 hp v5

theorem DSv.new6 (h : DSv w W B c a len cap zs b k A n C X A' n' C' Y ep nx ua un uc l ha hn hc hs) {lo2 : Nat} (hs' : SvAt W lo2 A2 n2 C2 X2 A2' n2' C2' Y2 ua2 un2 uc2 l2 ha2 hn2 hc2 hs2) (ep2 nx2 : Int) :
    DSv w (W.alloc (.cells #[.slice A2 n2 C2, .slice A2' n2' C2', .int .i64 ep2, .int .i64 nx2, .slice ua2 un2 uc2, .slice ha2 hn2 hc2] 32)) B c a len cap zs b k A n C X A' n' C' Y ep nx ua un uc l ha hn hc hs ∧ SvAt (W.alloc (.cells #[.slice A2 n2 C2, .slice A2' n2' C2', .int .i64 ep2, .int .i64 nx2, .slice ua2 un2 uc2, .slice ha2 hn2 hc2] 32)) lo2 A2 n2 C2 X2 A2' n2' C2' Y2 ua2 un2 uc2 l2 ha2 hn2 hc2 hs2 ∧ BoxN (W.alloc (.cells #[.slice A2 n2 C2, .slice A2' n2' C2', .int .i64 ep2, .int .i64 nx2, .slice ua2 un2 uc2, .slice ha2 hn2 hc2] 32)) W.heap.size 32 [.slice A2 n2 C2, .slice A2' n2' C2', .int .i64 ep2, .int .i64 nx2, .slice ua2 un2 uc2, .slice ha2 hn2 hc2] :=
  ⟨h.new _, hs'.stays ((Below.refl _ _).alloc (Nat.le_refl _) _), BoxN.new _ _ _⟩
end

end Go.Proofs.YtlkgopoicpnacaaGreatDoor

namespace Go.Proofs.YtlkgopoicpnacaaGreatDoor
open Go.RowKit
set_option linter.unusedVariables false

/-- An append, and where its row lies. -/
theorem appB_run (w : World) (base : Nat) (ty : TypeId) (a : Option Addr) (n c : Nat) (zs : List Int) (hown : Owns w base a n c zs) (x : Value) (m : Nat) (ys : List Int) (hs : Src Tryz.prog 1 22 x m (ys.map (Value.int .u8)) w) (hy : ∀ y ∈ ys, 0 ≤ y ∧ y ≤ 255) (h63 : n + m ≤ 17592186044416) (hbase : base ≤ w.heap.size) :
    ∃ A C w', (Builtin.append_ #[22, 22] ty #[.slice a n c, x]).run Tryz.prog w = .ok (.slice A (n + m) C) w' ∧ Owns w' base A (n + m) C (zs ++ ys) ∧ w.grownBy w' (a.map (·.block)) ∧ (A.map (·.block) = a.map (·.block) ∨ ∀ q, A.map (·.block) = some q → w.heap.size ≤ q) := by
  obtain ⟨j0, ji, jz0, jz1, jz2⟩ := info_parts Tryz.info5
  have hr : ∀ x ∈ zs ++ ys, 0 ≤ x ∧ x ≤ 255 := fun x hx => by
    rcases List.mem_append.1 hx with h | h
    · exact hown.2 x h
    · exact hy x h
  have hl2 := hs.newsLen
  rcases hown.1.2 with ⟨h0, hn0⟩ | ⟨g, cap', cur, he, hb, hg, hn, hmx, hc, htk⟩
  · injection h0 with e1 e2 e3
    subst e1 e2 e3
    obtain rfl : zs = [] := by have := hown.1.1; simpa using this
    by_cases hm : m = 0
    · subst hm
      obtain rfl : ys = [] := by simpa using hl2
      refine ⟨none, 0, w, ?_, ⟨⟨rfl, .inl ⟨rfl, rfl⟩⟩, by simp⟩, ⟨rfl, rfl, rfl, Nat.le_refl _, fun _ _ _ => rfl⟩, .inl rfl⟩
      have hs' : Src Tryz.prog j0.size 22 x 0 [] w := by rw [jz1]; exact hs
      simp [Builtin.append_, run_underlying Tryz.underlying22, sizeOf, typeInfo, ji, hs'.len, hs'.cells]
    · have hs' : Src Tryz.prog j0.size 22 x m (ys.map (Value.int .u8)) w := by rw [jz1]; exact hs
      have hrr := run_append_grow_src (P := Tryz.prog) w 22 22 ty 5 j0 _ Tryz.underlying22 ji jz0 none 0 0 [] (run_firstCells_none w.drew j0.size 0 0 0) x m (ys.map (Value.int .u8)) hs' (by omega) (by omega) (growslice_fits (by omega) (by rw [jz2]; omega))
      have hge := grownCap_ge w (0 + m) 0 5
      have hcm' : grownCap w (0 + m) 0 5 ≤ maxLen := grownCap_le_maxLen w (0 + m) 0 _ (by unfold maxLen; omega)
      refine ⟨_, _, _, hrr, ⟨⟨by rw [List.nil_append, hl2]; omega, .inr ⟨w.heap.size, _, _, rfl, hbase, heap_alloc_new w.drew _, hge, hcm', ?_, ?_⟩⟩, hr⟩, ⟨rfl, rfl, rfl, by simp, fun k hk _ => heap_alloc_old w.drew _ hk⟩, .inr (fun q hq => by injection hq with hq; exact Nat.le_of_eq hq)⟩
      · simp only [Array.size_append, List.size_toArray, List.nil_append, size_zeroCells, hl2]
        show m * 1 + (_ - _) * 1 = _
        omega
      · simp only [Array.toList_append, List.nil_append]
        have : (0 + m) * 1 = (ys.map (Value.int .u8)).length := by rw [hl2]; omega
        rw [this]
        exact List.take_left
  · injection he with e1 e2 e3
    subst e1 e3
    obtain ⟨g', c', w', hrr, ho', hg', hw⟩ := run_append_loc (P := Tryz.prog) w base 22 22 ty 5 j0 _ 1 1 Tryz.underlying22 ji jz0 jz1 jz2 rfl (by decide) g n c (zs.map (Value.int .u8)) hown.1 x m (ys.map (Value.int .u8)) hs (by unfold maxLen; omega) (by omega) hbase
    refine ⟨some ⟨g', 0, none⟩, c', w', hrr, ⟨by rw [List.map_append]; exact ho', hr⟩, hg', ?_⟩
    rcases hw with rfl | rfl
    · exact .inl rfl
    · exact .inr (fun q hq => by injection hq with hq; exact Nat.le_of_eq hq)

end Go.Proofs.YtlkgopoicpnacaaGreatDoor

namespace Go.Proofs.YtlkgopoicpnacaaGreatDoor
open Go.RowKit
set_option linter.unusedVariables false

set_option maxRecDepth 10000 in
set_option maxHeartbeats 1600000 in
theorem specUpAt_any (a : Option Addr) (n ca : Nat) (a' : Option Addr) (n' ca' : Nat) (ep nx : Int) (ua : Option Addr) (un uc lo : Nat) (l : List UE) (id : ByteArray) (w : World) (hu : UpRow w lo (.slice ua un uc) l) (hun : un = l.length) (hul : un ≤ 1099511627776) (hz : ∀ e ∈ l, e.n ≤ 1099511627776) :
    Calls Tryz.prog 55 #[.agg #[.slice a n ca, .slice a' n' ca', .int .i64 ep, .int .i64 nx, .slice ua un uc], .string id] w fun e w' => AnsU w.heap.size (l.map UE.u) id e w' ∧ Below w.heap.size w w' := by
  obtain ⟨w0, hw0⟩ : ∃ w0, (w.alloc (.cells #[.slice a n ca, .slice a' n' ca', .int .i64 ep, .int .i64 nx, .slice ua un uc] 29)).alloc (.cells #[.string ⟨#[]⟩, .int .i64 0, .slice none 0 0, .bool false] 64) = w0 := ⟨_, rfl⟩
  have HE : Hid ((w.alloc (.cells #[.slice a n ca, .slice a' n' ca', .int .i64 ep, .int .i64 nx, .slice ua un uc] 29)).alloc (.cells #[.string ⟨#[]⟩, .int .i64 0, .slice none 0 0, .bool false] 64) = w0) := hw0
  have HB : Hid (Below w.heap.size w w0) := by show Below _ _ _; rw [← hw0]; exact ((Below.refl _ _).alloc (Nat.le_refl _) _).alloc (by simp) _
  have HQ : Hid (BoxN w0 w.heap.size 29 [.slice a n ca, .slice a' n' ca', .int .i64 ep, .int .i64 nx, .slice ua un uc]) := by show BoxN _ _ _ _; rw [← hw0]; exact (BoxN.new _ _ _).alloc _
  have HR : Hid (BoxN w0 (w.heap.size + 1) 64 [.string ⟨#[]⟩, .int .i64 0, .slice none 0 0, .bool false]) := by
    show BoxN _ _ _ _
    rw [← hw0]
    have := BoxN.new (w.alloc (.cells #[.slice a n ca, .slice a' n' ca', .int .i64 ep, .int .i64 nx, .slice ua un uc] 29)) 64 [.string ⟨#[]⟩, .int .i64 0, .slice none 0 0, .bool false]
    rw [World.size_alloc] at this
    exact this
  have HU : Hid (UpRow w0 lo (.slice ua un uc) l) := hu.stays HB.out
  have HN : Hid (un = l.length) := hun
  have HZ : Hid (∀ e ∈ l, e.n ≤ 1099511627776) := hz
  have hwl : w.heap.size + 1 < w0.heap.size := HR.out.lt
  clear hw0 hu hun hz
  have c4 := HQ.out.cell 4 rfl
  have HC : Hid (Calls Tryz.prog 80 #[.slice ua un uc, .string id] w0 fun e w' => e = .returned (.int .i64 (atI (l.map UE.u) id)) ∧ w' = w0) := specAtU_any ua un uc lo id l w0 HU.out HN.out hul
  have a0 := HR.out.cell 0 rfl
  have a1 := HR.out.cell 1 rfl
  have a2 := HR.out.cell 2 rfl
  have a3 := HR.out.cell 3 rfl
  have f0 := HR.out.frozen 0
  have f1 := HR.out.frozen 1
  have f2 := HR.out.frozen 2
  have f3 := HR.out.frozen 3
  cases hk : atU (l.map UE.u) id with
  | none =>
    have hi : atI (l.map UE.u) id = -1 := by rw [atI, hk]
    rw [hi] at HC
    have HG : Hid (gotU (l.map UE.u) id = ⟨⟨#[]⟩, 0, [], false⟩ ∧ atU (l.map UE.u) id = none) := ⟨gotU_none hk, hk⟩
    clear hi hk
    go_enter Tryz.func55, Tryz.ntmps55
    go_upto_region 1 with fail
    rw [HE.out]
    clear HE
    go_wp2_with fail
    refine HC.out.mono ?_
    rintro _ w0 ⟨rfl, rfl⟩
    go_wp2_with fail
    refine bodyPost_ret (v := .tuple #[.agg #[.string ⟨#[]⟩, .int .i64 0, .slice none 0 0, .bool false], .bool false]) (by simp [results, Tryz.f55, go_sem, a0, a1, a2, a3]) rfl ?_
    refine ⟨⟨none, 0, ?_, ?_⟩, ?_⟩
    · rw [HG.out.1, HG.out.2]; rfl
    · rw [HG.out.1]; exact owns_nil _ _
    · exact (((HB.out.setCell (by dsimp only; omega) _).setCell (by dsimp only; omega) _).setCell (by dsimp only; omega) _).setCell (by dsimp only; omega) _
  | some k =>
    have hi : atI (l.map UE.u) id = (k : Int) := by rw [atI, hk]
    have hkl : k < l.length := by simpa using (atU_is hk).1
    rw [hi] at HC
    have HG : Hid (gotU (l.map UE.u) id = (l[k]).u ∧ atU (l.map UE.u) id = some k) := ⟨gotU_some hk hkl, hk⟩
    obtain ⟨g, hg, g0, g1, g2, g3, _⟩ := HU.out.at HN.out hkl
    subst hg
    have HOx : Hid (Owns w0 lo (l[k]).a (l[k]).n (l[k]).c (l[k]).u.zs) := HU.out.2.1 _ (List.getElem_mem hkl)
    have hzk : (l[k]).n ≤ 1099511627776 := HZ.out _ (List.getElem_mem hkl)
    have hku : k < un := by have := HN.out; omega
    have hki : (k : Int) < (un : Int) := by omega
    have hk0 : (0 : Int) ≤ (k : Int) := by omega
    clear hi hk
    generalize l[k] = x at *
    go_enter Tryz.func55, Tryz.ntmps55
    go_upto_region 1 with fail
    rw [HE.out]
    clear HE
    go_wp2_with fail
    refine HC.out.mono ?_
    rintro _ w0 ⟨rfl, rfl⟩
    go_upto_region 5 with fail
    obtain ⟨w1, hw1⟩ : ∃ w1, w0.alloc (.cells #[.string x.u.id, .int .i64 x.u.want, .slice x.a x.n x.c, .bool x.u.done] 64) = w1 := ⟨_, rfl⟩
    have hb1 : Below w0.heap.size w0 w1 := by rw [← hw1]; exact (Below.refl _ _).alloc (Nat.le_refl _) _
    have hq1 : BoxN w1 w0.heap.size 64 [.string x.u.id, .int .i64 x.u.want, .slice x.a x.n x.c, .bool x.u.done] := by rw [← hw1]; exact BoxN.new _ _ _
    rw [hw1]
    clear hw1
    obtain ⟨w2, hw2⟩ : ∃ w2, w1.alloc (.cells #[] 5) = w2 := ⟨_, rfl⟩
    have HE2 : Hid (w1.alloc (.cells #[] 5) = w2) := hw2
    have hb2 : Below w1.heap.size w1 w2 := by rw [← hw2]; exact (Below.refl _ _).alloc (Nat.le_refl _) _
    have hlit : Owns w2 w1.heap.size (some ⟨w1.heap.size, 0, none⟩) 0 0 [] := by rw [← hw2]; exact ⟨World.ownsRow_lit w1 #[] 0 (Nat.le_refl _) (Nat.zero_le _) rfl, by simp⟩
    have hsg : Seg w2 x.a x.n x.u.zs := (HOx.out.seg.below hb1).below hb2
    obtain ⟨A, C, w3, hr, ho3, hg3, hw3⟩ := appB_run w2 w1.heap.size 22 (some ⟨w1.heap.size, 0, none⟩) 0 0 [] hlit (.slice x.a x.n x.c) x.n x.u.zs hsg.src hsg.2.1 (by omega) hb2.size
    have hq2 := hq1.stays hb2
    have hwq : w0.heap.size < w1.heap.size := hq1.lt
    have hq3 : BoxN w3 w0.heap.size 64 [.string x.u.id, .int .i64 x.u.want, .slice x.a x.n x.c, .bool x.u.done] := hq2.grown hg3 (fun e => by simp at e; omega)
    have hr3 : BoxN w3 (w.heap.size + 1) 64 [.string ⟨#[]⟩, .int .i64 0, .slice none 0 0, .bool false] := ((HR.out.stays hb1).stays hb2).grown hg3 (fun e => by simp at e; omega)
    rw [Nat.zero_add, List.nil_append] at ho3
    have hr0 := hr
    rw [Nat.zero_add] at hr0
    have HB3 : Hid (Below w.heap.size w w3) := ((HB.out.trans (hb1.mono HB.out.size)).trans (hb2.mono (by have := HB.out.size; have := hb1.size; omega))).grown hg3 (by have := HB.out.size; have := hb1.size; have := hb2.size; omega) (fun q e => by simp at e; omega)
    have HO3 : Hid (Owns w3 (w0.heap.size + 1) A x.n C x.u.zs) := ho3.low (by omega)
    have hLn : x.u.zs.length = x.n := hsg.1
    have u2 := hq2.cell 2 rfl
    have b0 := hq3.cell 0 rfl
    have b1 := hq3.cell 1 rfl
    have b2 := hq3.cell 2 rfl
    have b3 := hq3.cell 3 rfl
    have z2 := hq3.frozen 2
    clear a0 a1 a2 a3 f0 f1 f2 f3
    have a0 := hr3.cell 0 rfl
    have a1 := hr3.cell 1 rfl
    have a2 := hr3.cell 2 rfl
    have a3 := hr3.cell 3 rfl
    have f0 := hr3.frozen 0
    have f1 := hr3.frozen 1
    have f2 := hr3.frozen 2
    have f3 := hr3.frozen 3
    rw [← hw2] at hr0 u2
    clear hr hw2 hb2 hlit hsg hq1 hq2 hq3 hr3 ho3 hg3 hw3
    go_wp2_with (at_builtin; refine Lib.wpList_append_run _ rfl _ _ _ _ rfl _ _ rfl rfl _ _ hr0 ?_)
    have hne1 : w0.heap.size ≠ w.heap.size + 1 := by omega
    have hA1 : A.map (·.block) ≠ some w0.heap.size := fun e => by have := (HO3.out.lt _ e).1; omega
    have hA2 : A.map (·.block) ≠ some (w.heap.size + 1) := fun e => by have := (HO3.out.lt _ e).1; omega
    go_wp2_with fail
    refine bodyPost_ret (v := .tuple #[.agg #[.string x.u.id, .int .i64 x.u.want, .slice A x.n C, .bool x.u.done], .bool true]) (by simp [results, Tryz.f55, go_sem, a0, a1, a2, a3]) rfl ?_
    refine ⟨⟨A, C, ?_, ?_⟩, ?_⟩
    · rw [HG.out.1, HG.out.2, hLn]; rfl
    · rw [HG.out.1, hLn]
      exact (owns_set (owns_set (owns_set (owns_set (owns_set HO3.out hA1) hA2) hA2) hA2) hA2).low (by omega)
    · exact ((((HB3.out.setCell (by dsimp only; omega) _).setCell (by dsimp only; omega) _).setCell (by dsimp only; omega) _).setCell (by dsimp only; omega) _).setCell (by dsimp only; omega) _

end Go.Proofs.YtlkgopoicpnacaaGreatDoor
