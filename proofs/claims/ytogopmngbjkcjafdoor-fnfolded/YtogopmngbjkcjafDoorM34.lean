/- What lasts of a store that was made sure, with records written since, behind any crash. No program in it. What is opened, made sure, fallen and opened again has the same uploads; what records made is right. No program in it. The test that lets greater arguments pass. -/
import Derived.Test.YtogopmngbjkcjafDoorM12
import Derived.Test.YtogopmngbjkcjafDoorM31
import Derived.Test.YtogopmngbjkcjafDoorM01
namespace Go.Proofs.YtogopmngbjkcjafDoor
open Go.RowKit
set_option linter.unusedVariables false

/-- A scan looks no farther than the first sector that does not follow. -/
theorem scan_prefix : ∀ (Z F : List ByteArray) (i : Nat) (last : Int), F.length = Z.length → (∀ k, k ≤ (scanFrom i last Z).length → F[k]? = Z[k]?) → scanFrom i last F = scanFrom i last Z
  | [], F, i, last, hl, _ => by
    have : F = [] := List.length_eq_zero_iff.1 hl
    rw [this]
  | z :: Z, [], i, last, hl, _ => by simp at hl
  | z :: Z, f :: F, i, last, hl, h => by
    have h0 : f = z := by have := h 0 (Nat.zero_le _); simpa using this
    subst h0
    rw [scanFrom, scanFrom]
    cases hn : nextR i last f with
    | none => rfl
    | some r =>
      dsimp only
      congr 1
      refine scan_prefix Z F (i + 1) r.e (by simpa using hl) (fun k hk => ?_)
      have := h (k + 1) (by rw [scanFrom, hn]; simpa using hk)
      simpa using this

theorem wroteX_low {ep : Int} : ∀ (rs : List R) (X : List ByteArray) (nx i : Nat), i < nx → (wroteX X ep nx rs)[i]? = X[i]?
  | [], X, nx, i, _ => rfl
  | r :: rs, X, nx, i, h => by rw [wroteX, wroteX_low rs _ (nx + 1) i (by omega), List.getElem?_set_ne (by omega)]

theorem wroteX_high {ep : Int} : ∀ (rs : List R) (X : List ByteArray) (nx i : Nat), nx + rs.length ≤ i → (wroteX X ep nx rs)[i]? = X[i]?
  | [], X, nx, i, _ => rfl
  | r :: rs, X, nx, i, h => by rw [List.length_cons] at h; rw [wroteX, wroteX_high rs _ (nx + 1) i (by omega), List.getElem?_set_ne (by omega)]

theorem wroteX_mid {ep : Int} : ∀ (rs : List R) (X : List ByteArray) (nx j : Nat) (r : R), rs[j]? = some r → nx + j < X.length → (wroteX X ep nx rs)[nx + j]? = some (txU (r.at ep (nx + j)).put)
  | [], X, nx, j, r, h, _ => by simp at h
  | x :: rs, X, nx, 0, r, h, hl => by
    obtain rfl : x = r := by simpa using h
    rw [wroteX, wroteX_low rs _ (nx + 1) (nx + 0) (by omega)]
    rw [Nat.add_zero] at hl ⊢
    rw [List.getElem?_set_self hl]
  | x :: rs, X, nx, j + 1, r, h, hl => by
    have := wroteX_mid (ep := ep) rs (X.set nx (txU (x.at ep nx).put)) (nx + 1) j r (by simpa using h) (by rw [List.length_set]; omega)
    rw [show nx + 1 + j = nx + (j + 1) by omega] at this
    rw [wroteX]
    exact this

theorem first_diff (P : Nat → Prop) : ∀ m, ∃ j, j ≤ m ∧ (∀ i, i < j → P i) ∧ (j = m ∨ ¬ P j)
  | 0 => ⟨0, Nat.le_refl _, fun i h => by omega, .inl rfl⟩
  | m + 1 => by
    obtain ⟨j, h1, h2, h3⟩ := first_diff P m
    rcases h3 with rfl | h3
    · by_cases h : P j
      · exact ⟨j + 1, Nat.le_refl _, fun i hi => (Nat.lt_succ_iff_lt_or_eq.1 hi).elim (h2 i) (fun e => e ▸ h), .inl rfl⟩
      · exact ⟨j, by omega, h2, .inr h⟩
    · exact ⟨j, by omega, h2, .inr h3⟩

theorem fall_or {xs ys : List ByteArray} (ks : List Bool) (hl : xs.length = ys.length) (k : Nat) : (fallL xs ys ks)[k]? = xs[k]? ∨ (fallL xs ys ks)[k]? = ys[k]? := by
  by_cases hk : k < xs.length
  · have h := fallL_at (ks := ks) (List.getElem?_eq_getElem hk) (List.getElem?_eq_getElem (show k < ys.length by omega))
    rw [h]
    split
    · left; rw [List.getElem?_eq_getElem hk]
    · right; rw [List.getElem?_eq_getElem (show k < ys.length by omega)]
  · left
    rw [List.getElem?_eq_none (by rw [fallL_len]; omega), List.getElem?_eq_none (by omega)]

theorem foldlM_take {rs : List R} {us us' : List U} (h : rs.foldlM oneU us = some us') (j : Nat) : ∃ u1, (rs.take j).foldlM oneU us = some u1 := by
  have e : rs = rs.take j ++ rs.drop j := (List.take_append_drop j rs).symm
  rw [e, List.foldlM_append] at h
  cases h1 : (rs.take j).foldlM oneU us with
  | none => rw [h1] at h; cases h
  | some u1 => exact ⟨u1, rfl⟩

/-- Behind a crash there is what was sure, and a beginning of what was written since. -/
theorem dur {k : Int} {X : List ByteArray} {ep nx : Int} {us us2 : List U} {rs : List R} (h : SG k X X ep nx us) (hk : k < 10000) (hr : ∀ r ∈ rs, idB r.id.data.toList = true ∧ kindB r.k r.n r.zs.length = true ∧ ∀ x ∈ r.zs, 0 ≤ x ∧ x ≤ 255) (hl : nx + (rs.length : Int) ≤ (X.length : Int)) (hf : rs.foldlM oneU us = some us2) (ks : List Bool) :
    ∃ j, j ≤ rs.length ∧ ∃ usj, (rs.take j).foldlM oneU us = some usj ∧ ∃ e n, openO (fallX (wroteX X ep nx.toNat rs) X ks) (fallY (wroteX X ep nx.toNat rs) X ks) = some (e, n, usj) := by
  obtain ⟨he, h0, hnX, h200⟩ := h.ok.nums
  obtain ⟨X2, hX2⟩ : ∃ X2, wroteX X ep nx.toNat rs = X2 := ⟨_, rfl⟩
  have hlen : X2.length = X.length := by rw [← hX2, wroteX_len]
  have hok2 : SOk X2 X ep (nx + (rs.length : Int)) us2 := by rw [← hX2]; exact wrote_ok h.ok hr hl hf
  rw [hX2]
  obtain ⟨e1, e2⟩ := fall_same ks hok2.1
  rw [e1, e2]
  obtain ⟨F, hF⟩ : ∃ F, fallL X2 X ks = F := ⟨_, rfl⟩
  have hFl : F.length = X.length := by rw [← hF, fallL_len, hlen]
  have hor : ∀ i, F[i]? = X2[i]? ∨ F[i]? = X[i]? := fun i => by rw [← hF]; exact fall_or ks hlen i
  obtain ⟨N, hN⟩ : ∃ N, nx.toNat = N := ⟨_, rfl⟩
  rw [hN] at hX2
  obtain ⟨j, hj, hsame, hstop⟩ := first_diff (fun i => F[N + i]? = X2[N + i]?) rs.length
  obtain ⟨usj, huj⟩ := foldlM_take hf j
  refine ⟨j, hj, usj, huj, ?_⟩
  have htl : (rs.take j).length = j := by rw [List.length_take]; omega
  have hokZ : SOk (wroteX X ep nx.toNat (rs.take j)) X ep (nx + ((rs.take j).length : Int)) usj := wrote_ok h.ok (fun r hr' => hr r (List.mem_of_mem_take hr')) (by omega) huj
  rw [hN, htl] at hokZ
  obtain ⟨Z, hZ⟩ : ∃ Z, wroteX X ep N (rs.take j) = Z := ⟨_, rfl⟩
  rw [hZ] at hokZ
  have hZl : Z.length = X.length := by rw [← hZ, wroteX_len]
  have hsc : (scanR Z).length = N + j := by have := hokZ.2.2.2.1; omega
  have hscan : scanR F = scanR Z := by
    refine scan_prefix Z F 0 0 (by omega) (fun i hi => ?_)
    have hi2 : i ≤ N + j := by rw [← hsc]; exact hi
    by_cases h1 : i < N
    · have a1 : Z[i]? = X[i]? := by rw [← hZ]; exact wroteX_low _ _ _ _ h1
      have a2 : X2[i]? = X[i]? := by rw [← hX2]; exact wroteX_low _ _ _ _ h1
      rcases hor i with h2 | h2
      · rw [h2, a1, a2]
      · rw [h2, a1]
    · obtain ⟨p, rfl⟩ : ∃ p, i = N + p := ⟨i - N, by omega⟩
      by_cases h2 : p < j
      · rw [hsame p h2]
        have hp : p < rs.length := by omega
        have a1 : X2[N + p]? = some (txU (rs[p].at ep (N + p)).put) := by rw [← hX2]; exact wroteX_mid rs X N p _ (List.getElem?_eq_getElem hp) (by omega)
        have a2 : Z[N + p]? = some (txU (rs[p].at ep (N + p)).put) := by rw [← hZ]; exact wroteX_mid (rs.take j) X N p _ (by rw [List.getElem?_take, if_pos h2, List.getElem?_eq_getElem hp]) (by omega)
        rw [a1, a2]
      · obtain rfl : p = j := by omega
        have a1 : Z[N + p]? = X[N + p]? := by rw [← hZ]; exact wroteX_high _ _ _ _ (by rw [htl]; omega)
        rw [a1]
        rcases hstop with h3 | h3
        · have a2 : X2[N + p]? = X[N + p]? := by rw [← hX2]; exact wroteX_high _ _ _ _ (by omega)
          rcases hor (N + p) with h4 | h4
          · rw [h4, a2]
          · exact h4
        · rcases hor (N + p) with h4 | h4
          · exact absurd h4 h3
          · exact h4
  have hmem : ∀ x ∈ F, x ∈ X2 ∨ x ∈ X := fun x hx => by rw [← hF] at hx; exact fallL_mem hlen hx
  have hd2 := okD_iff.1 hok2.1
  have hokF : okD F F = true := okD_iff.2 ⟨rfl, by omega, fun x hx => (hmem x hx).elim (hd2.2.2.1 x) (hd2.2.2.2 x), fun x hx => (hmem x hx).elim (hd2.2.2.1 x) (hd2.2.2.2 x)⟩
  have hfo : foldU (scanR F) = some usj := by rw [hscan]; exact hokZ.2.2.1
  have hX2e : ∀ x ∈ X2, ∀ r, recOf x = some r → r.e ≤ ep := fun x hx r hrx => by
    rw [← hX2] at hx
    rcases wroteX_memq hx with hx | ⟨r', hr', q, hq, rfl⟩
    · exact (h.recs x (.inl hx) r hrx).1
    · have h3 := hr r' hr'
      rw [recOf_put hrx h3.2.2 (at_ok h3.1 h3.2.1 he (by omega))]
      exact Int.le_refl _
  have htop : topE F ≤ ep := topE_le (by omega) (fun x hx r hrx => (hmem x hx).elim (fun h5 => hX2e x h5 r hrx) (fun h5 => (h.recs x (.inl h5) r hrx).1))
  have hfew := h.few
  exact ⟨_, _, by rw [hF, openO, hokF, hfo]; dsimp only; rw [if_neg (by omega)]⟩

/-- In rising order each is found by its name. -/
theorem asc_at {l : List U} (h : Asc l) {p : Nat} {u : U} (hu : l[p]? = some u) : atU l u.id = some p := by
  obtain ⟨hp, rfl⟩ := List.getElem?_eq_some_iff.1 hu
  exact atU_some hp rfl (fun j hj hlt => asc_ne h hj hp hlt)

/-- Names of what records made are names of records. -/
theorem fold_ids {P : ByteArray → Prop} {rs : List R} : ∀ {us us' : List U}, (∀ u ∈ us, P u.id) → (∀ r ∈ rs, P r.id) → rs.foldlM oneU us = some us' → ∀ u ∈ us', P u.id := by
  induction rs with
  | nil => intro us us' h1 _ h; obtain rfl : us = us' := by simpa using h
           exact h1
  | cons r rs ih =>
    intro us us' h1 hr h
    rw [List.foldlM_cons] at h
    cases ho : oneU us r with
    | none => rw [ho] at h; cases h
    | some u1 =>
      rw [ho] at h
      exact ih (oneU_each (P := fun u => P u.id) ho h1 (fun _ => hr r (List.mem_cons_self ..)) (fun u hu _ _ _ => hu) (fun u hu _ _ => hu)) (fun x hx => hr x (List.mem_cons_of_mem _ hx)) h

theorem SG.ids {k : Int} {X Y : List ByteArray} {ep nx : Int} {us : List U} (h : SG k X Y ep nx us) : ∀ u ∈ us, u.id ≠ newId := by
  refine fold_ids (P := fun i => i ≠ newId) (us := []) (by simp) (fun r hr => ?_) h.ok.2.2.1
  obtain ⟨i, hi, rfl⟩ := List.getElem_of_mem hr
  obtain ⟨⟨x, hx, hrx⟩, _⟩ := scan_one (X := X) (k := i) (List.getElem?_eq_getElem hi)
  exact (h.recs x (.inl (List.mem_of_getElem? hx)) _ hrx).2

/-- What stands in a row of uploads stands there when one is put in. -/
theorem makeU_mem {l : List U} {v u : U} (h : u ∈ l) : u ∈ makeU l v := by
  rw [makeU]
  rw [← List.take_append_drop (insK l v.id l.length) l] at h
  rcases List.mem_append.1 h with h | h
  · exact List.mem_append.2 (.inl h)
  · exact List.mem_append.2 (.inr (List.mem_cons_of_mem _ h))

theorem makeU_new {l : List U} {v : U} : v ∈ makeU l v := List.mem_append.2 (.inr (List.mem_cons_self ..))

/-- The upload that is made. -/
def newU : U := ⟨newId, 30, [], false⟩

theorem SOk.asc {X Y : List ByteArray} {ep nx : Int} {us : List U} (h : SOk X Y ep nx us) : Asc us := foldU_asc h.2.2.1

/-- What lasts of the uploads. -/
structure Lasts (us usj us2 : List U) : Prop where
  least : us.length ≤ usj.length
  most : usj.length ≤ us2.length
  same : ∀ u ∈ us, ∃ p, atU usj u.id = some p ∧ usj[p]? = some u
  news : ∀ p v, atU usj newId = some p → usj[p]? = some v → v.zs.length = 0 ∨ v.zs.length = 24 ∨ v.zs.length = 30

theorem lasts_nothing {us us2 : List U} (ha : Asc us) (hi : ∀ u ∈ us, u.id ≠ newId) (hl : us.length ≤ us2.length) : Lasts us us us2 := by
  refine ⟨Nat.le_refl _, hl, fun u hu => ?_, fun p v hp hv => ?_⟩
  · obtain ⟨p, hp, rfl⟩ := List.getElem_of_mem hu
    exact ⟨p, asc_at ha (List.getElem?_eq_getElem hp), List.getElem?_eq_getElem hp⟩
  · obtain ⟨hpl, h⟩ := atU_is hp
    exact absurd h (hi _ (List.getElem_mem hpl))

theorem lasts_some {us us2 : List U} {zs : List Int} (hz : zs.length = 30) (ha : Asc us) (ha1 : Asc (makeU us newU)) (hi : ∀ u ∈ us, u.id ≠ newId) {kk : Nat} (hk : (makeU us newU)[kk]? = some newU) (i : Nat) (hi2 : i ≤ 2) (hl : us2.length = us.length + 1) : Lasts us (putU (makeU us newU) kk newU zs i) us2 := by
  have hkk : atU (makeU us newU) newId = some kk := asc_at (u := newU) ha1 hk
  have hv : ({ newU with zs := newU.zs ++ zs.take (24 * i) } : U).id = newU.id := rfl
  have hlen : (putU (makeU us newU) kk newU zs i).length = us.length + 1 := by rw [putU, List.length_set, makeU_len]
  have ha2 : Asc (putU (makeU us newU) kk newU zs i) := asc_set ha1 hk hv
  refine ⟨by omega, by omega, fun u hu => ?_, fun p v hp hv2 => ?_⟩
  · obtain ⟨p, hp, he⟩ := List.getElem_of_mem (makeU_mem (v := newU) hu)
    have hp' : (makeU us newU)[p]? = some u := by rw [List.getElem?_eq_getElem hp, he]
    have hne : kk ≠ p := fun e => by
      subst e
      rw [hk] at hp'
      injection hp' with hp'
      exact hi u hu (by rw [← hp']; rfl)
    have h3 : (putU (makeU us newU) kk newU zs i)[p]? = some u := by rw [putU, List.getElem?_set_ne hne, hp']
    exact ⟨p, asc_at ha2 h3, h3⟩
  · have h4 : atU (putU (makeU us newU) kk newU zs i) newId = some kk := atU_set hkk hk hv
    rw [h4] at hp
    injection hp with hp
    subst hp
    have hkl : kk < (makeU us newU).length := (List.getElem?_eq_some_iff.1 hk).1
    rw [putU, List.getElem?_set_self hkl] at hv2
    injection hv2 with hv2
    subst hv2
    have hl9 : ({ newU with zs := newU.zs ++ zs.take (24 * i) } : U).zs.length = min (24 * i) 30 := by
      show (([] : List Int) ++ zs.take (24 * i)).length = _
      rw [List.nil_append, List.length_take, hz]
    rw [hl9]
    have : i = 0 ∨ i = 1 ∨ i = 2 := by omega
    rcases this with rfl | rfl | rfl
    · left; rfl
    · right; left; rfl
    · right; right; rfl

/-- Of a store made sure, with an upload made since and something put into it: what is there behind any crash. -/
theorem durable {k : Int} {X : List ByteArray} {ep nx : Int} {us : List U} (h : SG k X X ep nx us) (hk : k < 10000) (ks : List Bool) {zs : List Int} (hz : zs.length = 30) (hb : ∀ x ∈ zs, 0 ≤ x ∧ x ≤ 255) {A1 A2 : WA} (h1 : makeA X X ep nx us newId 30 = A1) (h2 : putA A1.X X ep A1.nx A1.us newId 0 zs = A2) :
    okD A2.X X = true ∧ ∃ e n usj, openO (fallX A2.X X ks) (fallY A2.X X ks) = some (e, n, usj) ∧ Lasts us usj A2.us := by
  have ha := h.ok.asc
  have hids := h.ids
  by_cases hc : A1.c = 0
  · have hc' : (makeA X X ep nx us newId 30).c = 0 := by rw [h1]; exact hc
    obtain ⟨_, hkd, hl, us', hf, he⟩ := makeA_yes hc'
    have hat : atU us newId = none := atU_none (fun p hp => hids _ (List.getElem_mem hp))
    have hone : oneU us (makeR newId 30) = some us' := by
      rw [List.foldlM_cons] at hf
      cases ho : oneU us (makeR newId 30) with
      | none => rw [ho] at hf; cases hf
      | some u1 => rw [ho] at hf; simpa using hf
    have hus' : us' = makeU us newU := by
      rw [oneU, if_pos (show (makeR newId 30).k = 1 from rfl)] at hone
      split at hone
      · injection hone with hone; exact hone.symm
      · cases hone
    have ha1 : Asc us' := oneU_asc ha hone
    subst hus'
    obtain ⟨kk, hkl, hke⟩ := List.getElem_of_mem (makeU_new (l := us) (v := newU))
    have hkk : (makeU us newU)[kk]? = some newU := by rw [List.getElem?_eq_getElem hkl, hke]
    have hA1 : A1 = ⟨wroteX X ep nx.toNat [makeR newId 30], nx + 1, makeU us newU, 0⟩ := by rw [← h1, he]
    have hgm : idB newId.data.toList = true ∧ kindB 1 30 0 = true ∧ ∀ x ∈ ([] : List Int), 0 ≤ x ∧ x ≤ 255 := ⟨hkd.1, hkd.2, by simp⟩
    by_cases hc2 : A2.c = 0
    · have hc2' : (putA A1.X X ep A1.nx A1.us newId 0 zs).c = 0 := by rw [h2]; exact hc2
      obtain ⟨hso1, hid, hzl, k2, u2, h4, h5, h6, h7, h8, h9, hf2, he2⟩ := putA_yes hc2'
      rw [hA1] at hso1 h4 h5 h9 hf2 he2
      dsimp only at hso1 h4 h5 h9 hf2 he2
      have e1 : atU (makeU us newU) newId = some kk := asc_at (u := newU) ha1 hkk
      rw [e1] at h4
      injection h4 with h4
      subst h4
      rw [hkk] at h5
      injection h5 with h5
      subst h5
      have hA2 : A2 = ⟨wroteX X ep nx.toNat (makeR newId 30 :: dataRs newId 0 zs), nx + 1 + (pcs zs.length : Int), putU (makeU us newU) kk newU zs (pcs zs.length), 0⟩ := by
        rw [← h2, hA1]
        dsimp only
        rw [he2]
        have e9 : (nx + 1).toNat = nx.toNat + 1 := by have := h.ok.nums; omega
        rw [e9]
        rfl
      have hgood : ∀ r ∈ makeR newId 30 :: dataRs newId 0 zs, idB r.id.data.toList = true ∧ kindB r.k r.n r.zs.length = true ∧ ∀ x ∈ r.zs, 0 ≤ x ∧ x ≤ 255 := by
        intro r hr
        rcases List.mem_cons.1 hr with rfl | hr
        · exact hgm
        · exact dataRs_ok hid (by omega) (by omega) hb r hr
      have hfold : (makeR newId 30 :: dataRs newId 0 zs).foldlM oneU us = some (putU (makeU us newU) kk newU zs (pcs zs.length)) := by rw [List.foldlM_cons, hone]; exact hf2
      have hll : nx + ((makeR newId 30 :: dataRs newId 0 zs).length : Int) ≤ (X.length : Int) := by
        rw [List.length_cons, dataRs_len]
        rw [wroteX_len] at h9
        omega
      rw [hA2]
      refine ⟨(wrote_ok h.ok hgood hll hfold).1, ?_⟩
      obtain ⟨j, hj, usj, huj, e, n, ho⟩ := dur h hk hgood hll hfold ks
      refine ⟨e, n, usj, ho, ?_⟩
      have hfin : (putU (makeU us newU) kk newU zs (pcs zs.length)).length = us.length + 1 := by rw [putU, List.length_set, makeU_len]
      cases j with
      | zero =>
        obtain rfl : us = usj := by simpa using huj
        exact lasts_nothing ha hids (by dsimp only; omega)
      | succ i =>
        rw [List.take_succ_cons, List.foldlM_cons, hone] at huj
        have hi2 : i ≤ pcs zs.length := by rw [List.length_cons, dataRs_len] at hj; omega
        have huj2 : ((dataRs newId 0 zs).take i).foldlM oneU (makeU us newU) = some usj := huj
        rw [dataRs_take _ _ _ hi2, put_fold (off := 0) e1 hkk rfl rfl h8 i hi2] at huj2
        injection huj2 with huj2
        rw [← huj2]
        refine lasts_some hz ha ha1 hids hkk i ?_ (by dsimp only; omega)
        rw [hz] at hi2
        exact hi2
    · have hA2 : A2 = ⟨A1.X, A1.nx, A1.us, A2.c⟩ := by
        have := putA_no (X := A1.X) (Y := X) (ep := ep) (nx := A1.nx) (us := A1.us) (id := newId) (off := 0) (zs := zs) (by rw [h2]; exact hc2)
        rw [h2] at this
        exact this
      have hgood : ∀ r ∈ [makeR newId 30], idB r.id.data.toList = true ∧ kindB r.k r.n r.zs.length = true ∧ ∀ x ∈ r.zs, 0 ≤ x ∧ x ≤ 255 := fun r hr => by rw [List.mem_singleton.1 hr]; exact hgm
      have eX : A2.X = wroteX X ep nx.toNat [makeR newId 30] := by rw [hA2, hA1]
      have eU : A2.us = makeU us newU := by rw [hA2, hA1]
      rw [eX, eU]
      refine ⟨(wrote_ok h.ok hgood hl hf).1, ?_⟩
      obtain ⟨j, hj, usj, huj, e, n, ho⟩ := dur h hk hgood hl hf ks
      refine ⟨e, n, usj, ho, ?_⟩
      have hfin : (makeU us newU).length = us.length + 1 := makeU_len _ _
      cases j with
      | zero =>
        obtain rfl : us = usj := by simpa using huj
        exact lasts_nothing ha hids (by omega)
      | succ i =>
        have hi0 : i = 0 := by simp at hj; omega
        subst hi0
        rw [List.take_succ_cons, List.foldlM_cons, hone] at huj
        obtain rfl : makeU us newU = usj := by simpa using huj
        have := lasts_some (us2 := makeU us newU) hz ha ha1 hids hkk 0 (by omega) hfin
        rw [putU_zero hkk] at this
        exact this
  · have hA1 : A1 = ⟨X, nx, us, A1.c⟩ := by
      have := makeA_no (X := X) (Y := X) (ep := ep) (nx := nx) (us := us) (id := newId) (want := 30) (by rw [h1]; exact hc)
      rw [h1] at this
      exact this
    have hat : atU us newId = none := atU_none (fun p hp => hids _ (List.getElem_mem hp))
    have hc2 : A2.c ≠ 0 := fun hc2 => by
      have hc2' : (putA A1.X X ep A1.nx A1.us newId 0 zs).c = 0 := by rw [h2]; exact hc2
      obtain ⟨_, _, _, k2, u2, h4, _⟩ := putA_yes hc2'
      rw [hA1] at h4
      dsimp only at h4
      rw [hat] at h4
      cases h4
    have hA2 : A2 = ⟨A1.X, A1.nx, A1.us, A2.c⟩ := by
      have := putA_no (X := A1.X) (Y := X) (ep := ep) (nx := A1.nx) (us := A1.us) (id := newId) (off := 0) (zs := zs) (by rw [h2]; exact hc2)
      rw [h2] at this
      exact this
    have eX : A2.X = wroteX X ep nx.toNat [] := by rw [hA2, hA1]; rfl
    have eU : A2.us = us := by rw [hA2, hA1]
    rw [eX, eU]
    refine ⟨h.ok.1, ?_⟩
    obtain ⟨j, hj, usj, huj, e, n, ho⟩ := dur (rs := []) h hk (by simp) (by have := h.ok.nums; simp; omega) rfl ks
    refine ⟨e, n, usj, ho, ?_⟩
    obtain rfl : us = usj := by simpa using huj
    exact lasts_nothing ha hids (Nat.le_refl _)

end Go.Proofs.YtogopmngbjkcjafDoor

namespace Go.Proofs.YtogopmngbjkcjafDoor
open Go.RowKit
set_option linter.unusedVariables false

theorem fallL_self (X : List ByteArray) (ks : List Bool) : fallL X X ks = X := by
  apply List.ext_getElem?
  intro k
  by_cases hk : k < X.length
  · have h := fallL_at (ks := ks) (List.getElem?_eq_getElem hk) (List.getElem?_eq_getElem hk)
    rw [h, List.getElem?_eq_getElem hk]
    split <;> rfl
  · rw [List.getElem?_eq_none (by rw [fallL_len]; omega), List.getElem?_eq_none (by omega)]

theorem okD_self {X Y : List ByteArray} (h : okD X Y = true) : okD X X = true := by
  have hd := okD_iff.1 h
  exact okD_iff.2 ⟨rfl, hd.2.1, hd.2.2.1, hd.2.2.1⟩

/-- Opened again it is the same. -/
theorem reopened {X Y : List ByteArray} {ep : Int} {nx : Nat} {us : List U} (h : openO X Y = some (ep, nx, us)) (ks : List Bool) : openO (fallX X X ks) (fallY X X ks) = some (ep, nx, us) := by
  have hok : okD X Y = true := (open_ok h).1.1
  obtain ⟨e1, e2⟩ := fall_same ks (okD_self hok)
  rw [e1, e2, fallL_self]
  rw [openO] at h ⊢
  rw [hok] at h
  rw [okD_self hok]
  exact h

/-- What records made rises, and none has more than it wants. -/
theorem folded {rs : List R} {us : List U} (h : foldU rs = some us) (hr : ∀ r ∈ rs, r.k = 1 → 0 ≤ r.n) : Asc us ∧ (∀ u ∈ us, u.fit) ∧ us.length ≤ 10 ∧ ∀ j, ∃ u1, foldU (rs.take j) = some u1 :=
  ⟨foldU_asc h, foldlM_fit (us := []) (by simp) hr h, foldlM_len (us := []) (by simp) h, fun j => foldlM_take h j⟩

end Go.Proofs.YtogopmngbjkcjafDoor

namespace Go.Proofs.YtogopmngbjkcjafDoor
open Go.RowKit
set_option linter.unusedVariables false

set_option maxHeartbeats 400000 in
theorem big_any (a : Option Addr) (len cap : Nat) (w : World) (hl : len ≤ maxLen) :
    Calls Tryd.prog 4 #[.slice a len cap] w fun e w' => e = .returned (.bool (decide ((1048576 : Int) < (len : Int)))) ∧ w' = w := by
  go_enter Tryd.func4, Tryd.ntmps4
  go_wp2
  go_ret
  exact ⟨rfl, rfl⟩

end Go.Proofs.YtogopmngbjkcjafDoor
