/- What PutUp writes, piece by piece, and what it answers; no program in it. What PutUp answers, said as the program goes; no program in it. Uploads of a right store fit: no program in it but where UFit is said. A loop over an iterator of one's own, also one that keeps a variable of its own between two rounds: what holds where the loop begins (Ib), ahead of a round (I0), behind it (I1), where it was left (Ix), and where the iterator ended by itself (Ie), all over a state that I choose. No program in it. -/
import Derived.Test.YtammmecddnafaaaGreatDoorM19
import Derived.Test.YtammmecddnafaaaGreatDoorP01
import Derived.Test.YtammmecddnafaaaGreatDoorM12
import Derived.Test.YtammmecddnafaaaGreatDoorM30
import Derived.Test.YtammmecddnafaaaGreatDoorM17
import Derived.RangeFuncBox
import Derived.RangeFuncLeaves
import Derived.RangeFuncNested
namespace Go.Proofs.YtammmecddnafaaaGreatDoor
open Go.RowKit
set_option linter.unusedVariables false

/-- How many pieces. -/
def pcs (n : Nat) : Nat := (n + 23) / 24

/-- The record of a piece. -/
def dataR (id : ByteArray) (off : Int) (zs : List Int) (i : Nat) : R := ⟨0, 0, 2, id, off + ((24 * i : Nat) : Int), (zs.drop (24 * i)).take 24⟩
def dataRs (id : ByteArray) (off : Int) (zs : List Int) : List R := (List.range (pcs zs.length)).map (dataR id off zs)

theorem dataRs_len (id : ByteArray) (off : Int) (zs : List Int) : (dataRs id off zs).length = pcs zs.length := by simp [dataRs]

theorem dataRs_take (id : ByteArray) (off : Int) (zs : List Int) {j : Nat} (h : j ≤ pcs zs.length) : (dataRs id off zs).take j = (List.range j).map (dataR id off zs) := by
  rw [dataRs, ← List.map_take, List.take_range, Nat.min_eq_left h]

/-- The uploads behind j pieces. -/
def putU (us : List U) (k : Nat) (u : U) (zs : List Int) (j : Nat) : List U := us.set k { u with zs := u.zs ++ zs.take (24 * j) }

theorem atU_ids {l m : List U} {id : ByteArray} (h : l.map U.id = m.map U.id) : atU l id = atU m id := by
  have e : ∀ l : List U, atU l id = (l.map U.id).findIdx? (fun i => decide (i = id)) := fun l => by rw [List.findIdx?_map]; rfl
  rw [e l, e m, h]

theorem atU_set {us : List U} {id : ByteArray} {k : Nat} {u v : U} (h : atU us id = some k) (hu : us[k]? = some u) (hv : v.id = u.id) : atU (us.set k v) id = some k := by
  have hid : (us.set k v).map U.id = us.map U.id := by
    rw [List.map_set]
    apply List.ext_getElem?
    intro i
    rw [List.getElem?_set]
    split
    · rename_i he
      subst he
      have hk : k < us.length := (List.getElem?_eq_some_iff.1 hu).1
      rw [List.length_map, if_pos hk, List.getElem?_map, hu, hv]
      rfl
    · rfl
  rw [atU_ids hid]
  exact h

theorem putU_step {us : List U} {id : ByteArray} {k : Nat} {u : U} {off : Int} {zs : List Int} (h : atU us id = some k) (hu : us[k]? = some u) (hd : u.done = false) (ho : off = (u.zs.length : Int)) (hw : off + (zs.length : Int) ≤ u.want) (j : Nat) (hj : j < pcs zs.length) :
    oneU (putU us k u zs j) (dataR id off zs j) = some (putU us k u zs (j + 1)) := by
  have hk : k < us.length := (List.getElem?_eq_some_iff.1 hu).1
  have hjl : 24 * j < zs.length := by unfold pcs at hj; omega
  have h1 : atU (putU us k u zs j) id = some k := atU_set h hu rfl
  have h2 : (putU us k u zs j)[k]? = some { u with zs := u.zs ++ zs.take (24 * j) } := by rw [putU, List.getElem?_set_self hk]
  unfold oneU dataR
  dsimp only
  rw [if_neg (by decide), h1]
  dsimp only
  rw [h2]
  dsimp only
  rw [if_pos rfl, if_neg]
  · rw [putU, putU, List.set_set]
    congr 2
    rw [List.append_assoc]
    congr 2
    rw [show 24 * (j + 1) = 24 * j + 24 by omega, List.take_add]
  · rw [hd, List.length_append, List.length_take, List.length_take, List.length_drop, Nat.min_eq_left (Nat.le_of_lt hjl)]
    simp only [Bool.false_eq_true, false_or, not_or, Decidable.not_not, Int.not_lt]
    refine ⟨by rw [ho]; simp, ?_⟩
    have : min 24 (zs.length - 24 * j) ≤ zs.length - 24 * j := Nat.min_le_right _ _
    omega

theorem putU_zero {us : List U} {k : Nat} {u : U} {zs : List Int} (hu : us[k]? = some u) : putU us k u zs 0 = us := by
  rw [putU]
  simp only [Nat.mul_zero, List.take_zero, List.append_nil]
  apply List.ext_getElem?
  intro i
  rw [List.getElem?_set]
  split
  · rename_i he
    subst he
    rw [if_pos (List.getElem?_eq_some_iff.1 hu).1, hu]
  · rfl

theorem put_fold {us : List U} {id : ByteArray} {k : Nat} {u : U} {off : Int} {zs : List Int} (h : atU us id = some k) (hu : us[k]? = some u) (hd : u.done = false) (ho : off = (u.zs.length : Int)) (hw : off + (zs.length : Int) ≤ u.want) : ∀ j, j ≤ pcs zs.length → ((List.range j).map (dataR id off zs)).foldlM oneU us = some (putU us k u zs j)
  | 0, _ => by rw [putU_zero hu]; rfl
  | j + 1, hj => by
    rw [List.range_succ, List.map_append, List.foldlM_append, put_fold h hu hd ho hw j (by omega)]
    show (some (putU us k u zs j) : Option (List U)).bind (fun l => [dataR id off zs j].foldlM oneU l) = _
    rw [Option.bind_some, List.foldlM_cons, putU_step h hu hd ho hw j (by omega)]
    rfl

/-- What PutUp answers. -/
noncomputable def putA (X Y : List ByteArray) (ep nx : Int) (us : List U) (id : ByteArray) (off : Int) (zs : List Int) : WA :=
  if decB (SOk X Y ep nx us) = true ∧ idB id.data.toList = true ∧ 1 ≤ zs.length ∧ zs.length ≤ 400 then
    match atU us id with
    | none => ⟨X, nx, us, 2⟩
    | some k => match us[k]? with
      | none => ⟨X, nx, us, 2⟩
      | some u =>
        if u.done = true ∨ off ≠ (u.zs.length : Int) ∨ u.want < off + (zs.length : Int) then ⟨X, nx, us, 4⟩
        else if (X.length : Int) - nx < (pcs zs.length : Int) then ⟨X, nx, us, 5⟩ else wroteA X ep nx us (dataRs id off zs)
  else ⟨X, nx, us, 1⟩

/-- The numbers of uploads that records made. -/
theorem foldlM_want {rs : List R} : ∀ {us us' : List U}, (∀ u ∈ us, 0 ≤ u.want ∧ u.want ≤ 1000000000) → (∀ r ∈ rs, r.ok = true) → rs.foldlM oneU us = some us' → ∀ u ∈ us', 0 ≤ u.want ∧ u.want ≤ 1000000000 := by
  induction rs with
  | nil => intro us us' h1 _ h; obtain rfl : us = us' := by simpa using h
           exact h1
  | cons r rs ih =>
    intro us us' h1 hr h
    rw [List.foldlM_cons] at h
    cases ho : oneU us r with
    | none => rw [ho] at h; cases h
    | some u1 =>
      rw [ho] at h
      refine ih (fun u hu => ?_) (fun x hx => hr x (List.mem_cons_of_mem _ hx)) h
      have hrn := okRec_iff (hr r (List.mem_cons_self ..))
      rw [oneU] at ho
      split at ho
      · split at ho
        · injection ho with ho
          subst ho
          rcases List.mem_append.1 hu with h | h
          · exact h1 u (List.mem_of_mem_take h)
          · rcases List.mem_cons.1 h with rfl | h
            · exact hrn.2.2.2.2.1
            · exact h1 u (List.mem_of_mem_drop h)
        · cases ho
      · split at ho
        · cases ho
        · split at ho
          · cases ho
          · rename_i k _ x hx
            have hxl := h1 x (List.mem_of_getElem? hx)
            split at ho
            · split at ho
              · cases ho
              · injection ho with ho
                subst ho
                rcases List.mem_or_eq_of_mem_set hu with h | rfl
                · exact h1 u h
                · exact hxl
            · split at ho
              · split at ho
                · cases ho
                · injection ho with ho
                  subst ho
                  rcases List.mem_or_eq_of_mem_set hu with h | rfl
                  · exact h1 u h
                  · exact hxl
              · split at ho
                · injection ho with ho
                  subst ho
                  exact h1 u (List.mem_of_mem_eraseIdx hu)
                · cases ho

theorem SOk.wants {X Y : List ByteArray} {ep nx : Int} {us : List U} (h : SOk X Y ep nx us) : ∀ u ∈ us, 0 ≤ u.want ∧ u.want ≤ 1000000000 :=
  foldlM_want (us := []) (by simp) (fun r hr => scan_allok X r hr) h.2.2.1

/-- One more record that is written. -/
theorem wroteX_next {X : List ByteArray} {ep : Int} {nx : Nat} {rs : List R} {k : Nat} {r : R} (h : rs[k]? = some r) : wroteX X ep nx (rs.take (k + 1)) = (wroteX X ep nx (rs.take k)).set (nx + k) (txU (r.at ep (nx + k)).put) := by
  have hk : k < rs.length := (List.getElem?_eq_some_iff.1 h).1
  rw [List.take_add_one, h]
  show wroteX X ep nx (rs.take k ++ [r]) = _
  rw [wroteX_snoc, List.length_take, Nat.min_eq_left (by omega)]

theorem dataRs_at (id : ByteArray) (off : Int) (zs : List Int) {j : Nat} (h : j < pcs zs.length) : (dataRs id off zs)[j]? = some (dataR id off zs j) := by
  rw [dataRs, List.getElem?_map, List.getElem?_range h]
  rfl

end Go.Proofs.YtammmecddnafaaaGreatDoor

namespace Go.Proofs.YtammmecddnafaaaGreatDoor
open Go.RowKit
set_option linter.unusedVariables false

section
variable {X Y : List ByteArray} {ep nx : Int} {us : List U} {id : ByteArray} {off : Int} {zs : List Int}

theorem putA_no (h : (putA X Y ep nx us id off zs).c ≠ 0) : putA X Y ep nx us id off zs = ⟨X, nx, us, (putA X Y ep nx us id off zs).c⟩ := by
  unfold putA at h ⊢
  by_cases h1 : decB (SOk X Y ep nx us) = true ∧ idB id.data.toList = true ∧ 1 ≤ zs.length ∧ zs.length ≤ 400
  · rw [if_pos h1] at h ⊢
    cases ha : atU us id with
    | none => rfl
    | some k =>
      rw [ha] at h
      dsimp only at h ⊢
      cases hu : us[k]? with
      | none => rfl
      | some u =>
        rw [hu] at h
        dsimp only at h ⊢
        by_cases h2 : u.done = true ∨ off ≠ (u.zs.length : Int) ∨ u.want < off + (zs.length : Int)
        · rw [if_pos h2]
        · rw [if_neg h2] at h ⊢
          by_cases h3 : (X.length : Int) - nx < (pcs zs.length : Int)
          · rw [if_pos h3]
          · rw [if_neg h3] at h
            exact absurd rfl h
  · rw [if_neg h1]

theorem putA_yes (h : (putA X Y ep nx us id off zs).c = 0) : SOk X Y ep nx us ∧ idB id.data.toList = true ∧ (1 ≤ zs.length ∧ zs.length ≤ 400) ∧ ∃ k u, atU us id = some k ∧ us[k]? = some u ∧ u.done = false ∧ off = (u.zs.length : Int) ∧ off + (zs.length : Int) ≤ u.want ∧ nx + (pcs zs.length : Int) ≤ (X.length : Int) ∧ (dataRs id off zs).foldlM oneU us = some (putU us k u zs (pcs zs.length)) ∧ putA X Y ep nx us id off zs = ⟨wroteX X ep nx.toNat (dataRs id off zs), nx + (pcs zs.length : Int), putU us k u zs (pcs zs.length), 0⟩ := by
  by_cases h1 : decB (SOk X Y ep nx us) = true ∧ idB id.data.toList = true ∧ 1 ≤ zs.length ∧ zs.length ≤ 400
  case neg => unfold putA at h; rw [if_neg h1] at h; cases h
  refine ⟨decB_of h1.1, h1.2.1, h1.2.2, ?_⟩
  unfold putA at h
  rw [if_pos h1] at h
  cases ha : atU us id with
  | none => rw [ha] at h; cases h
  | some k =>
    rw [ha] at h
    dsimp only at h
    cases hu : us[k]? with
    | none => rw [hu] at h; cases h
    | some u =>
      rw [hu] at h
      dsimp only at h
      by_cases h2 : u.done = true ∨ off ≠ (u.zs.length : Int) ∨ u.want < off + (zs.length : Int)
      case pos => rw [if_pos h2] at h; cases h
      rw [if_neg h2] at h
      by_cases h3 : (X.length : Int) - nx < (pcs zs.length : Int)
      case pos => rw [if_pos h3] at h; cases h
      have hd : u.done = false := by cases hd : u.done with
        | false => rfl
        | true => exact absurd (.inl hd) h2
      have ho : off = (u.zs.length : Int) := by
        by_cases h9 : off = (u.zs.length : Int)
        · exact h9
        · exact absurd (.inr (.inl h9)) h2
      have hw : off + (zs.length : Int) ≤ u.want := by
        by_cases h9 : u.want < off + (zs.length : Int)
        · exact absurd (.inr (.inr h9)) h2
        · omega
      have hf : (dataRs id off zs).foldlM oneU us = some (putU us k u zs (pcs zs.length)) := put_fold ha hu hd ho hw _ (Nat.le_refl _)
      refine ⟨k, u, rfl, hu, hd, ho, hw, by omega, hf, ?_⟩
      unfold putA
      rw [if_pos h1, ha]
      dsimp only
      rw [hu]
      dsimp only
      rw [if_neg h2, if_neg h3, wroteA, hf, dataRs_len]
      rfl

theorem put_forC (hl : 1 ≤ zs.length ∧ zs.length ≤ 400) (h : forC X Y ep nx us id ≠ 0) : (putA X Y ep nx us id off zs).c = forC X Y ep nx us id := by
  rw [forC] at h ⊢
  unfold putA
  by_cases h1 : decB (SOk X Y ep nx us) = true ∧ idB id.data.toList = true
  · rw [if_pos ⟨h1.1, h1.2, hl⟩]
    rw [if_pos h1] at h ⊢
    by_cases h2 : atU us id = none
    · rw [if_pos h2, h2]
    · rw [if_neg h2] at h; exact absurd rfl h
  · rw [if_neg (fun h9 => h1 ⟨h9.1, h9.2.1⟩), if_neg h1]

theorem put_form (hl : ¬ (1 ≤ zs.length ∧ zs.length ≤ 400)) : (putA X Y ep nx us id off zs).c = 1 := by
  unfold putA
  rw [if_neg (fun h => hl h.2.2)]

theorem put_at {k : Nat} {u : U} (h1 : SOk X Y ep nx us) (h2 : idB id.data.toList = true) (h3 : 1 ≤ zs.length ∧ zs.length ≤ 400) (h4 : atU us id = some k) (h5 : us[k]? = some u) :
    (putA X Y ep nx us id off zs).c = if u.done = true ∨ off ≠ (u.zs.length : Int) ∨ u.want < off + (zs.length : Int) then 4 else if (X.length : Int) - nx < (pcs zs.length : Int) then 5 else 0 := by
  unfold putA
  rw [if_pos ⟨decB_true h1, h2, h3⟩, h4]
  dsimp only
  rw [h5]
  dsimp only
  split
  · rfl
  · split <;> rfl

/-- The records of pieces are right ones. -/
theorem dataRs_ok (hi : idB id.data.toList = true) (h0 : 0 ≤ off) (h1 : off + (zs.length : Int) ≤ 1000000000) (hz : ∀ x ∈ zs, 0 ≤ x ∧ x ≤ 255) : ∀ r ∈ dataRs id off zs, idB r.id.data.toList = true ∧ kindB r.k r.n r.zs.length = true ∧ ∀ x ∈ r.zs, 0 ≤ x ∧ x ≤ 255 := by
  intro r hr
  obtain ⟨i, hi', rfl⟩ := List.mem_map.1 hr
  have hi2 := List.mem_range.1 hi'
  have hil : 24 * i < zs.length := by unfold pcs at hi2; omega
  refine ⟨hi, ?_, fun x hx => hz x (List.mem_of_mem_drop (List.mem_of_mem_take hx))⟩
  show kindB 2 (off + ((24 * i : Nat) : Int)) ((zs.drop (24 * i)).take 24).length = true
  rw [kindB, if_neg (by decide), if_pos rfl, List.length_take, List.length_drop, decide_eq_true (show 0 ≤ off + ((24 * i : Nat) : Int) ∧ off + ((24 * i : Nat) : Int) ≤ 1000000000 by omega), decide_eq_true (show 1 ≤ min 24 (zs.length - 24 * i) ∧ min 24 (zs.length - 24 * i) ≤ 24 by omega)]
  rfl

theorem putA_sz (h1 : X.length ≤ 1048576) (h2 : us.length ≤ 1048576) (h3 : ∀ u ∈ us, u.zs.length ≤ 1048576) : (putA X Y ep nx us id off zs).small := by
  by_cases h : (putA X Y ep nx us id off zs).c = 0
  · obtain ⟨hso, _, hl, k, u, ha, hu, _, _, _, _, hf, hm⟩ := putA_yes h
    rw [hm]
    refine ⟨by show (wroteX _ _ _ _).length ≤ _; rw [wroteX_len]; exact h1, by show (putU _ _ _ _ _).length ≤ _; rw [putU, List.length_set]; exact h2, fun v hv => ?_⟩
    have hs := fold_small hso.1 hso.2.2.1
    rcases List.mem_or_eq_of_mem_set hv with h9 | rfl
    · exact h3 v h9
    · have := hs.2 u (List.mem_of_getElem? hu)
      simp only [List.length_append, List.length_take]
      omega
  · rw [putA_no h]
    exact ⟨h1, h2, h3⟩
end

end Go.Proofs.YtammmecddnafaaaGreatDoor

namespace Go.Proofs.YtammmecddnafaaaGreatDoor
open Go.RowKit
set_option linter.unusedVariables false

theorem fold_fit {rs : List R} : ∀ {us us' : List U}, (∀ u ∈ us, UFit u) → (∀ r ∈ rs, r.ok = true) → rs.foldlM oneU us = some us' → ∀ u ∈ us', UFit u := by
  induction rs with
  | nil =>
    intro us us' h1 _ h
    obtain rfl : us = us' := by simpa using h
    exact h1
  | cons r rs ih =>
    intro us us' h1 hr h
    rw [List.foldlM_cons] at h
    cases ho : oneU us r with
    | none => rw [ho] at h; cases h
    | some u1 =>
      rw [ho] at h
      have hrn := okRec_iff (hr r (List.mem_cons_self ..))
      exact ih (oneU_fit (by omega) ho h1) (fun x hx => hr x (List.mem_cons_of_mem _ hx)) h

theorem SOk.fitsU {X Y : List ByteArray} {ep nx : Int} {us : List U} (h : SOk X Y ep nx us) : ∀ u ∈ us, UFit u :=
  fold_fit (us := []) (by simp) (fun r hr => scan_allok X r hr) h.2.2.1

theorem fit_no {u : U} {off : Int} {d : Nat} (h : fitB u off d = false) (hw : 0 ≤ u.want ∧ u.want ≤ 1000000000) : u.done = true ∨ off ≠ (u.zs.length : Int) ∨ u.want < off + (d : Int) := by
  by_cases h1 : u.done = true
  · exact .inl h1
  by_cases h2 : off = (u.zs.length : Int)
  case neg => exact .inr (.inl h2)
  refine .inr (.inr ?_)
  have h3 : u.done = false := by simpa using h1
  rw [fitB, h3] at h
  simp at h
  omega

theorem fit_yes {u : U} {off : Int} {d : Nat} (h : fitB u off d = true) : ¬ (u.done = true ∨ off ≠ (u.zs.length : Int) ∨ u.want < off + (d : Int)) := by
  rw [fitB] at h
  simp at h
  rintro (h1 | h1 | h1)
  · rw [h1] at h; simp at h
  · exact h1 (by omega)
  · omega

end Go.Proofs.YtammmecddnafaaaGreatDoor

namespace Go.Proofs.YtammmecddnafaaaGreatDoor
open Go.RowKit
set_option linter.unusedVariables false

variable {F : Fence} {n : Nat} {P : Program}

/-- The two blocks of a loop: its record at l; at D the list of calls put off, which is empty. -/
def TwoL (l D : Nat) (r : Loop) (W : World) : Prop := W.heap[l]? = some (.loop r) ∧ W.heap[D]? = some (.deferred (some []))

theorem TwoL.keep {B l D : Nat} {r : Loop} {W V : World} (h : TwoL l D r W) (hl : B ≤ l) (hD : B ≤ D) (k : KeepsFrom B W V) : TwoL l D r V := ⟨k.same _ _ hl h.1 rfl, k.same _ _ hD h.2 rfl⟩

theorem TwoL.turn {l D : Nat} {r : Loop} {W : World} (h : TwoL l D r W) (hne : l ≠ D) (q : Loop) : TwoL l D q (W.putObj l (.loop q)) :=
  ⟨World.putObj_heap_same (Array.getElem?_eq_some_iff.1 h.1).1, (World.putObj_heap_other (by omega)).trans h.2⟩

/-- How a round's body is left: it goes on with G, or it jumps by c with X c. -/
def leaves (B : Nat) (W : World) (G : World → Prop) (X : Code → World → Prop) : Exit → Act → World → Prop
  | .normal, _, V => KeepsFrom B W V ∧ G V
  | .ret, _, V => KeepsFrom B W V ∧ X .ret V
  | .exit i, _, V => KeepsFrom B W V ∧ X (.exit i) V
  | .goto t, _, V => KeepsFrom B W V ∧ X (.goto t) V
  | .panic _, _, _ => False
  | .outgrown, _, _ => False

/-- One round, from its body's walk. -/
theorem round_turn {m l D B : Nat} {r : Loop} {args : Array Value} {W : World} {G : World → Prop} {X : Code → World → Prop} {a1 : Act} (hF : F.fn r.fn) (hst : r.state = .ready) (hpe : r.pending = none) (h : TwoL l D r W) (hne : l ≠ D) (hl : B ≤ l) (hD : B ≤ D) (hs : args.size = r.params.size)
    (hassign : ∀ K : Act → World → Prop, K a1 W → r.assign.wpIn (F.inRound l) m P (Exit.then K (fun _ _ _ => False)) { tmps := (r.params.zip args).foldl (fun t (p, v) => t.setIfInBounds p v) r.tmps, defers := [] } W)
    (hbody : r.body.wpIn (F.inRound l) m P (leaves B (W.putObj l (.loop { r with state := .busy })) G X) a1 (W.putObj l (.loop { r with state := .busy }))) :
    YieldAt F m P l args W fun e W' => (e = .returned (.bool true) ∧ ∃ V, G V ∧ TwoL l D { r with state := .busy } V ∧ W' = V.putObj l (.loop r)) ∨
      (e = .returned (.bool false) ∧ ∃ c V, X c V ∧ TwoL l D { r with state := .busy } V ∧ W' = V.putObj l (.loop { r with state := .done, pending := some c })) := by
  have hb := h.turn hne { r with state := .busy }
  have er : ({ r with state := .ready, pending := none } : Loop) = r := by cases r; simp only at hst hpe; subst hst hpe; rfl
  have out : ∀ (c : Code) (V : World), KeepsFrom B (W.putObj l (.loop { r with state := .busy })) V → X c V → ∃ v W', (Instr.endRound l (some c)).run P V = .ok v W' ∧
      ((Ending.returned v = .returned (.bool true) ∧ ∃ V, G V ∧ TwoL l D { r with state := .busy } V ∧ W' = V.putObj l (.loop r)) ∨
       (Ending.returned v = .returned (.bool false) ∧ ∃ c V, X c V ∧ TwoL l D { r with state := .busy } V ∧ W' = V.putObj l (.loop { r with state := .done, pending := some c }))) := fun c V k x =>
    ⟨_, _, run_endRound (some c) (hb.keep hl hD k).1, .inr ⟨rfl, c, V, x, hb.keep hl hD k, rfl⟩⟩
  refine ⟨r.fn, _, r.assign, r.body, run_yield h.1 hs, roundIn_of_wpIn hF (hassign _ ⟨_, run_beginRound h.1 hst, wpIn_mono hbody ?_⟩)⟩
  intro e a3 V hV
  cases e with
  | normal => exact ⟨_, _, run_endRound none (hb.keep hl hD hV.1).1, .inl ⟨rfl, V, hV.2, hb.keep hl hD hV.1, congrArg (fun q => V.putObj l (.loop q)) er⟩⟩
  | ret => exact out _ V hV.1 hV.2
  | exit i => exact out _ V hV.1 hV.2
  | goto t => exact out _ V hV.1 hV.2
  | panic c => exact hV.elim
  | outgrown => exact hV.elim

/-- What the iterator owes: begun with Ib, handed rounds that may be entered from I0 s and leave I1 s (go on) or Ix c s (stop), it returns; it ended by itself with Ie s, or a round was left. L0, L1: the loop's own blocks, which abide whatever keeps what is no cells. -/
def Iter {σ : Type} (F : Fence) (n : Nat) (P : Program) (B gf : Nat) (lb : Array Value) (enc : σ → Array Value) (I0 I1 : σ → World → Prop) (Ix : Code → σ → World → Prop) (Ie : σ → World → Prop) (Ib : World → Prop) : Prop :=
  ∀ (l : Nat) (L0 : World → Prop) (L1 : Code → World → Prop), (∀ V V', L0 V → KeepsFrom B V V' → L0 V') → (∀ c V V', L1 c V → KeepsFrom B V V' → L1 c V') →
    (∀ s W, I0 s W → L0 W → YieldAt F (n - 1) P l (enc s) W fun e W' => (e = .returned (.bool true) ∧ I1 s W' ∧ L0 W') ∨ (e = .returned (.bool false) ∧ ∃ c, Ix c s W' ∧ L1 c W')) →
    ∀ W, Ib W → L0 W → CallsIn F n P gf (#[.func (.yield l) #[] #[]] ++ lb) W fun e W' => (∃ v, e = .returned v) ∧ ((∃ s, Ie s W' ∧ L0 W') ∨ ∃ c s, Ix c s W' ∧ L1 c W')

theorem loop_turns {σ : Type} {g : Operand} {ps : Array Tmp} {assign body : Code} {Q : Exit → Act → World → Prop} {a : Act} {w : World}
    (hro : F.round = none) (h1 : 1 ≤ n) {gf : Nat} {lb : Array Value} (hg : a.eval g = .func (.func gf) #[] lb) (hFg : F.fn gf) (eg : ∀ args w, (callFunc gf args).run P w = .ok (.enter gf args) w)
    (enc : σ → Array Value) (hps : ∀ s, (enc s).size = ps.size) (I0 I1 : σ → World → Prop) (Ix : Code → σ → World → Prop) (Ie : σ → World → Prop) (Ib : World → Prop)
    (hiter : Iter F (n - 1) P w.heap.size gf lb enc I0 I1 Ix Ie Ib)
    (o0 : OwnFrom w.heap.size I0) (o1 : OwnFrom w.heap.size I1) (ox : ∀ c, OwnFrom w.heap.size (Ix c)) (oe : OwnFrom w.heap.size Ie) (ob : OwnFrom w.heap.size (fun (_ : Unit) W => Ib W)) (hs0 : Ib w) (a₁ : σ → Act)
    (hassign : ∀ (l : Nat) (s : σ) (W : World) (K : Act → World → Prop), K (a₁ s) W → assign.wpIn (F.inRound l) (n - 1 - 1) P (Exit.then K (fun _ _ _ => False)) { tmps := (ps.zip (enc s)).foldl (fun t (p, v) => t.setIfInBounds p v) a.tmps, defers := [] } W)
    (hbody : ∀ (l : Nat) (s : σ) (W : World), I0 s W → body.wpIn (F.inRound l) (n - 1 - 1) P (leaves w.heap.size W (I1 s) (fun c => Ix c s)) (a₁ s) W)
    (hdone : ∀ (D : Nat) (s : σ) (W : World), w.heap.size ≤ D → Ie s W → W.heap[D]? = some (.deferred (some [])) → Q .normal { a with defers := { target := .collected D, args := #[] } :: a.defers } W)
    (hstop : ∀ (D : Nat) (c : Code) (s : σ) (W : World), w.heap.size ≤ D → Ix c s W → W.heap[D]? = some (.deferred (some [])) → c.wpIn F n P Q { a with defers := { target := .collected D, args := #[] } :: a.defers } W) :
    (Code.rangeFunc g ps assign body).wpIn F n P Q a w := by
  refine wpIn_rangeFunc fun fn hfn => ?_
  rw [hro]
  obtain ⟨r, hr⟩ : ∃ r : Loop, ({ state := .ready, pending := none, fn, tmps := a.tmps, params := ps, assign, body, defers := w.heap.size } : Loop) = r := ⟨_, rfl⟩
  have hen := run_enterLoop_outer (P := P) (w := w) fn a.tmps ps assign body
  rw [hr] at hen
  have t1 : TwoL (w.heap.size + 1) w.heap.size r ((w.alloc (.deferred (some []))).alloc (.loop r)) := by
    refine ⟨?_, (Below.heap_alloc _ _ _ (by simp)).trans (World.alloc_heap_new w _)⟩
    have := World.alloc_heap_new (w.alloc (.deferred (some []))) (.loop r)
    rwa [World.size_alloc] at this
  obtain ⟨W1, hW⟩ : ∃ W1, (w.alloc (.deferred (some []))).alloc (.loop r) = W1 := ⟨_, rfl⟩
  have hs1 : Ib W1 := by rw [← hW]; exact ob.alloc (s := ()) _ (ob.alloc (s := ()) _ hs0)
  rw [hW] at hen t1
  refine ⟨w.heap.size + 1, [{ target := .collected w.heap.size, args := #[] }], W1, { target := .fn (.func gf) lb, args := #[.func (.yield (w.heap.size + 1)) #[] #[]] }, W1, gf, #[.func (.yield (w.heap.size + 1)) #[] #[]] ++ lb, W1, hen, ?_, ?_, ?_, fun _ => h1, ?_⟩
  · simp only [resolve, hg]
    simp [go_sem]
  · intro f' hf'
    simp [Target.leads] at hf'
    exact hf' ▸ hFg
  · simp [invoke, go_sem, eg]
  · refine (hiter (w.heap.size + 1) (TwoL (w.heap.size + 1) w.heap.size r) (fun c => TwoL (w.heap.size + 1) w.heap.size { r with state := .done, pending := some c })
      (fun V V' h k => h.keep (by omega) (Nat.le_refl _) k) (fun c V V' h k => h.keep (by omega) (Nat.le_refl _) k) ?_ W1 hs1 t1).mono ?_
    · intro s W hi ht
      have hb : I0 s (W.putObj (w.heap.size + 1) (.loop { r with state := .busy })) := o0.putObj _ hi (by omega) ht.1 rfl
      obtain ⟨fn', tm, asg, bo, hy, hR⟩ := round_turn (P := P) (m := n - 1 - 1) (B := w.heap.size) (a1 := a₁ s) (args := enc s) (G := I1 s) (X := fun c => Ix c s) (by rw [← hr]; exact hfn) (by rw [← hr]) (by rw [← hr]) ht (by omega) (by omega) (Nat.le_refl _) (by rw [← hr]; exact hps s)
        (by rw [← hr]; exact fun K hK => hassign _ s W K hK) (by have := hbody (w.heap.size + 1) s _ hb; rw [← hr]; rw [← hr] at this; exact this)
      refine ⟨fn', tm, asg, bo, hy, hR.mono ?_⟩
      rintro e W' (⟨rfl, V, hG, hT, rfl⟩ | ⟨rfl, c, V, hX, hT, rfl⟩)
      · exact .inl ⟨rfl, o1.putObj _ hG (by omega) hT.1 rfl, hT.turn (by omega) _⟩
      · exact .inr ⟨rfl, c, (ox c).putObj _ hX (by omega) hT.1 rfl, hT.turn (by omega) _⟩
    · rintro e W' ⟨⟨v, rfl⟩, ⟨s, hi, ht⟩ | ⟨c, s, hi, ht⟩⟩
      · refine ⟨_, _, run_endLoop ht.1 (by rw [← hr]; simp), ?_⟩
        have := hdone w.heap.size s _ (Nat.le_refl _) (oe.putObj (.loop { r with state := .exhausted }) hi (by omega) ht.1 rfl) ((World.putObj_heap_other (by omega)).trans ht.2)
        rw [← hr] at this ⊢
        exact this
      · refine ⟨_, _, run_endLoop ht.1 (by simp), ?_⟩
        exact hstop w.heap.size c s _ (Nat.le_refl _) ((ox c).putObj _ hi (by omega) ht.1 rfl) ((World.putObj_heap_other (by omega)).trans ht.2)

end Go.Proofs.YtammmecddnafaaaGreatDoor
