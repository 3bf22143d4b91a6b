/- What PutUp writes, piece by piece, and what it answers; no program in it. What holds of each upload that records made; what DoneUp answers by the specification. No program in it. Names held against each other; no program in it. What the program's reach answers: where the first upload of this name lies. The upload that a function of the store speaks of, and the code that comes first; no program in it. How great what a function of the store answers may be; no program in it. What PutUp answers, said as the program goes; no program in it. What is sure behind a flush; no program in it. A disk behind a fall: the model; no program in it. -/
import Derived.Test.YtlkgopoicpnacaaGreatDoorM04
import Derived.Test.YtlkgopoicpnacaaGreatDoorM05
import Derived.Test.YtlkgopoicpnacaaGreatDoorM05
import Derived.Test.YtlkgopoicpnacaaGreatDoorM03
import Derived.Lib.Strings
namespace Go.Proofs.YtlkgopoicpnacaaGreatDoor
open Go.RowKit
set_option linter.unusedVariables false

/-- How many pieces. -/
def pcs (n : Nat) : Nat := (n + 23) / 24

/-- The record of a piece. -/
def dataR (id : ByteArray) (off : Int) (zs : List Int) (i : Nat) : R := ⟨0, 0, 2, id, off + ((24 * i : Nat) : Int), (zs.drop (24 * i)).take 24⟩
def dataRs (id : ByteArray) (off : Int) (zs : List Int) : List R := (List.range (pcs zs.length)).map (dataR id off zs)

theorem dataRs_len (id : ByteArray) (off : Int) (zs : List Int) : (dataRs id off zs).length = pcs zs.length := by simp [dataRs]

theorem dataRs_take (id : ByteArray) (off : Int) (zs : List Int) {j : Nat} (h : j ≤ pcs zs.length) : (dataRs id off zs).take j = (List.range j).map (dataR id off zs) := by
  rw [dataRs, ← List.map_take, List.take_range, Nat.min_eq_left h]

/-- The uploads behind j pieces. -/
def putU (us : List U) (k : Nat) (u : U) (zs : List Int) (j : Nat) : List U := us.set k { u with zs := u.zs ++ zs.take (24 * j) }

theorem atU_ids {l m : List U} {id : ByteArray} (h : l.map U.id = m.map U.id) : atU l id = atU m id := by
  have e : ∀ l : List U, atU l id = (l.map U.id).findIdx? (fun i => decide (i = id)) := fun l => by rw [List.findIdx?_map]; rfl
  rw [e l, e m, h]

theorem atU_set {us : List U} {id : ByteArray} {k : Nat} {u v : U} (h : atU us id = some k) (hu : us[k]? = some u) (hv : v.id = u.id) : atU (us.set k v) id = some k := by
  have hid : (us.set k v).map U.id = us.map U.id := by
    rw [List.map_set]
    apply List.ext_getElem?
    intro i
    rw [List.getElem?_set]
    split
    · rename_i he
      subst he
      have hk : k < us.length := (List.getElem?_eq_some_iff.1 hu).1
      rw [List.length_map, if_pos hk, List.getElem?_map, hu, hv]
      rfl
    · rfl
  rw [atU_ids hid]
  exact h

theorem putU_step {us : List U} {id : ByteArray} {k : Nat} {u : U} {off : Int} {zs : List Int} (h : atU us id = some k) (hu : us[k]? = some u) (hd : u.done = false) (ho : off = (u.zs.length : Int)) (hw : off + (zs.length : Int) ≤ u.want) (j : Nat) (hj : j < pcs zs.length) :
    oneU (putU us k u zs j) (dataR id off zs j) = some (putU us k u zs (j + 1)) := by
  have hk : k < us.length := (List.getElem?_eq_some_iff.1 hu).1
  have hjl : 24 * j < zs.length := by unfold pcs at hj; omega
  have h1 : atU (putU us k u zs j) id = some k := atU_set h hu rfl
  have h2 : (putU us k u zs j)[k]? = some { u with zs := u.zs ++ zs.take (24 * j) } := by rw [putU, List.getElem?_set_self hk]
  unfold oneU dataR
  dsimp only
  rw [if_neg (by decide), h1]
  dsimp only
  rw [h2]
  dsimp only
  rw [if_pos rfl, if_neg]
  · rw [putU, putU, List.set_set]
    congr 2
    rw [List.append_assoc]
    congr 2
    rw [show 24 * (j + 1) = 24 * j + 24 by omega, List.take_add]
  · rw [hd, List.length_append, List.length_take, List.length_take, List.length_drop, Nat.min_eq_left (Nat.le_of_lt hjl)]
    simp only [Bool.false_eq_true, false_or, not_or, Decidable.not_not, Int.not_lt]
    refine ⟨by rw [ho]; simp, ?_⟩
    have : min 24 (zs.length - 24 * j) ≤ zs.length - 24 * j := Nat.min_le_right _ _
    omega

theorem putU_zero {us : List U} {k : Nat} {u : U} {zs : List Int} (hu : us[k]? = some u) : putU us k u zs 0 = us := by
  rw [putU]
  simp only [Nat.mul_zero, List.take_zero, List.append_nil]
  apply List.ext_getElem?
  intro i
  rw [List.getElem?_set]
  split
  · rename_i he
    subst he
    rw [if_pos (List.getElem?_eq_some_iff.1 hu).1, hu]
  · rfl

theorem put_fold {us : List U} {id : ByteArray} {k : Nat} {u : U} {off : Int} {zs : List Int} (h : atU us id = some k) (hu : us[k]? = some u) (hd : u.done = false) (ho : off = (u.zs.length : Int)) (hw : off + (zs.length : Int) ≤ u.want) : ∀ j, j ≤ pcs zs.length → ((List.range j).map (dataR id off zs)).foldlM oneU us = some (putU us k u zs j)
  | 0, _ => by rw [putU_zero hu]; rfl
  | j + 1, hj => by
    rw [List.range_succ, List.map_append, List.foldlM_append, put_fold h hu hd ho hw j (by omega)]
    show (some (putU us k u zs j) : Option (List U)).bind (fun l => [dataR id off zs j].foldlM oneU l) = _
    rw [Option.bind_some, List.foldlM_cons, putU_step h hu hd ho hw j (by omega)]
    rfl

/-- What PutUp answers. -/
noncomputable def putA (X Y : List ByteArray) (ep nx : Int) (us : List U) (id : ByteArray) (off : Int) (zs : List Int) : WA :=
  if decB (SOk X Y ep nx us) = true ∧ idB id.data.toList = true ∧ 1 ≤ zs.length ∧ zs.length ≤ 400 then
    match atU us id with
    | none => ⟨X, nx, us, 2⟩
    | some k => match us[k]? with
      | none => ⟨X, nx, us, 2⟩
      | some u =>
        if u.done = true ∨ off ≠ (u.zs.length : Int) ∨ u.want < off + (zs.length : Int) then ⟨X, nx, us, 4⟩
        else if (X.length : Int) - nx < (pcs zs.length : Int) then ⟨X, nx, us, 5⟩ else wroteA X ep nx us (dataRs id off zs)
  else ⟨X, nx, us, 1⟩

/-- The numbers of uploads that records made. -/
theorem foldlM_want {rs : List R} : ∀ {us us' : List U}, (∀ u ∈ us, 0 ≤ u.want ∧ u.want ≤ 1000000000) → (∀ r ∈ rs, r.ok = true) → rs.foldlM oneU us = some us' → ∀ u ∈ us', 0 ≤ u.want ∧ u.want ≤ 1000000000 := by
  induction rs with
  | nil => intro us us' h1 _ h; obtain rfl : us = us' := by simpa using h
           exact h1
  | cons r rs ih =>
    intro us us' h1 hr h
    rw [List.foldlM_cons] at h
    cases ho : oneU us r with
    | none => rw [ho] at h; cases h
    | some u1 =>
      rw [ho] at h
      refine ih (fun u hu => ?_) (fun x hx => hr x (List.mem_cons_of_mem _ hx)) h
      have hrn := okRec_iff (hr r (List.mem_cons_self ..))
      rw [oneU] at ho
      split at ho
      · split at ho
        · injection ho with ho
          subst ho
          rcases List.mem_append.1 hu with h | h
          · exact h1 u (List.mem_of_mem_take h)
          · rcases List.mem_cons.1 h with rfl | h
            · exact hrn.2.2.2.2.1
            · exact h1 u (List.mem_of_mem_drop h)
        · cases ho
      · split at ho
        · cases ho
        · split at ho
          · cases ho
          · rename_i k _ x hx
            have hxl := h1 x (List.mem_of_getElem? hx)
            split at ho
            · split at ho
              · cases ho
              · injection ho with ho
                subst ho
                rcases List.mem_or_eq_of_mem_set hu with h | rfl
                · exact h1 u h
                · exact hxl
            · split at ho
              · split at ho
                · cases ho
                · injection ho with ho
                  subst ho
                  rcases List.mem_or_eq_of_mem_set hu with h | rfl
                  · exact h1 u h
                  · exact hxl
              · split at ho
                · injection ho with ho
                  subst ho
                  exact h1 u (List.mem_of_mem_eraseIdx hu)
                · cases ho

theorem SOk.wants {X Y : List ByteArray} {ep nx : Int} {us : List U} (h : SOk X Y ep nx us) : ∀ u ∈ us, 0 ≤ u.want ∧ u.want ≤ 1000000000 :=
  foldlM_want (us := []) (by simp) (fun r hr => scan_allok X r hr) h.2.2.1

/-- One more record that is written. -/
theorem wroteX_next {X : List ByteArray} {ep : Int} {nx : Nat} {rs : List R} {k : Nat} {r : R} (h : rs[k]? = some r) : wroteX X ep nx (rs.take (k + 1)) = (wroteX X ep nx (rs.take k)).set (nx + k) (txU (r.at ep (nx + k)).put) := by
  have hk : k < rs.length := (List.getElem?_eq_some_iff.1 h).1
  rw [List.take_add_one, h]
  show wroteX X ep nx (rs.take k ++ [r]) = _
  rw [wroteX_snoc, List.length_take, Nat.min_eq_left (by omega)]

theorem dataRs_at (id : ByteArray) (off : Int) (zs : List Int) {j : Nat} (h : j < pcs zs.length) : (dataRs id off zs)[j]? = some (dataR id off zs j) := by
  rw [dataRs, List.getElem?_map, List.getElem?_range h]
  rfl

end Go.Proofs.YtlkgopoicpnacaaGreatDoor

namespace Go.Proofs.YtlkgopoicpnacaaGreatDoor
open Go.RowKit
set_option linter.unusedVariables false

/-- What holds of each upload holds of each behind one record more. -/
theorem oneU_each {P : U → Prop} {l l' : List U} {r : R} (h : oneU l r = some l') (hl : ∀ u ∈ l, P u) (hm : r.k = 1 → P ⟨r.id, r.n, [], false⟩) (hd : ∀ u, P u → u.done = false → r.n = (u.zs.length : Int) → r.n + (r.zs.length : Int) ≤ u.want → P { u with zs := u.zs ++ r.zs }) (hf : ∀ u, P u → u.done = false → (u.zs.length : Int) = u.want → P { u with done := true }) : ∀ u ∈ l', P u := by
  intro u hu
  rw [oneU] at h
  split at h
  · rename_i hk
    split at h
    · injection h with h
      subst h
      rcases List.mem_append.1 hu with h | h
      · exact hl u (List.mem_of_mem_take h)
      · rcases List.mem_cons.1 h with rfl | h
        · exact hm hk
        · exact hl u (List.mem_of_mem_drop h)
    · cases h
  · split at h
    · cases h
    · split at h
      · cases h
      · rename_i k _ x hx
        have hxl := hl x (List.mem_of_getElem? hx)
        split at h
        · split at h
          · cases h
          · rename_i hc
            injection h with h
            subst h
            rcases List.mem_or_eq_of_mem_set hu with h | rfl
            · exact hl u h
            · refine hd x hxl ?_ ?_ ?_
              · cases hdn : x.done with
                | false => rfl
                | true => exact absurd (.inl hdn) hc
              · by_cases h9 : r.n = (x.zs.length : Int)
                · exact h9
                · exact absurd (.inr (.inl h9)) hc
              · by_cases h9 : x.want < r.n + (r.zs.length : Int)
                · exact absurd (.inr (.inr h9)) hc
                · omega
        · split at h
          · split at h
            · cases h
            · rename_i hc
              injection h with h
              subst h
              rcases List.mem_or_eq_of_mem_set hu with h | rfl
              · exact hl u h
              · refine hf x hxl ?_ ?_
                · cases hdn : x.done with
                  | false => rfl
                  | true => exact absurd (.inl hdn) hc
                · by_cases h9 : (x.zs.length : Int) = x.want
                  · exact h9
                  · exact absurd (.inr h9) hc
          · split at h
            · injection h with h
              subst h
              exact hl u (List.mem_of_mem_eraseIdx hu)
            · cases h

/-- An upload has no more than it wants, and once it is done just that. -/
def U.fit (u : U) : Prop := (u.zs.length : Int) ≤ u.want ∧ (u.done = true → (u.zs.length : Int) = u.want)

theorem oneU_fit1 {l l' : List U} {r : R} (h : oneU l r = some l') (hl : ∀ u ∈ l, u.fit) (hr : r.k = 1 → 0 ≤ r.n) : ∀ u ∈ l', u.fit := by
  refine oneU_each h hl (fun hk => ⟨hr hk, fun h9 => by cases h9⟩) (fun u hu hdn hn hw => ⟨?_, fun h9 => ?_⟩) (fun u hu hdn hw => ⟨hu.1, fun _ => hw⟩)
  · show ((u.zs ++ r.zs).length : Int) ≤ u.want
    rw [List.length_append]
    omega
  · rw [hdn] at h9; cases h9

theorem foldlM_fit {rs : List R} : ∀ {us us' : List U}, (∀ u ∈ us, u.fit) → (∀ r ∈ rs, r.k = 1 → 0 ≤ r.n) → rs.foldlM oneU us = some us' → ∀ u ∈ us', u.fit := by
  induction rs with
  | nil => intro us us' h1 _ h; obtain rfl : us = us' := by simpa using h
           exact h1
  | cons r rs ih =>
    intro us us' h1 hr h
    rw [List.foldlM_cons] at h
    cases ho : oneU us r with
    | none => rw [ho] at h; cases h
    | some u1 =>
      rw [ho] at h
      exact ih (oneU_fit1 ho h1 (hr r (List.mem_cons_self ..))) (fun x hx => hr x (List.mem_cons_of_mem _ hx)) h

theorem SOk.fits {X Y : List ByteArray} {ep nx : Int} {us : List U} (h : SOk X Y ep nx us) : ∀ u ∈ us, u.fit :=
  foldlM_fit (us := []) (by simp) (fun r hr _ => (okRec_iff (scan_allok X r hr)).2.2.2.2.1.1) h.2.2.1

/-- The sum of bytes. -/
def crcI (zs : List Int) : Int := ((crcL zs ^^^ 4294967295 : Nat) : Int)

def doneR (id : ByteArray) : R := ⟨0, 0, 3, id, 0, []⟩

/-- What the specification's DoneUp answers. -/
noncomputable def doneA (X Y : List ByteArray) (ep nx : Int) (us : List U) (id : ByteArray) (sum : Int) : WA :=
  if decB (SOk X Y ep nx us) = true ∧ idB id.data.toList = true then
    match atU us id with
    | none => ⟨X, nx, us, 2⟩
    | some k => match us[k]? with
      | none => ⟨X, nx, us, 2⟩
      | some u =>
        if (u.zs.length : Int) < u.want then ⟨X, nx, us, 4⟩
        else if sum ≠ crcI u.zs then ⟨X, nx, us, 6⟩
        else if u.done = true then ⟨X, nx, us, 0⟩
        else if nx < (X.length : Int) then wroteA X ep nx us [doneR id] else ⟨X, nx, us, 5⟩
  else ⟨X, nx, us, 1⟩

theorem done_fits {us : List U} {id : ByteArray} {k : Nat} {u : U} (h1 : atU us id = some k) (h2 : us[k]? = some u) (h3 : u.done = false) (h4 : (u.zs.length : Int) = u.want) : oneU us (doneR id) = some (us.set k { u with done := true }) := by
  unfold oneU doneR
  dsimp only
  rw [if_neg (by decide), h1]
  dsimp only
  rw [h2]
  dsimp only
  rw [if_neg (by decide), if_pos rfl, if_neg (by rw [h3]; simp; omega)]

end Go.Proofs.YtlkgopoicpnacaaGreatDoor

namespace Go.Proofs.YtlkgopoicpnacaaGreatDoor
open Go.RowKit
set_option linter.unusedVariables false

theorem ids_eq (s t : ByteArray) : (s.toList == t.toList) = decide (s = t) := by
  rw [Bool.eq_iff_iff, beq_iff_eq, decide_eq_true_eq, Lib.toList_data, Lib.toList_data]
  constructor
  · intro h
    cases s
    cases t
    exact congrArg ByteArray.mk (Array.toList_inj.1 h)
  · intro h; rw [h]

end Go.Proofs.YtlkgopoicpnacaaGreatDoor

namespace Go.Proofs.YtlkgopoicpnacaaGreatDoor
open Go.RowKit
set_option linter.unusedVariables false

/-- The program's key: an upload's name. -/
theorem implKeyU_any (p : ByteArray) (q : Int) (a : Option Addr) (n c : Nat) (b : Bool) (w : World) : Calls Tryz.prog 147 #[.agg #[.string p, .int .i64 q, .slice a n c, .bool b]] w fun e w' => e = .returned (.string p) ∧ Below w.heap.size w w' := by
  have HB : Hid (Below w.heap.size w (w.alloc (.cells #[.string p, .int .i64 q, .slice a n c, .bool b] 64))) := (Below.refl _ _).alloc (Nat.le_refl _) _
  go_enter Tryz.func147, Tryz.ntmps147
  go_wp2_with fail
  go_ret
  exact ⟨rfl, HB.out⟩

/-- The method by which an upload is asked for its key. -/
theorem keyMU (p : ByteArray) (q : Int) (a : Option Addr) (n c : Nat) (b : Bool) (w : World) : Sem.run Tryz.prog (Go.method 292 64 (.agg #[.string p, .int .i64 q, .slice a n c, .bool b]) "loop.example/g00199/impl.key") w = .ok (147, .agg #[.string p, .int .i64 q, .slice a n c, .bool b]) w := by kernel_rfl

/-- The upload that is reached: its place in memory, or none. -/
def reachUO (a : Option Addr) (k : Option Nat) : Option Addr :=
  match a, k with
  | some ad, some k => some ⟨ad.block, k * 4, none⟩
  | _, _ => none

theorem reachUO_none (a : Option Addr) : reachUO a none = none := by cases a <;> rfl

set_option maxRecDepth 10000 in
set_option maxHeartbeats 800000 in
theorem implReachU_any (a : Option Addr) (n c lo : Nat) (id : ByteArray) (l : List UE) (w : World) (h : UpRow w lo (.slice a n c) l) (hn : n = l.length) (hl : n ≤ 1099511627776) :
    Calls Tryz.prog 112 #[.slice a n c, .string id] w fun e w' => e = .returned (.pointer (reachUO a (atU (l.map UE.u) id))) ∧ Below w.heap.size w w' := by
  have HR : Hid (∀ W, Below w.heap.size w W → UpRow W lo (.slice a n c) l) := fun W hb => h.stays hb
  have HN : Hid (n = l.length) := hn
  clear h hn
  go_enter Tryz.func112, Tryz.ntmps112
  go_wp2_with fail
  go_loopw [8] (fun v wr => ∃ k : Nat, k ≤ n ∧ v = .int .i64 k ∧ Hid (Below w.heap.size w wr) ∧ Hid (∀ j (hj : j < l.length), j < k → (l[j]).u.id ≠ id)) (fun v _ => n - (intOf v).toNat)
  case atStart => exact ⟨0, Nat.zero_le _, rfl, Below.refl _ _, fun j _ hj => absurd hj (Nat.not_lt_zero _)⟩
  case round =>
    obtain ⟨k, hk, rfl, HB, HJ⟩ := hrel
    by_cases hlt : k < n
    · have hkl : k < l.length := by rw [← HN.out]; exact hlt
      have hki : (k : Int) < (n : Int) := by omega
      obtain ⟨g, rfl, g0, g1, g2, g3, _⟩ := (HR.out _ HB.out).at HN.out hkl
      have he := ids_eq (l[k]).u.id id
      by_cases hid : (l[k]).u.id = id
      · rw [decide_eq_true hid] at he
        have HF : Hid (atU (l.map UE.u) id = some k) := atU_some (k := k) (by simpa using hkl) (by simpa using hid) (fun j hj hjk => by simpa using HJ.out j (by simpa using hj) hjk)
        clear hid HJ HR HN
        generalize l[k] = x at *
        have hkm := keyMU x.u.id x.u.want x.a x.n x.c x.u.done
        go_wp2_with fail
        refine (implKeyU_any x.u.id x.u.want x.a x.n x.c x.u.done _).mono ?_
        rintro e w1 ⟨rfl, hb1⟩
        have HB1 : Hid (Below w.heap.size w w1) := HB.out.trans (hb1.mono HB.out.size)
        clear hb1
        go_wp2_with fail
        go_ret
        exact ⟨by rw [HF.out]; simp [reachUO], HB1.out⟩
      · rw [decide_eq_false hid] at he
        have HJ2 : Hid (∀ j (hj : j < l.length), j < k + 1 → (l[j]).u.id ≠ id) := fun j hj hjk => by
          by_cases e : j = k
          · subst e; exact hid
          · exact HJ.out j hj (by omega)
        clear hid HJ
        generalize l[k] = x at *
        have hkm := keyMU x.u.id x.u.want x.a x.n x.c x.u.done
        go_wp2_with fail
        refine (implKeyU_any x.u.id x.u.want x.a x.n x.c x.u.done _).mono ?_
        rintro e w1 ⟨rfl, hb1⟩
        have HB1 : Hid (Below w.heap.size w w1) := HB.out.trans (hb1.mono HB.out.size)
        clear hb1
        go_wp2_with fail
        go_roundw
        case rel => exact ⟨k + 1, by omega, by go_num, HB1, HJ2⟩
        case measure => simp [intOf]; omega
    · have HF : Hid (atU (l.map UE.u) id = none) := atU_none (fun j hj => by simpa using HJ.out j (by simpa using hj) (by have := HN.out; simp at hj; omega))
      have hkl : n = k := by omega
      clear HJ HR HN
      subst hkl
      go_wp2_with fail
      go_ret
      exact ⟨by rw [HF.out, reachUO_none]; rfl, HB.out⟩

end Go.Proofs.YtlkgopoicpnacaaGreatDoor

namespace Go.Proofs.YtlkgopoicpnacaaGreatDoor
open Go.RowKit
set_option linter.unusedVariables false

noncomputable def forC (X Y : List ByteArray) (ep nx : Int) (us : List U) (id : ByteArray) : Int :=
  if decB (SOk X Y ep nx us) = true ∧ idB id.data.toList = true then (if atU us id = none then 2 else 0) else 1
noncomputable def forP (X Y : List ByteArray) (ep nx : Int) (us : List U) (id : ByteArray) (ua : Option Addr) : Option Addr :=
  if decB (SOk X Y ep nx us) = true ∧ idB id.data.toList = true then reachUO ua (atU us id) else none

section
variable {X Y : List ByteArray} {ep nx : Int} {us : List U} {id : ByteArray} {ua : Option Addr}

theorem for_form (h : ¬ (decB (SOk X Y ep nx us) = true ∧ idB id.data.toList = true)) : forP X Y ep nx us id ua = none ∧ forC X Y ep nx us id = 1 := by
  rw [forP, forC, if_neg h, if_neg h]
  exact ⟨rfl, rfl⟩

theorem for_none (h1 : decB (SOk X Y ep nx us) = true) (h2 : idB id.data.toList = true) (h3 : atU us id = none) : forP X Y ep nx us id ua = none ∧ forC X Y ep nx us id = 2 := by
  rw [forP, forC, if_pos ⟨h1, h2⟩, if_pos ⟨h1, h2⟩, if_pos h3, h3, reachUO_none]
  exact ⟨rfl, rfl⟩

theorem for_some {k : Nat} (h1 : decB (SOk X Y ep nx us) = true) (h2 : idB id.data.toList = true) (h3 : atU us id = some k) : forP X Y ep nx us id ua = reachUO ua (some k) ∧ forC X Y ep nx us id = 0 := by
  rw [forP, forC, if_pos ⟨h1, h2⟩, if_pos ⟨h1, h2⟩, if_neg (by rw [h3]; simp), h3]
  exact ⟨rfl, rfl⟩

theorem forC_zero (h : forC X Y ep nx us id = 0) : SOk X Y ep nx us ∧ idB id.data.toList = true ∧ ∃ k, atU us id = some k := by
  rw [forC] at h
  split at h
  · rename_i h1
    split at h
    · cases h
    · rename_i h2
      cases ha : atU us id with
      | none => exact absurd ha h2
      | some k => exact ⟨decB_of h1.1, h1.2, k, rfl⟩
  · cases h

theorem drop_forC (h : forC X Y ep nx us id ≠ 0) : (dropA X Y ep nx us id).c = forC X Y ep nx us id := by
  rw [forC] at h ⊢
  rw [dropA]
  split
  · rename_i h1
    rw [if_pos h1] at h
    split
    · rfl
    · rename_i h2; rw [if_neg h2] at h; exact absurd rfl h
  · rfl
end

end Go.Proofs.YtlkgopoicpnacaaGreatDoor

namespace Go.Proofs.YtlkgopoicpnacaaGreatDoor
open Go.RowKit
set_option linter.unusedVariables false

/-- An answer is no greater than this. -/
def WA.small (a : WA) : Prop := a.X.length ≤ 1048576 ∧ a.us.length ≤ 1048576 ∧ ∀ u ∈ a.us, u.zs.length ≤ 1048576

theorem makeA_sz {X Y : List ByteArray} {ep nx : Int} {us : List U} {id : ByteArray} {want : Int} (h1 : X.length ≤ 1048576) (h2 : us.length ≤ 1048576) (h3 : ∀ u ∈ us, u.zs.length ≤ 1048576) : (makeA X Y ep nx us id want).small := by
  by_cases h : (makeA X Y ep nx us id want).c = 0
  · obtain ⟨hso, _, _, us', hf, hm⟩ := makeA_yes h
    rw [hm]
    refine ⟨by show (wroteX _ _ _ _).length ≤ _; rw [wroteX_len]; exact h1, ?_, ?_⟩
    · have := foldlM_len hso.few hf
      show us'.length ≤ _
      omega
    · rw [List.foldlM_cons] at hf
      cases ho : oneU us (makeR id want) with
      | none => rw [ho] at hf; cases hf
      | some u1 =>
        rw [ho] at hf
        obtain rfl : u1 = us' := by simpa using hf
        intro u hu
        have := oneU_zs ho h3 u hu
        simpa [makeR] using this
  · rw [makeA_no h]
    exact ⟨h1, h2, h3⟩

theorem dropA_sz {X Y : List ByteArray} {ep nx : Int} {us : List U} {id : ByteArray} (h1 : X.length ≤ 1048576) (h2 : us.length ≤ 1048576) (h3 : ∀ u ∈ us, u.zs.length ≤ 1048576) : (dropA X Y ep nx us id).small := by
  by_cases h : (dropA X Y ep nx us id).c = 0
  · obtain ⟨hso, _, _, us', hf, hm⟩ := dropA_yes h
    rw [hm]
    refine ⟨by show (wroteX _ _ _ _).length ≤ _; rw [wroteX_len]; exact h1, ?_, ?_⟩
    · have := foldlM_len hso.few hf
      show us'.length ≤ _
      omega
    · rw [List.foldlM_cons] at hf
      cases ho : oneU us (dropR id) with
      | none => rw [ho] at hf; cases hf
      | some u1 =>
        rw [ho] at hf
        obtain rfl : u1 = us' := by simpa using hf
        intro u hu
        have := oneU_zs ho h3 u hu
        simpa [dropR] using this
  · rw [dropA_no h]
    exact ⟨h1, h2, h3⟩

end Go.Proofs.YtlkgopoicpnacaaGreatDoor

namespace Go.Proofs.YtlkgopoicpnacaaGreatDoor
open Go.RowKit
set_option linter.unusedVariables false

section
variable {X Y : List ByteArray} {ep nx : Int} {us : List U} {id : ByteArray} {off : Int} {zs : List Int}

theorem putA_no (h : (putA X Y ep nx us id off zs).c ≠ 0) : putA X Y ep nx us id off zs = ⟨X, nx, us, (putA X Y ep nx us id off zs).c⟩ := by
  unfold putA at h ⊢
  by_cases h1 : decB (SOk X Y ep nx us) = true ∧ idB id.data.toList = true ∧ 1 ≤ zs.length ∧ zs.length ≤ 400
  · rw [if_pos h1] at h ⊢
    cases ha : atU us id with
    | none => rfl
    | some k =>
      rw [ha] at h
      dsimp only at h ⊢
      cases hu : us[k]? with
      | none => rfl
      | some u =>
        rw [hu] at h
        dsimp only at h ⊢
        by_cases h2 : u.done = true ∨ off ≠ (u.zs.length : Int) ∨ u.want < off + (zs.length : Int)
        · rw [if_pos h2]
        · rw [if_neg h2] at h ⊢
          by_cases h3 : (X.length : Int) - nx < (pcs zs.length : Int)
          · rw [if_pos h3]
          · rw [if_neg h3] at h
            exact absurd rfl h
  · rw [if_neg h1]

theorem putA_yes (h : (putA X Y ep nx us id off zs).c = 0) : SOk X Y ep nx us ∧ idB id.data.toList = true ∧ (1 ≤ zs.length ∧ zs.length ≤ 400) ∧ ∃ k u, atU us id = some k ∧ us[k]? = some u ∧ u.done = false ∧ off = (u.zs.length : Int) ∧ off + (zs.length : Int) ≤ u.want ∧ nx + (pcs zs.length : Int) ≤ (X.length : Int) ∧ (dataRs id off zs).foldlM oneU us = some (putU us k u zs (pcs zs.length)) ∧ putA X Y ep nx us id off zs = ⟨wroteX X ep nx.toNat (dataRs id off zs), nx + (pcs zs.length : Int), putU us k u zs (pcs zs.length), 0⟩ := by
  by_cases h1 : decB (SOk X Y ep nx us) = true ∧ idB id.data.toList = true ∧ 1 ≤ zs.length ∧ zs.length ≤ 400
  case neg => unfold putA at h; rw [if_neg h1] at h; cases h
  refine ⟨decB_of h1.1, h1.2.1, h1.2.2, ?_⟩
  unfold putA at h
  rw [if_pos h1] at h
  cases ha : atU us id with
  | none => rw [ha] at h; cases h
  | some k =>
    rw [ha] at h
    dsimp only at h
    cases hu : us[k]? with
    | none => rw [hu] at h; cases h
    | some u =>
      rw [hu] at h
      dsimp only at h
      by_cases h2 : u.done = true ∨ off ≠ (u.zs.length : Int) ∨ u.want < off + (zs.length : Int)
      case pos => rw [if_pos h2] at h; cases h
      rw [if_neg h2] at h
      by_cases h3 : (X.length : Int) - nx < (pcs zs.length : Int)
      case pos => rw [if_pos h3] at h; cases h
      have hd : u.done = false := by cases hd : u.done with
        | false => rfl
        | true => exact absurd (.inl hd) h2
      have ho : off = (u.zs.length : Int) := by
        by_cases h9 : off = (u.zs.length : Int)
        · exact h9
        · exact absurd (.inr (.inl h9)) h2
      have hw : off + (zs.length : Int) ≤ u.want := by
        by_cases h9 : u.want < off + (zs.length : Int)
        · exact absurd (.inr (.inr h9)) h2
        · omega
      have hf : (dataRs id off zs).foldlM oneU us = some (putU us k u zs (pcs zs.length)) := put_fold ha hu hd ho hw _ (Nat.le_refl _)
      refine ⟨k, u, rfl, hu, hd, ho, hw, by omega, hf, ?_⟩
      unfold putA
      rw [if_pos h1, ha]
      dsimp only
      rw [hu]
      dsimp only
      rw [if_neg h2, if_neg h3, wroteA, hf, dataRs_len]
      rfl

theorem put_forC (hl : 1 ≤ zs.length ∧ zs.length ≤ 400) (h : forC X Y ep nx us id ≠ 0) : (putA X Y ep nx us id off zs).c = forC X Y ep nx us id := by
  rw [forC] at h ⊢
  unfold putA
  by_cases h1 : decB (SOk X Y ep nx us) = true ∧ idB id.data.toList = true
  · rw [if_pos ⟨h1.1, h1.2, hl⟩]
    rw [if_pos h1] at h ⊢
    by_cases h2 : atU us id = none
    · rw [if_pos h2, h2]
    · rw [if_neg h2] at h; exact absurd rfl h
  · rw [if_neg (fun h9 => h1 ⟨h9.1, h9.2.1⟩), if_neg h1]

theorem put_form (hl : ¬ (1 ≤ zs.length ∧ zs.length ≤ 400)) : (putA X Y ep nx us id off zs).c = 1 := by
  unfold putA
  rw [if_neg (fun h => hl h.2.2)]

theorem put_at {k : Nat} {u : U} (h1 : SOk X Y ep nx us) (h2 : idB id.data.toList = true) (h3 : 1 ≤ zs.length ∧ zs.length ≤ 400) (h4 : atU us id = some k) (h5 : us[k]? = some u) :
    (putA X Y ep nx us id off zs).c = if u.done = true ∨ off ≠ (u.zs.length : Int) ∨ u.want < off + (zs.length : Int) then 4 else if (X.length : Int) - nx < (pcs zs.length : Int) then 5 else 0 := by
  unfold putA
  rw [if_pos ⟨decB_true h1, h2, h3⟩, h4]
  dsimp only
  rw [h5]
  dsimp only
  split
  · rfl
  · split <;> rfl

/-- The records of pieces are right ones. -/
theorem dataRs_ok (hi : idB id.data.toList = true) (h0 : 0 ≤ off) (h1 : off + (zs.length : Int) ≤ 1000000000) (hz : ∀ x ∈ zs, 0 ≤ x ∧ x ≤ 255) : ∀ r ∈ dataRs id off zs, idB r.id.data.toList = true ∧ kindB r.k r.n r.zs.length = true ∧ ∀ x ∈ r.zs, 0 ≤ x ∧ x ≤ 255 := by
  intro r hr
  obtain ⟨i, hi', rfl⟩ := List.mem_map.1 hr
  have hi2 := List.mem_range.1 hi'
  have hil : 24 * i < zs.length := by unfold pcs at hi2; omega
  refine ⟨hi, ?_, fun x hx => hz x (List.mem_of_mem_drop (List.mem_of_mem_take hx))⟩
  show kindB 2 (off + ((24 * i : Nat) : Int)) ((zs.drop (24 * i)).take 24).length = true
  rw [kindB, if_neg (by decide), if_pos rfl, List.length_take, List.length_drop, decide_eq_true (show 0 ≤ off + ((24 * i : Nat) : Int) ∧ off + ((24 * i : Nat) : Int) ≤ 1000000000 by omega), decide_eq_true (show 1 ≤ min 24 (zs.length - 24 * i) ∧ min 24 (zs.length - 24 * i) ≤ 24 by omega)]
  rfl

theorem putA_sz (h1 : X.length ≤ 1048576) (h2 : us.length ≤ 1048576) (h3 : ∀ u ∈ us, u.zs.length ≤ 1048576) : (putA X Y ep nx us id off zs).small := by
  by_cases h : (putA X Y ep nx us id off zs).c = 0
  · obtain ⟨hso, _, hl, k, u, ha, hu, _, _, _, _, hf, hm⟩ := putA_yes h
    rw [hm]
    refine ⟨by show (wroteX _ _ _ _).length ≤ _; rw [wroteX_len]; exact h1, by show (putU _ _ _ _ _).length ≤ _; rw [putU, List.length_set]; exact h2, fun v hv => ?_⟩
    have hs := fold_small hso.1 hso.2.2.1
    rcases List.mem_or_eq_of_mem_set hv with h9 | rfl
    · exact h3 v h9
    · have := hs.2 u (List.mem_of_getElem? hu)
      simp only [List.length_append, List.length_take]
      omega
  · rw [putA_no h]
    exact ⟨h1, h2, h3⟩
end

end Go.Proofs.YtlkgopoicpnacaaGreatDoor

namespace Go.Proofs.YtlkgopoicpnacaaGreatDoor
open Go.RowKit

/-- What is sure behind a flush. -/
noncomputable def syncY (X Y : List ByteArray) (ep nx : Int) (us : List U) : List ByteArray := if decB (SOk X Y ep nx us) = true then X else Y

end Go.Proofs.YtlkgopoicpnacaaGreatDoor

namespace Go.Proofs.YtlkgopoicpnacaaGreatDoor
open Go.RowKit
set_option linter.unusedVariables false

/-- What is kept of a sector. -/
def fallL (xs ys : List ByteArray) (ks : List Bool) : List ByteArray := (List.range xs.length).map fun i => if ks.getD i false then xs.getD i ⟨#[]⟩ else ys.getD i ⟨#[]⟩

def fallX (xs ys : List ByteArray) (ks : List Bool) : List ByteArray := if okD xs ys then fallL xs ys ks else xs
def fallY (xs ys : List ByteArray) (ks : List Bool) : List ByteArray := if okD xs ys then fallL xs ys ks else ys

theorem fallL_len (xs ys : List ByteArray) (ks : List Bool) : (fallL xs ys ks).length = xs.length := by simp [fallL]

theorem fallX_len (xs ys : List ByteArray) (ks : List Bool) : (fallX xs ys ks).length ≤ xs.length ∧ (fallY xs ys ks).length ≤ xs.length + ys.length := by
  rw [fallX, fallY]
  split
  · rw [fallL_len]
    omega
  · omega

theorem fallL_at {xs ys : List ByteArray} {ks : List Bool} {k : Nat} {x y : ByteArray} (hx : xs[k]? = some x) (hy : ys[k]? = some y) : (fallL xs ys ks)[k]? = some (if ks.getD k false then x else y) := by
  have hk : k < xs.length := (List.getElem?_eq_some_iff.1 hx).1
  obtain ⟨_, rfl⟩ := List.getElem?_eq_some_iff.1 hx
  simp [fallL, hk, List.getD_eq_getElem?_getD, hy]

/-- A row of which the first k are as F says. -/
def fallTo (F L : List ByteArray) (k : Nat) : List ByteArray := F.take k ++ L.drop k

theorem fallTo_zero (F L : List ByteArray) : fallTo F L 0 = L := by simp [fallTo]
theorem fallTo_all (F L : List ByteArray) (h : F.length = L.length) : fallTo F L L.length = F := by simp [fallTo, ← h]

theorem fallTo_len (F L : List ByteArray) (k : Nat) (h : F.length = L.length) (hk : k ≤ L.length) : (fallTo F L k).length = L.length := by simp [fallTo]; omega

theorem fallTo_at (F L : List ByteArray) (k : Nat) (h : F.length = L.length) (hk : k < L.length) : (fallTo F L k)[k]? = L[k]? := by
  rw [fallTo, List.getElem?_append_right (by simp; omega), List.length_take, List.getElem?_drop]
  congr 1
  omega

theorem fallTo_set (F L : List ByteArray) (k : Nat) (x : ByteArray) (h : F.length = L.length) (hk : k < L.length) (hF : F[k]? = some x) : (fallTo F L k).set k x = fallTo F L (k + 1) := by
  have ht : (F.take k).length = k := by simp; omega
  rw [fallTo, fallTo, List.set_append_right k _ (by omega), ht, Nat.sub_self, List.drop_eq_getElem_cons hk, List.set_cons_zero, List.take_add_one, hF]
  simp

theorem fallTo_same (F L : List ByteArray) (k : Nat) (x : ByteArray) (h : F.length = L.length) (hL : L[k]? = some x) (hF : F[k]? = some x) : fallTo F L k = fallTo F L (k + 1) := by
  have hk : k < L.length := (List.getElem?_eq_some_iff.1 hL).1
  rw [← fallTo_set F L k x h hk hF]
  apply List.ext_getElem?
  intro j
  rw [List.getElem?_set]
  by_cases hj : k = j
  · subst hj
    have := fallTo_len F L k h (by omega)
    rw [if_pos rfl, if_pos (by omega), fallTo_at F L k h hk, hL]
  · rw [if_neg hj]

end Go.Proofs.YtlkgopoicpnacaaGreatDoor
