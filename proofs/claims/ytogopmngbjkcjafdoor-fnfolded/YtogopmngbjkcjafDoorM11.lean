/- What holds of each upload that records made; what DoneUp answers by the specification. No program in it. Names held against each other; no program in it. What the program's reach answers: where the first upload of this name lies. The upload that a function of the store speaks of, and the code that comes first; no program in it. How great what a function of the store answers may be; no program in it. -/
import Derived.Test.YtogopmngbjkcjafDoorM10
import Derived.Test.YtogopmngbjkcjafDoorM08
import Derived.Lib.Strings
import Derived.Test.YtogopmngbjkcjafDoorM09
namespace Go.Proofs.YtogopmngbjkcjafDoor
open Go.RowKit
set_option linter.unusedVariables false

/-- What holds of each upload holds of each behind one record more. -/
theorem oneU_each {P : U → Prop} {l l' : List U} {r : R} (h : oneU l r = some l') (hl : ∀ u ∈ l, P u) (hm : r.k = 1 → P ⟨r.id, r.n, [], false⟩) (hd : ∀ u, P u → u.done = false → r.n = (u.zs.length : Int) → r.n + (r.zs.length : Int) ≤ u.want → P { u with zs := u.zs ++ r.zs }) (hf : ∀ u, P u → u.done = false → (u.zs.length : Int) = u.want → P { u with done := true }) : ∀ u ∈ l', P u := by
  intro u hu
  rw [oneU] at h
  split at h
  · rename_i hk
    split at h
    · injection h with h
      subst h
      rcases List.mem_append.1 hu with h | h
      · exact hl u (List.mem_of_mem_take h)
      · rcases List.mem_cons.1 h with rfl | h
        · exact hm hk
        · exact hl u (List.mem_of_mem_drop h)
    · cases h
  · split at h
    · cases h
    · split at h
      · cases h
      · rename_i k _ x hx
        have hxl := hl x (List.mem_of_getElem? hx)
        split at h
        · split at h
          · cases h
          · rename_i hc
            injection h with h
            subst h
            rcases List.mem_or_eq_of_mem_set hu with h | rfl
            · exact hl u h
            · refine hd x hxl ?_ ?_ ?_
              · cases hdn : x.done with
                | false => rfl
                | true => exact absurd (.inl hdn) hc
              · by_cases h9 : r.n = (x.zs.length : Int)
                · exact h9
                · exact absurd (.inr (.inl h9)) hc
              · by_cases h9 : x.want < r.n + (r.zs.length : Int)
                · exact absurd (.inr (.inr h9)) hc
                · omega
        · split at h
          · split at h
            · cases h
            · rename_i hc
              injection h with h
              subst h
              rcases List.mem_or_eq_of_mem_set hu with h | rfl
              · exact hl u h
              · refine hf x hxl ?_ ?_
                · cases hdn : x.done with
                  | false => rfl
                  | true => exact absurd (.inl hdn) hc
                · by_cases h9 : (x.zs.length : Int) = x.want
                  · exact h9
                  · exact absurd (.inr h9) hc
          · split at h
            · injection h with h
              subst h
              exact hl u (List.mem_of_mem_eraseIdx hu)
            · cases h

/-- An upload has no more than it wants, and once it is done just that. -/
def U.fit (u : U) : Prop := (u.zs.length : Int) ≤ u.want ∧ (u.done = true → (u.zs.length : Int) = u.want)

theorem oneU_fit1 {l l' : List U} {r : R} (h : oneU l r = some l') (hl : ∀ u ∈ l, u.fit) (hr : r.k = 1 → 0 ≤ r.n) : ∀ u ∈ l', u.fit := by
  refine oneU_each h hl (fun hk => ⟨hr hk, fun h9 => by cases h9⟩) (fun u hu hdn hn hw => ⟨?_, fun h9 => ?_⟩) (fun u hu hdn hw => ⟨hu.1, fun _ => hw⟩)
  · show ((u.zs ++ r.zs).length : Int) ≤ u.want
    rw [List.length_append]
    omega
  · rw [hdn] at h9; cases h9

theorem foldlM_fit {rs : List R} : ∀ {us us' : List U}, (∀ u ∈ us, u.fit) → (∀ r ∈ rs, r.k = 1 → 0 ≤ r.n) → rs.foldlM oneU us = some us' → ∀ u ∈ us', u.fit := by
  induction rs with
  | nil => intro us us' h1 _ h; obtain rfl : us = us' := by simpa using h
           exact h1
  | cons r rs ih =>
    intro us us' h1 hr h
    rw [List.foldlM_cons] at h
    cases ho : oneU us r with
    | none => rw [ho] at h; cases h
    | some u1 =>
      rw [ho] at h
      exact ih (oneU_fit1 ho h1 (hr r (List.mem_cons_self ..))) (fun x hx => hr x (List.mem_cons_of_mem _ hx)) h

theorem SOk.fits {X Y : List ByteArray} {ep nx : Int} {us : List U} (h : SOk X Y ep nx us) : ∀ u ∈ us, u.fit :=
  foldlM_fit (us := []) (by simp) (fun r hr _ => (okRec_iff (scan_allok X r hr)).2.2.2.2.1.1) h.2.2.1

/-- The sum of bytes. -/
def crcI (zs : List Int) : Int := ((crcL zs ^^^ 4294967295 : Nat) : Int)

def doneR (id : ByteArray) : R := ⟨0, 0, 3, id, 0, []⟩

/-- What the specification's DoneUp answers. -/
noncomputable def doneA (X Y : List ByteArray) (ep nx : Int) (us : List U) (id : ByteArray) (sum : Int) : WA :=
  if decB (SOk X Y ep nx us) = true ∧ idB id.data.toList = true then
    match atU us id with
    | none => ⟨X, nx, us, 2⟩
    | some k => match us[k]? with
      | none => ⟨X, nx, us, 2⟩
      | some u =>
        if (u.zs.length : Int) < u.want then ⟨X, nx, us, 4⟩
        else if sum ≠ crcI u.zs then ⟨X, nx, us, 6⟩
        else if u.done = true then ⟨X, nx, us, 0⟩
        else if nx < (X.length : Int) then wroteA X ep nx us [doneR id] else ⟨X, nx, us, 5⟩
  else ⟨X, nx, us, 1⟩

theorem done_fits {us : List U} {id : ByteArray} {k : Nat} {u : U} (h1 : atU us id = some k) (h2 : us[k]? = some u) (h3 : u.done = false) (h4 : (u.zs.length : Int) = u.want) : oneU us (doneR id) = some (us.set k { u with done := true }) := by
  unfold oneU doneR
  dsimp only
  rw [if_neg (by decide), h1]
  dsimp only
  rw [h2]
  dsimp only
  rw [if_neg (by decide), if_pos rfl, if_neg (by rw [h3]; simp; omega)]

end Go.Proofs.YtogopmngbjkcjafDoor

namespace Go.Proofs.YtogopmngbjkcjafDoor
open Go.RowKit
set_option linter.unusedVariables false

theorem ids_eq (s t : ByteArray) : (s.toList == t.toList) = decide (s = t) := by
  rw [Bool.eq_iff_iff, beq_iff_eq, decide_eq_true_eq, Lib.toList_data, Lib.toList_data]
  constructor
  · intro h
    cases s
    cases t
    exact congrArg ByteArray.mk (Array.toList_inj.1 h)
  · intro h; rw [h]

end Go.Proofs.YtogopmngbjkcjafDoor

namespace Go.Proofs.YtogopmngbjkcjafDoor
open Go.RowKit
set_option linter.unusedVariables false

/-- The program's key: an upload's name. -/
theorem implKeyU_any (p : ByteArray) (q : Int) (a : Option Addr) (n c : Nat) (b : Bool) (w : World) : Calls Tryd.prog 88 #[.agg #[.string p, .int .i64 q, .slice a n c, .bool b]] w fun e w' => e = .returned (.string p) ∧ Below w.heap.size w w' := by
  have HB : Hid (Below w.heap.size w (w.alloc (.cells #[.string p, .int .i64 q, .slice a n c, .bool b] 30))) := (Below.refl _ _).alloc (Nat.le_refl _) _
  go_enter Tryd.func88, Tryd.ntmps88
  go_wp2_with fail
  go_ret
  exact ⟨rfl, HB.out⟩

/-- The method by which an upload is asked for its key. -/
theorem keyMU (p : ByteArray) (q : Int) (a : Option Addr) (n c : Nat) (b : Bool) (w : World) : Sem.run Tryd.prog (Go.method 235 30 (.agg #[.string p, .int .i64 q, .slice a n c, .bool b]) "loop.example/g00199/impl.key") w = .ok (88, .agg #[.string p, .int .i64 q, .slice a n c, .bool b]) w := by kernel_rfl

/-- The upload that is reached: its place in memory, or none. -/
def reachUO (a : Option Addr) (k : Option Nat) : Option Addr :=
  match a, k with
  | some ad, some k => some ⟨ad.block, k * 4, none⟩
  | _, _ => none

theorem reachUO_none (a : Option Addr) : reachUO a none = none := by cases a <;> rfl

set_option maxRecDepth 10000 in
set_option maxHeartbeats 800000 in
theorem implReachU_any (a : Option Addr) (n c lo : Nat) (id : ByteArray) (l : List UE) (w : World) (h : UpRow w lo (.slice a n c) l) (hn : n = l.length) (hl : n ≤ 1099511627776) :
    Calls Tryd.prog 48 #[.slice a n c, .string id] w fun e w' => e = .returned (.pointer (reachUO a (atU (l.map UE.u) id))) ∧ Below w.heap.size w w' := by
  have HR : Hid (∀ W, Below w.heap.size w W → UpRow W lo (.slice a n c) l) := fun W hb => h.stays hb
  have HN : Hid (n = l.length) := hn
  clear h hn
  go_enter Tryd.func48, Tryd.ntmps48
  go_wp2_with fail
  go_loopw [8] (fun v wr => ∃ k : Nat, k ≤ n ∧ v = .int .i64 k ∧ Hid (Below w.heap.size w wr) ∧ Hid (∀ j (hj : j < l.length), j < k → (l[j]).u.id ≠ id)) (fun v _ => n - (intOf v).toNat)
  case atStart => exact ⟨0, Nat.zero_le _, rfl, Below.refl _ _, fun j _ hj => absurd hj (Nat.not_lt_zero _)⟩
  case round =>
    obtain ⟨k, hk, rfl, HB, HJ⟩ := hrel
    by_cases hlt : k < n
    · have hkl : k < l.length := by rw [← HN.out]; exact hlt
      have hki : (k : Int) < (n : Int) := by omega
      obtain ⟨g, rfl, g0, g1, g2, g3, _⟩ := (HR.out _ HB.out).at HN.out hkl
      have he := ids_eq (l[k]).u.id id
      by_cases hid : (l[k]).u.id = id
      · rw [decide_eq_true hid] at he
        have HF : Hid (atU (l.map UE.u) id = some k) := atU_some (k := k) (by simpa using hkl) (by simpa using hid) (fun j hj hjk => by simpa using HJ.out j (by simpa using hj) hjk)
        clear hid HJ HR HN
        generalize l[k] = x at *
        have hkm := keyMU x.u.id x.u.want x.a x.n x.c x.u.done
        go_wp2_with fail
        refine (implKeyU_any x.u.id x.u.want x.a x.n x.c x.u.done _).mono ?_
        rintro e w1 ⟨rfl, hb1⟩
        have HB1 : Hid (Below w.heap.size w w1) := HB.out.trans (hb1.mono HB.out.size)
        clear hb1
        go_wp2_with fail
        go_ret
        exact ⟨by rw [HF.out]; simp [reachUO], HB1.out⟩
      · rw [decide_eq_false hid] at he
        have HJ2 : Hid (∀ j (hj : j < l.length), j < k + 1 → (l[j]).u.id ≠ id) := fun j hj hjk => by
          by_cases e : j = k
          · subst e; exact hid
          · exact HJ.out j hj (by omega)
        clear hid HJ
        generalize l[k] = x at *
        have hkm := keyMU x.u.id x.u.want x.a x.n x.c x.u.done
        go_wp2_with fail
        refine (implKeyU_any x.u.id x.u.want x.a x.n x.c x.u.done _).mono ?_
        rintro e w1 ⟨rfl, hb1⟩
        have HB1 : Hid (Below w.heap.size w w1) := HB.out.trans (hb1.mono HB.out.size)
        clear hb1
        go_wp2_with fail
        go_roundw
        case rel => exact ⟨k + 1, by omega, by go_num, HB1, HJ2⟩
        case measure => simp [intOf]; omega
    · have HF : Hid (atU (l.map UE.u) id = none) := atU_none (fun j hj => by simpa using HJ.out j (by simpa using hj) (by have := HN.out; simp at hj; omega))
      have hkl : n = k := by omega
      clear HJ HR HN
      subst hkl
      go_wp2_with fail
      go_ret
      exact ⟨by rw [HF.out, reachUO_none]; rfl, HB.out⟩

end Go.Proofs.YtogopmngbjkcjafDoor

namespace Go.Proofs.YtogopmngbjkcjafDoor
open Go.RowKit
set_option linter.unusedVariables false

noncomputable def forC (X Y : List ByteArray) (ep nx : Int) (us : List U) (id : ByteArray) : Int :=
  if decB (SOk X Y ep nx us) = true ∧ idB id.data.toList = true then (if atU us id = none then 2 else 0) else 1
noncomputable def forP (X Y : List ByteArray) (ep nx : Int) (us : List U) (id : ByteArray) (ua : Option Addr) : Option Addr :=
  if decB (SOk X Y ep nx us) = true ∧ idB id.data.toList = true then reachUO ua (atU us id) else none

section
variable {X Y : List ByteArray} {ep nx : Int} {us : List U} {id : ByteArray} {ua : Option Addr}

theorem for_form (h : ¬ (decB (SOk X Y ep nx us) = true ∧ idB id.data.toList = true)) : forP X Y ep nx us id ua = none ∧ forC X Y ep nx us id = 1 := by
  rw [forP, forC, if_neg h, if_neg h]
  exact ⟨rfl, rfl⟩

theorem for_none (h1 : decB (SOk X Y ep nx us) = true) (h2 : idB id.data.toList = true) (h3 : atU us id = none) : forP X Y ep nx us id ua = none ∧ forC X Y ep nx us id = 2 := by
  rw [forP, forC, if_pos ⟨h1, h2⟩, if_pos ⟨h1, h2⟩, if_pos h3, h3, reachUO_none]
  exact ⟨rfl, rfl⟩

theorem for_some {k : Nat} (h1 : decB (SOk X Y ep nx us) = true) (h2 : idB id.data.toList = true) (h3 : atU us id = some k) : forP X Y ep nx us id ua = reachUO ua (some k) ∧ forC X Y ep nx us id = 0 := by
  rw [forP, forC, if_pos ⟨h1, h2⟩, if_pos ⟨h1, h2⟩, if_neg (by rw [h3]; simp), h3]
  exact ⟨rfl, rfl⟩

theorem forC_zero (h : forC X Y ep nx us id = 0) : SOk X Y ep nx us ∧ idB id.data.toList = true ∧ ∃ k, atU us id = some k := by
  rw [forC] at h
  split at h
  · rename_i h1
    split at h
    · cases h
    · rename_i h2
      cases ha : atU us id with
      | none => exact absurd ha h2
      | some k => exact ⟨decB_of h1.1, h1.2, k, rfl⟩
  · cases h

theorem drop_forC (h : forC X Y ep nx us id ≠ 0) : (dropA X Y ep nx us id).c = forC X Y ep nx us id := by
  rw [forC] at h ⊢
  rw [dropA]
  split
  · rename_i h1
    rw [if_pos h1] at h
    split
    · rfl
    · rename_i h2; rw [if_neg h2] at h; exact absurd rfl h
  · rfl
end

end Go.Proofs.YtogopmngbjkcjafDoor

namespace Go.Proofs.YtogopmngbjkcjafDoor
open Go.RowKit
set_option linter.unusedVariables false

/-- An answer is no greater than this. -/
def WA.small (a : WA) : Prop := a.X.length ≤ 1048576 ∧ a.us.length ≤ 1048576 ∧ ∀ u ∈ a.us, u.zs.length ≤ 1048576

theorem makeA_sz {X Y : List ByteArray} {ep nx : Int} {us : List U} {id : ByteArray} {want : Int} (h1 : X.length ≤ 1048576) (h2 : us.length ≤ 1048576) (h3 : ∀ u ∈ us, u.zs.length ≤ 1048576) : (makeA X Y ep nx us id want).small := by
  by_cases h : (makeA X Y ep nx us id want).c = 0
  · obtain ⟨hso, _, _, us', hf, hm⟩ := makeA_yes h
    rw [hm]
    refine ⟨by show (wroteX _ _ _ _).length ≤ _; rw [wroteX_len]; exact h1, ?_, ?_⟩
    · have := foldlM_len hso.few hf
      show us'.length ≤ _
      omega
    · rw [List.foldlM_cons] at hf
      cases ho : oneU us (makeR id want) with
      | none => rw [ho] at hf; cases hf
      | some u1 =>
        rw [ho] at hf
        obtain rfl : u1 = us' := by simpa using hf
        intro u hu
        have := oneU_zs ho h3 u hu
        simpa [makeR] using this
  · rw [makeA_no h]
    exact ⟨h1, h2, h3⟩

theorem dropA_sz {X Y : List ByteArray} {ep nx : Int} {us : List U} {id : ByteArray} (h1 : X.length ≤ 1048576) (h2 : us.length ≤ 1048576) (h3 : ∀ u ∈ us, u.zs.length ≤ 1048576) : (dropA X Y ep nx us id).small := by
  by_cases h : (dropA X Y ep nx us id).c = 0
  · obtain ⟨hso, _, _, us', hf, hm⟩ := dropA_yes h
    rw [hm]
    refine ⟨by show (wroteX _ _ _ _).length ≤ _; rw [wroteX_len]; exact h1, ?_, ?_⟩
    · have := foldlM_len hso.few hf
      show us'.length ≤ _
      omega
    · rw [List.foldlM_cons] at hf
      cases ho : oneU us (dropR id) with
      | none => rw [ho] at hf; cases hf
      | some u1 =>
        rw [ho] at hf
        obtain rfl : u1 = us' := by simpa using hf
        intro u hu
        have := oneU_zs ho h3 u hu
        simpa [dropR] using this
  · rw [dropA_no h]
    exact ⟨h1, h2, h3⟩

end Go.Proofs.YtogopmngbjkcjafDoor
