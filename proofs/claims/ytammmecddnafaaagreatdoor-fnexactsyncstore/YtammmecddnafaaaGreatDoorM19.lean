/- Where the program finds an upload of a store. Whether the program holds sectors to be left. What is written into a store, one record behind the other, and what the store's functions answer; no program in it. What the program's makeCode answers. A sector of a store in memory is put; its variable's cells are written. No statement of the program but its table of types. An answer that is a disk: its rows lie in memory from base on, and apart. No program in it. An append onto a row of the call's own from a slice that may be nil: as an operation, as a step of a region that draws. No program in it. The library's Clone of texts, and the program's copy of a disk: the same in memory of its own. What the program's copy of a disk answers. What the program's copy of an upload answers. What the program's copyEach answers of uploads. A region that draws its order, whose operations each leave all that was there as it was (they read, make variables, call what makes rows of its own), and behind all of them a few that come one by one: each operation is looked at once, in whatever world it may come up. No program in it. -/
import Derived.Test.YtammmecddnafaaaGreatDoorM07
import Derived.Test.YtammmecddnafaaaGreatDoorM03
import Derived.Deep.CutBlock
import Derived.Test.YtammmecddnafaaaGreatDoorM17
import Derived.Test.YtammmecddnafaaaGreatDoorM18
import Derived.Test.YtammmecddnafaaaGreatDoorM14
import Derived.Test.YtammmecddnafaaaGreatDoorM04
import Derived.Deep.AppendSrc
import Derived.Deep.RegionLaw
import Derived.Laws.AppendOwn
import Derived.WalkKit
import Derived.Lib.SliceRun
import Derived.Deep.RegionHeld3
import Derived.OwnWalk
import Derived.Test.YtammmecddnafaaaGreatDoorM01
import Derived.StillTail
import Derived.Deep.QuietTactic
namespace Go.Proofs.YtammmecddnafaaaGreatDoor
open Go.RowKit
set_option linter.unusedVariables false

set_option maxRecDepth 10000 in
set_option maxHeartbeats 800000 in
theorem implUpIn_any (a : Option Addr) (n ca : Nat) (a' : Option Addr) (n' ca' : Nat) (ep nx : Int) (ua : Option Addr) (un uc lo : Nat) (l : List UE) (id : ByteArray) (w : World) (hu : UpRow w lo (.slice ua un uc) l) (hun : un = l.length) (hul : un ≤ 1099511627776) :
    Calls Tryz.prog 63 #[.agg #[.slice a n ca, .slice a' n' ca', .int .i64 ep, .int .i64 nx, .slice ua un uc], .string id] w fun e w' => e = .returned (.pointer (reachUO ua (atU (l.map UE.u) id))) ∧ Below w.heap.size w w' := by
  have HB : Hid (Below w.heap.size w (w.alloc (.cells #[.slice a n ca, .slice a' n' ca', .int .i64 ep, .int .i64 nx, .slice ua un uc] 32))) := (Below.refl _ _).alloc (Nat.le_refl _) _
  have HC : Hid (Calls Tryz.prog 91 #[.slice ua un uc, .string id] (w.alloc (.cells #[.slice a n ca, .slice a' n' ca', .int .i64 ep, .int .i64 nx, .slice ua un uc] 32)) fun e w' => e = .returned (.pointer (reachUO ua (atU (l.map UE.u) id))) ∧ Below (w.alloc (.cells #[.slice a n ca, .slice a' n' ca', .int .i64 ep, .int .i64 nx, .slice ua un uc] 32)).heap.size (w.alloc (.cells #[.slice a n ca, .slice a' n' ca', .int .i64 ep, .int .i64 nx, .slice ua un uc] 32)) w') := implReachU_any ua un uc lo id l _ (hu.stays HB.out) hun hul
  clear hu hun
  generalize reachUO ua (atU (l.map UE.u) id) = p at *
  go_enter Tryz.func63, Tryz.ntmps63
  go_wp2_with fail
  refine HC.out.mono ?_
  rintro _ w1 ⟨rfl, hb1⟩
  have HB1 : Hid (Below w.heap.size w w1) := HB.out.trans (hb1.mono HB.out.size)
  clear hb1
  go_wp2_with fail
  go_ret
  exact ⟨rfl, HB1.out⟩

end Go.Proofs.YtammmecddnafaaaGreatDoor

namespace Go.Proofs.YtammmecddnafaaaGreatDoor
open Go.RowKit
set_option linter.unusedVariables false

set_option maxRecDepth 10000 in
set_option maxHeartbeats 800000 in
theorem implRoom_any (a : Option Addr) (n ca : Nat) (a' : Option Addr) (n' ca' : Nat) (ep nx : Int) (ua : Option Addr) (un uc : Nat) (s : Int) (w : World) (hn : n ≤ 1099511627776) (hx : 0 ≤ nx ∧ nx ≤ 1099511627776) :
    Calls Tryz.prog 64 #[.agg #[.slice a n ca, .slice a' n' ca', .int .i64 ep, .int .i64 nx, .slice ua un uc], .int .i64 s] w fun e w' => e = .returned (.bool (decide (s ≤ (n : Int) - nx))) ∧ Below w.heap.size w w' := by
  obtain ⟨w0, hw0⟩ : ∃ w0, w.alloc (.cells #[.slice a n ca, .slice a' n' ca', .int .i64 ep, .int .i64 nx, .slice ua un uc] 32) = w0 := ⟨_, rfl⟩
  have HE : Hid (w.alloc (.cells #[.slice a n ca, .slice a' n' ca', .int .i64 ep, .int .i64 nx, .slice ua un uc] 32) = w0) := hw0
  have HQ : Hid (BoxN w0 w.heap.size 32 [.slice a n ca, .slice a' n' ca', .int .i64 ep, .int .i64 nx, .slice ua un uc]) := by show BoxN _ _ _ _; rw [← hw0]; exact BoxN.new _ _ _
  have HB : Hid (Below w.heap.size w w0) := by show Below _ _ _; rw [← hw0]; exact (Below.refl _ _).alloc (Nat.le_refl _) _
  clear hw0
  have c0 := HQ.out.cell 0 rfl
  have c3 := HQ.out.cell 3 rfl
  obtain ⟨hx0, hx1⟩ := hx
  go_enter Tryz.func64, Tryz.ntmps64
  go_upto_region 1 with fail
  rw [HE.out]
  clear HE
  go_wp2_with fail
  go_ret
  exact ⟨rfl, HB.out⟩

end Go.Proofs.YtammmecddnafaaaGreatDoor

namespace Go.Proofs.YtammmecddnafaaaGreatDoor
open Go.RowKit
set_option linter.unusedVariables false

theorem decB_of {P : Prop} (h : decB P = true) : P := @of_decide_eq_true P (Classical.propDecidable P) h

/-- A record as it is written. -/
def R.at (r : R) (ep : Int) (q : Nat) : R := { r with e := ep, q := (q : Int) }

/-- The sectors behind records that are written from nx on. -/
def wroteX (X : List ByteArray) (ep : Int) (nx : Nat) : List R → List ByteArray
  | [] => X
  | r :: rs => wroteX (X.set nx (txU (r.at ep nx).put)) ep (nx + 1) rs

theorem wroteX_len (ep : Int) : ∀ (rs : List R) (X : List ByteArray) (nx : Nat), (wroteX X ep nx rs).length = X.length
  | [], _, _ => rfl
  | r :: rs, X, nx => by rw [wroteX, wroteX_len ep rs, List.length_set]

theorem wroteX_snoc (ep : Int) (r : R) : ∀ (rs : List R) (X : List ByteArray) (nx : Nat), wroteX X ep nx (rs ++ [r]) = (wroteX X ep nx rs).set (nx + rs.length) (txU (r.at ep (nx + rs.length)).put)
  | [], _, _ => rfl
  | x :: rs, X, nx => by
    have h : nx + 1 + rs.length = nx + (rs.length + 1) := by omega
    rw [List.cons_append, wroteX, wroteX_snoc ep r rs, wroteX, List.length_cons, h]

/-- What a function of the store answers: the sectors, the next one, the uploads, the code. -/
structure WA where
  X : List ByteArray
  nx : Int
  us : List U
  c : Int

def wroteA (X : List ByteArray) (ep nx : Int) (us : List U) (rs : List R) : WA := ⟨wroteX X ep nx.toNat rs, nx + (rs.length : Int), (rs.foldlM oneU us).getD us, 0⟩

theorem SOk.nums {X Y : List ByteArray} {ep nx : Int} {us : List U} (h : SOk X Y ep nx us) : (0 ≤ ep ∧ ep ≤ 10000) ∧ 0 ≤ nx ∧ nx ≤ (X.length : Int) ∧ X.length ≤ 200 := by
  obtain ⟨h1, h2, h3, h4, h5, h6⟩ := h
  have h7 := scanFrom_len X 0 0
  have h8 := (okD_iff.1 h1).2.1
  have h9 : (scanR X).length = (scanFrom 0 0 X).length := rfl
  exact ⟨h2, by omega, by omega, h8⟩

theorem foldlM_len {rs : List R} : ∀ {us us' : List U}, us.length ≤ 10 → rs.foldlM oneU us = some us' → us'.length ≤ 10 := by
  induction rs with
  | nil => intro us us' h1 h; obtain rfl : us = us' := by simpa using h
           exact h1
  | cons r rs ih =>
    intro us us' h1 h
    rw [List.foldlM_cons] at h
    cases ho : oneU us r with
    | none => rw [ho] at h; cases h
    | some u1 =>
      rw [ho] at h
      have := oneU_len ho
      exact ih (by omega) h

theorem SOk.few {X Y : List ByteArray} {ep nx : Int} {us : List U} (h : SOk X Y ep nx us) : us.length ≤ 10 := foldlM_len (us := []) (by simp) h.2.2.1

/-- What is right stays so behind records that fit. -/
theorem wrote_ok {Y : List ByteArray} {ep : Int} : ∀ {rs : List R} {X : List ByteArray} {nx : Int} {us us' : List U}, SOk X Y ep nx us → (∀ r ∈ rs, idB r.id.data.toList = true ∧ kindB r.k r.n r.zs.length = true ∧ ∀ x ∈ r.zs, 0 ≤ x ∧ x ≤ 255) → nx + (rs.length : Int) ≤ (X.length : Int) → rs.foldlM oneU us = some us' → SOk (wroteX X ep nx.toNat rs) Y ep (nx + (rs.length : Int)) us' := by
  intro rs
  induction rs with
  | nil =>
    intro X nx us us' h _ _ ho
    obtain rfl : us = us' := by simpa using ho
    simpa [wroteX] using h
  | cons r rs ih =>
    intro X nx us us' h hk hl ho
    obtain ⟨n1, n2, n3, n4⟩ := h.nums
    have hl' : nx + ((rs.length : Int) + 1) ≤ (X.length : Int) := by simpa using hl
    rw [List.foldlM_cons] at ho
    cases h1 : oneU us r with
    | none => rw [h1] at ho; cases ho
    | some u1 =>
      rw [h1] at ho
      have hr := hk r (List.mem_cons_self ..)
      have hq : ((nx.toNat : Nat) : Int) = nx := by omega
      have hok : (r.at ep nx.toNat).ok = true := by
        show okRec ep ((nx.toNat : Nat) : Int) r.k r.id r.n r.zs.length = true
        rw [okRec, hr.1, hr.2.1, hq, decide_eq_true n1, decide_eq_true (show 0 ≤ nx ∧ nx ≤ 199 by omega)]
        rfl
      have h2 := (h.put (r := r.at ep nx.toNat) hok hr.2.2 rfl hq (by omega) (us' := u1) h1).2
      have h3 := ih h2 (fun x hx => hk x (List.mem_cons_of_mem _ hx)) (by rw [List.length_set]; omega) ho
      have e1 : (nx + 1).toNat = nx.toNat + 1 := by omega
      have e2 : nx + 1 + (rs.length : Int) = nx + ((r :: rs).length : Int) := by simp; omega
      rw [e1, e2] at h3
      exact h3

/-- What MakeUp answers. -/
def makeR (id : ByteArray) (want : Int) : R := ⟨0, 0, 1, id, want, []⟩
noncomputable def makeA (X Y : List ByteArray) (ep nx : Int) (us : List U) (id : ByteArray) (want : Int) : WA :=
  if decB (SOk X Y ep nx us) = true ∧ idB id.data.toList = true ∧ 0 ≤ want ∧ want ≤ 1000000 then
    if atU us id = none then
      if nx < (X.length : Int) ∧ us.length ≠ 10 then wroteA X ep nx us [makeR id want] else ⟨X, nx, us, 5⟩
    else ⟨X, nx, us, 3⟩
  else ⟨X, nx, us, 1⟩

/-- What DropUp answers. -/
def dropR (id : ByteArray) : R := ⟨0, 0, 4, id, 0, []⟩
noncomputable def dropA (X Y : List ByteArray) (ep nx : Int) (us : List U) (id : ByteArray) : WA :=
  if decB (SOk X Y ep nx us) = true ∧ idB id.data.toList = true then
    if atU us id = none then ⟨X, nx, us, 2⟩
    else if nx < (X.length : Int) then wroteA X ep nx us [dropR id] else ⟨X, nx, us, 5⟩
  else ⟨X, nx, us, 1⟩

theorem make_fits {us : List U} {id : ByteArray} {want : Int} (h1 : atU us id = none) (h2 : us.length ≤ 10) (h3 : us.length ≠ 10) : oneU us (makeR id want) = some (makeU us ⟨id, want, [], false⟩) := by
  unfold oneU makeR
  dsimp only
  rw [if_pos rfl, if_pos ⟨h1, by omega⟩]

theorem drop_fits {us : List U} {id : ByteArray} {k : Nat} (h1 : atU us id = some k) : ∃ us', oneU us (dropR id) = some us' := by
  obtain ⟨hk, _⟩ := atU_is h1
  refine ⟨us.eraseIdx k, ?_⟩
  unfold oneU dropR
  dsimp only
  rw [if_neg (by decide), h1]
  dsimp only
  rw [List.getElem?_eq_getElem hk]
  rfl

theorem makeA_no {X Y : List ByteArray} {ep nx : Int} {us : List U} {id : ByteArray} {want : Int} (h : (makeA X Y ep nx us id want).c ≠ 0) : makeA X Y ep nx us id want = ⟨X, nx, us, (makeA X Y ep nx us id want).c⟩ := by
  rw [makeA] at h ⊢
  split at h
  · rename_i h1
    split at h
    · split at h
      · exact absurd rfl h
      · rename_i h2 h3; rw [if_pos h1, if_pos h2, if_neg h3]
    · rename_i h2; rw [if_pos h1, if_neg h2]
  · rename_i h1; rw [if_neg h1]

theorem makeA_yes {X Y : List ByteArray} {ep nx : Int} {us : List U} {id : ByteArray} {want : Int} (h : (makeA X Y ep nx us id want).c = 0) : SOk X Y ep nx us ∧ (idB id.data.toList = true ∧ kindB 1 want 0 = true) ∧ nx + 1 ≤ (X.length : Int) ∧ ∃ us', [makeR id want].foldlM oneU us = some us' ∧ makeA X Y ep nx us id want = ⟨wroteX X ep nx.toNat [makeR id want], nx + 1, us', 0⟩ := by
  rw [makeA] at h
  split at h
  · rename_i h1
    split at h
    · rename_i h2
      split at h
      · rename_i h3
        have hso : SOk X Y ep nx us := decB_of h1.1
        have ho := make_fits (want := want) h2 hso.few h3.2
        have hf : [makeR id want].foldlM oneU us = some (makeU us ⟨id, want, [], false⟩) := by rw [List.foldlM_cons, ho]; rfl
        refine ⟨hso, ⟨h1.2.1, ?_⟩, by omega, _, hf, ?_⟩
        · rw [kindB, if_pos rfl, decide_eq_true (show 0 ≤ want ∧ want ≤ 1000000000 by omega)]; rfl
        · rw [makeA, if_pos h1, if_pos h2, if_pos h3, wroteA, hf]; rfl
      · cases h
    · cases h
  · cases h

theorem dropA_no {X Y : List ByteArray} {ep nx : Int} {us : List U} {id : ByteArray} (h : (dropA X Y ep nx us id).c ≠ 0) : dropA X Y ep nx us id = ⟨X, nx, us, (dropA X Y ep nx us id).c⟩ := by
  rw [dropA] at h ⊢
  split at h
  · rename_i h1
    split at h
    · rename_i h2; rw [if_pos h1, if_pos h2]
    · rename_i h2
      split at h
      · exact absurd rfl h
      · rename_i h3; rw [if_pos h1, if_neg h2, if_neg h3]
  · rename_i h1; rw [if_neg h1]

theorem dropA_yes {X Y : List ByteArray} {ep nx : Int} {us : List U} {id : ByteArray} (h : (dropA X Y ep nx us id).c = 0) : SOk X Y ep nx us ∧ (idB id.data.toList = true ∧ kindB 4 0 0 = true) ∧ nx + 1 ≤ (X.length : Int) ∧ ∃ us', [dropR id].foldlM oneU us = some us' ∧ dropA X Y ep nx us id = ⟨wroteX X ep nx.toNat [dropR id], nx + 1, us', 0⟩ := by
  rw [dropA] at h
  split at h
  · rename_i h1
    split at h
    · cases h
    · rename_i h2
      split at h
      · rename_i h3
        have hso : SOk X Y ep nx us := decB_of h1.1
        cases ha : atU us id with
        | none => exact absurd ha h2
        | some k =>
          obtain ⟨us', ho⟩ := drop_fits ha
          have hf : [dropR id].foldlM oneU us = some us' := by rw [List.foldlM_cons, ho]; rfl
          refine ⟨hso, ⟨h1.2, rfl⟩, by omega, us', hf, ?_⟩
          rw [dropA, if_pos h1, if_neg h2, if_pos h3, wroteA, hf]; rfl
      · cases h
  · cases h

end Go.Proofs.YtammmecddnafaaaGreatDoor

namespace Go.Proofs.YtammmecddnafaaaGreatDoor
open Go.RowKit
set_option linter.unusedVariables false

set_option maxRecDepth 10000 in
set_option maxHeartbeats 3200000 in
theorem implMakeC_any (a : Option Addr) (n ca : Nat) (X : List ByteArray) (a' : Option Addr) (n' ca' : Nat) (Y : List ByteArray) (ep nx : Int) (ua : Option Addr) (un uc lo : Nat) (l : List UE) (id : ByteArray) (want : Int) (w : World) (h1 : Strs w a n X) (h2 : Strs w a' n' Y) (hn : n ≤ 1048576) (hn' : n' ≤ 1048576) (hzx : ∀ x ∈ X, x.size ≤ 1048576) (hu : UpRow w lo (.slice ua un uc) l) (hun : un = l.length) (hul : un ≤ 1048576) (hid : id.size ≤ maxLen) (hsl : SlOk a n ca) (ht : RecT w) (he : ErrN w) :
    Calls Tryz.prog 34 #[.agg #[.slice a n ca, .slice a' n' ca', .int .i64 ep, .int .i64 nx, .slice ua un uc], .string id, .int .i64 want] w fun e w' => e = .returned (.int .i64 (makeA X Y ep nx (l.map UE.u) id want).c) ∧ Below w.heap.size w w' := by
  have hmm : maxLen < 9223372036854775808 := by decide
  obtain ⟨w0, hw0⟩ : ∃ w0, w.alloc (.cells #[.slice a n ca, .slice a' n' ca', .int .i64 ep, .int .i64 nx, .slice ua un uc] 32) = w0 := ⟨_, rfl⟩
  have HE : Hid (w.alloc (.cells #[.slice a n ca, .slice a' n' ca', .int .i64 ep, .int .i64 nx, .slice ua un uc] 32) = w0) := hw0
  have hB : Below w.heap.size w w0 := by rw [← hw0]; exact (Below.refl _ _).alloc (Nat.le_refl _) _
  have hQ : BoxN w0 w.heap.size 32 [.slice a n ca, .slice a' n' ca', .int .i64 ep, .int .i64 nx, .slice ua un uc] := by rw [← hw0]; exact BoxN.new _ _ _
  have HX : Hid (∀ W, Below w0.heap.size w0 W → BoxN W w.heap.size 32 [.slice a n ca, .slice a' n' ca', .int .i64 ep, .int .i64 nx, .slice ua un uc] ∧ Strs W a n X ∧ Strs W a' n' Y ∧ UpRow W lo (.slice ua un uc) l ∧ Below w.heap.size w W ∧ RecT W ∧ ErrN W) := fun W hb => by
    have hw : Below w.heap.size w W := hB.trans (hb.mono hB.size)
    exact ⟨hQ.stays hb, h1.below hw, h2.below hw, hu.stays hw, hw, ht.below hw, he.below hw⟩
  have HL : Hid (un = l.length ∧ (∀ x ∈ X, x.size ≤ 1048576) ∧ X.length = n) := ⟨hun, hzx, h1.1⟩
  have HA0 : Hid (Below w0.heap.size w0 w0) := Below.refl _ _
  clear hw0 h1 h2 hu hun hzx ht he hB hQ
  obtain ⟨c0, c1, c2, c3, c4⟩ := (show _ ∧ _ ∧ _ ∧ _ ∧ _ from ⟨(HX.out _ HA0.out).1.cell 0 rfl, (HX.out _ HA0.out).1.cell 1 rfl, (HX.out _ HA0.out).1.cell 2 rfl, (HX.out _ HA0.out).1.cell 3 rfl, (HX.out _ HA0.out).1.cell 4 rfl⟩)
  go_enter Tryz.func34, Tryz.ntmps34
  go_upto_region 1 with fail
  rw [HE.out]
  clear HE
  go_wp2_with fail
  refine (implSok_any a n ca X a' n' ca' Y ep nx ua un uc lo l w0 (HX.out _ HA0.out).2.1 (HX.out _ HA0.out).2.2.1 hn hn' HL.out.2.1 (HX.out _ HA0.out).2.2.2.1 HL.out.1 hul hsl (HX.out _ HA0.out).2.2.2.2.2.1 (HX.out _ HA0.out).2.2.2.2.2.2).mono ?_
  rintro _ y1 ⟨rfl, hb1⟩
  have HC1 : Hid (Below w0.heap.size w0 y1) := hb1
  obtain ⟨ok, hok⟩ : ∃ ok, decB (SOk X Y ep nx (l.map UE.u)) = ok := ⟨_, rfl⟩
  rw [hok]
  clear hb1 c0 c1 c2 c3 c4
  cases ok with
  | false =>
    have hno : ¬ decB (SOk X Y ep nx (l.map UE.u)) = true := by rw [hok]; simp
    clear hok
    have HRs : Hid ((makeA X Y ep nx (l.map UE.u) id want).c = 1) := by show _ = _; rw [makeA, if_neg (fun h => hno h.1)]
    have HBw : Hid (Below w.heap.size w y1) := (HX.out _ HC1.out).2.2.2.2.1
    clear HX HC1
    go_wp2_with fail
    go_ret
    exact ⟨ret_int HRs.out.symm, HBw.out⟩
  | true =>
  have HDb : Hid (decB (SOk X Y ep nx (l.map UE.u)) = true) := hok
  have HSo : Hid (SOk X Y ep nx (l.map UE.u)) := decB_of hok
  clear hok
  go_wp2_with fail
  refine (implId_any id y1 (by omega)).mono ?_
  rintro _ y2 ⟨rfl, hb2⟩
  have HC2 : Hid (Below w0.heap.size w0 y2) := HC1.out.trans (hb2.mono HC1.out.size)
  clear hb2 HC1
  cases hidB : idB id.data.toList with
  | false =>
    have hno : ¬ idB id.data.toList = true := by rw [hidB]; simp
    clear hidB
    have HRs : Hid ((makeA X Y ep nx (l.map UE.u) id want).c = 1) := by show _ = _; rw [makeA, if_neg (fun h => hno h.2.1)]
    have HBw : Hid (Below w.heap.size w y2) := (HX.out _ HC2.out).2.2.2.2.1
    clear HX HC2
    go_wp2_with fail
    go_ret
    exact ⟨ret_int HRs.out.symm, HBw.out⟩
  | true =>
  have HId : Hid (idB id.data.toList = true) := hidB
  clear hidB
  by_cases hw0' : want < 0
  · have hd0 : decide (want < 0) = true := by simpa using hw0'
    have HRs : Hid ((makeA X Y ep nx (l.map UE.u) id want).c = 1) := by show _ = _; rw [makeA, if_neg (fun h => by have := h.2.2; omega)]
    have HBw : Hid (Below w.heap.size w y2) := (HX.out _ HC2.out).2.2.2.2.1
    clear HX HC2
    go_wp2_with fail
    go_ret
    exact ⟨ret_int HRs.out.symm, HBw.out⟩
  have hd0 : decide (want < 0) = false := by simpa using hw0'
  by_cases hw1' : 1000000 < want
  · have hd1 : decide (1000000 < want) = true := by simpa using hw1'
    have HRs : Hid ((makeA X Y ep nx (l.map UE.u) id want).c = 1) := by show _ = _; rw [makeA, if_neg (fun h => by have := h.2.2; omega)]
    have HBw : Hid (Below w.heap.size w y2) := (HX.out _ HC2.out).2.2.2.2.1
    clear HX HC2
    go_wp2_with fail
    go_ret
    exact ⟨ret_int HRs.out.symm, HBw.out⟩
  have hd1 : decide (1000000 < want) = false := by simpa using hw1'
  have hwant : 0 ≤ want ∧ want ≤ 1000000 := by omega
  obtain ⟨hen, hn0, hnX, hX200⟩ := HSo.out.nums
  obtain ⟨c0, c1, c2, c3, c4⟩ := (show _ ∧ _ ∧ _ ∧ _ ∧ _ from ⟨(HX.out _ HC2.out).1.cell 0 rfl, (HX.out _ HC2.out).1.cell 1 rfl, (HX.out _ HC2.out).1.cell 2 rfl, (HX.out _ HC2.out).1.cell 3 rfl, (HX.out _ HC2.out).1.cell 4 rfl⟩)
  go_wp2_with fail
  refine (implUpIn_any a n ca a' n' ca' ep nx ua un uc lo l id y2 (HX.out _ HC2.out).2.2.2.1 HL.out.1 (by omega)).mono ?_
  rintro _ y3 ⟨rfl, hb3⟩
  have HC3 : Hid (Below w0.heap.size w0 y3) := HC2.out.trans (hb3.mono HC2.out.size)
  clear hb3 HC2 c0 c1 c2 c3 c4
  cases hat : atU (l.map UE.u) id with
  | some k =>
    have hkl : k < l.length := by simpa using (atU_is hat).1
    obtain ⟨g, hg, _⟩ := (HX.out _ HC3.out).2.2.2.1.at HL.out.1 hkl
    have hre : reachUO ua (some k) = some ⟨g, k * 4, none⟩ := by rw [hg]; rfl
    rw [hre]
    clear hg hre
    have HRs : Hid ((makeA X Y ep nx (l.map UE.u) id want).c = 3) := by show _ = _; rw [makeA, if_pos ⟨HDb.out, HId.out, hwant⟩, hat, if_neg (by simp)]
    have HBw : Hid (Below w.heap.size w y3) := (HX.out _ HC3.out).2.2.2.2.1
    clear HX HC3
    go_wp2_with fail
    go_ret
    exact ⟨ret_int HRs.out.symm, HBw.out⟩
  | none =>
  rw [reachUO_none]
  obtain ⟨c0, c1, c2, c3, c4⟩ := (show _ ∧ _ ∧ _ ∧ _ ∧ _ from ⟨(HX.out _ HC3.out).1.cell 0 rfl, (HX.out _ HC3.out).1.cell 1 rfl, (HX.out _ HC3.out).1.cell 2 rfl, (HX.out _ HC3.out).1.cell 3 rfl, (HX.out _ HC3.out).1.cell 4 rfl⟩)
  by_cases hten : un = 10
  · have htn : (l.map UE.u).length = 10 := by rw [List.length_map, ← HL.out.1]; exact hten
    have hti : ((un : Int) == 10) = true := by rw [hten]; rfl
    clear hten
    have HRs : Hid ((makeA X Y ep nx (l.map UE.u) id want).c = 5) := by show _ = _; rw [makeA, if_pos ⟨HDb.out, HId.out, hwant⟩, hat, if_pos rfl, if_neg (fun h => h.2 htn)]
    have HBw : Hid (Below w.heap.size w y3) := (HX.out _ HC3.out).2.2.2.2.1
    clear HX HC3
    go_wp2_with fail
    go_ret
    exact ⟨ret_int HRs.out.symm, HBw.out⟩
  have hti : ((un : Int) == 10) = false := by simpa using (show ¬ (un : Int) = 10 by omega)
  have htn : (l.map UE.u).length ≠ 10 := by rw [List.length_map, ← HL.out.1]; exact hten
  go_wp2_with fail
  refine (implRoom_any a n ca a' n' ca' ep nx ua un uc 1 y3 (by omega) (by omega)).mono ?_
  rintro _ y4 ⟨rfl, hb4⟩
  have HC4 : Hid (Below w0.heap.size w0 y4) := HC3.out.trans (hb4.mono HC3.out.size)
  clear hb4 HC3 c0 c1 c2 c3 c4
  by_cases hroom : (1 : Int) ≤ (n : Int) - nx
  case neg =>
    rw [decide_eq_false hroom]
    have hrn : ¬ nx < (X.length : Int) := by have := HL.out.2.2; omega
    have HRs : Hid ((makeA X Y ep nx (l.map UE.u) id want).c = 5) := by show _ = _; rw [makeA, if_pos ⟨HDb.out, HId.out, hwant⟩, hat, if_pos rfl, if_neg (fun h => hrn h.1)]
    have HBw : Hid (Below w.heap.size w y4) := (HX.out _ HC4.out).2.2.2.2.1
    clear HX HC4
    go_wp2_with fail
    go_ret
    exact ⟨ret_int HRs.out.symm, HBw.out⟩
  rw [decide_eq_true hroom]
  have hrn : nx < (X.length : Int) := by have := HL.out.2.2; omega
  have HRs : Hid ((makeA X Y ep nx (l.map UE.u) id want).c = 0) := by show _ = _; rw [makeA, if_pos ⟨HDb.out, HId.out, hwant⟩, hat, if_pos rfl, if_pos ⟨hrn, htn⟩]; rfl
  have HBw : Hid (Below w.heap.size w y4) := (HX.out _ HC4.out).2.2.2.2.1
  clear HX HC4
  go_wp2_with fail
  go_ret
  exact ⟨ret_int HRs.out.symm, HBw.out⟩

end Go.Proofs.YtammmecddnafaaaGreatDoor

namespace Go.Proofs.YtammmecddnafaaaGreatDoor
open Go.RowKit
set_option linter.unusedVariables false

theorem texts_at {W : World} {base n C : Nat} {A : Option Addr} {X : List ByteArray} (h : OwnSt W base (.slice A n C) n X) (hn : 0 < n) : ∃ g, A = some ⟨g, 0, none⟩ := by
  rcases h.1.2 with ⟨_, h0⟩ | ⟨g, cap', cur, he, _⟩
  · omega
  · injection he with e1 _ _
    exact ⟨g, e1⟩

/-- A cell of a row of texts, and that it is not frozen. -/
theorem texts_cell {W : World} {base g n C : Nat} {X : List ByteArray} (h : OwnSt W base (.slice (some ⟨g, 0, none⟩) n C) n X) {k : Nat} (hk : k < n) : ∃ x, X[k]? = some x ∧ W.cell? ⟨g, k, none⟩ = some (.string x) ∧ W.frozen? ⟨g, k, none⟩ = false := by
  have hl := h.len
  have hkx : k < X.length := by omega
  refine ⟨X[k], List.getElem?_eq_getElem hkx, ?_, h.1.frozenAt k⟩
  have := h.1.cellAt k (by rw [Nat.mul_one]; exact hk)
  rw [this, scells, List.getElem?_map, List.getElem?_eq_getElem hkx]
  rfl

theorem scells_put (l : List ByteArray) (k : Nat) (x : ByteArray) : (scells l).set k (.string x) = scells (l.set k x) := by rw [scells, scells, List.map_set]

/-- A sector is put. -/
theorem StoAt.putNow {W : World} {base g : Nat} {n ca : Nat} {X : List ByteArray} {a' : Option Addr} {n' ca' : Nat} {Y : List ByteArray} {ua : Option Addr} {un uc : Nat} {l : List UE} (h : StoAt W base (some ⟨g, 0, none⟩) n ca X a' n' ca' Y ua un uc l) (k : Nat) (x : ByteArray) (hx : x.size ≤ maxLen) : StoAt (W.setCell ⟨g, k, none⟩ (.string x)) base (some ⟨g, 0, none⟩) n ca (X.set k x) a' n' ca' Y ua un uc l := by
  have hst := h.now.1.stored k (.string x)
  have hg : W.grownBy (W.setCell ⟨g, k, none⟩ (.string x)) (some g) := hst.2
  refine ⟨⟨?_, fun y hy => ?_⟩, h.sure.setCell (fun e => ?_) _, h.apart, h.ups.keptS h.now hg, h.len⟩
  · rw [← scells_put]
    exact hst.1
  · rcases List.mem_or_eq_of_mem_set hy with h2 | rfl
    · exact h.now.2 y h2
    · exact hx
  · rw [blk_own] at e
    exact h.apart g rfl e

/-- The uploads of a store are put down anew, in their row or in new ones. -/
theorem StoAt.upsTo {W W' : World} {base : Nat} {a : Option Addr} {n ca : Nat} {X : List ByteArray} {a' : Option Addr} {n' ca' : Nat} {Y : List ByteArray} {ua : Option Addr} {un uc : Nat} {l : List UE} {ua' : Option Addr} {un' uc' : Nat} {l' : List UE} (h : StoAt W base a n ca X a' n' ca' Y ua un uc l) (hg : W.grownBy W' (Value.slice ua un uc).ownBlock) (hu : UpRow W' base (.slice ua' un' uc') l') (hl : un' = l'.length) : StoAt W' base a n ca X a' n' ca' Y ua' un' uc' l' :=
  ⟨h.now.keptR h.ups.1 (by decide) hg, h.sure.keptR h.ups.1 (by decide) hg, h.apart, hu, hl⟩

/-- The store has other uploads. -/
theorem StoAt.withUps {W : World} {base : Nat} {a : Option Addr} {n ca : Nat} {X : List ByteArray} {a' : Option Addr} {n' ca' : Nat} {Y : List ByteArray} {ua : Option Addr} {un uc : Nat} {l : List UE} {ua' : Option Addr} {un' uc' : Nat} {l' : List UE} (h : StoAt W base a n ca X a' n' ca' Y ua un uc l) (hu : UpRow W base (.slice ua' un' uc') l') (hl : un' = l'.length) : StoAt W base a n ca X a' n' ca' Y ua' un' uc' l' :=
  ⟨h.now, h.sure, h.apart, hu, hl⟩

/-- A cell of a variable is written that is of none of the rows' types. -/
theorem StoAt.setBox {W : World} {base b i : Nat} {t : TypeId} {a : Option Addr} {n ca : Nat} {X : List ByteArray} {a' : Option Addr} {n' ca' : Nat} {Y : List ByteArray} {ua : Option Addr} {un uc : Nat} {l : List UE} {vs : List Value} (h : StoAt W base a n ca X a' n' ca' Y ua un uc l) (hb : BoxN W b t vs) (u : Value) (h0 : t ≠ 9 := by decide) (h1 : t ≠ 69 := by decide) (h2 : t ≠ 5 := by decide) : StoAt (W.setCell ⟨b, i, none⟩ u) base a n ca X a' n' ca' Y ua un uc l := by
  refine ⟨h.now.setCell (fun e => ?_) u, h.sure.setCell (fun e => ?_) u, h.apart, h.ups.setBox hb h1 h2, h.len⟩
  · exact hb.noRow h.now.1 h0 (by rw [ownBlock_sU]; rw [blk_own] at e; exact e)
  · exact hb.noRow h.sure.1 h0 (by rw [ownBlock_sU]; rw [blk_own] at e; exact e)

end Go.Proofs.YtammmecddnafaaaGreatDoor

namespace Go.Proofs.YtammmecddnafaaaGreatDoor
open Go.RowKit
set_option linter.unusedVariables false

def AnsD (base : Nat) (X Y : List ByteArray) (v : Value) (w' : World) : Prop :=
  ∃ A C A' C', v = .agg #[.slice A X.length C, .slice A' Y.length C'] ∧ OwnSt w' base (.slice A X.length C) X.length X ∧ OwnSt w' base (.slice A' Y.length C') Y.length Y ∧ ∀ q, A.map (·.block) = some q → A'.map (·.block) ≠ some q

theorem AnsD.mk' {base : Nat} {X Y : List ByteArray} {w' : World} {A A' : Option Addr} {n C n' C' : Nat} (hn : X.length = n) (hn' : Y.length = n') (h1 : OwnSt w' base (.slice A n C) n X) (h2 : OwnSt w' base (.slice A' n' C') n' Y) (hne : ∀ q, A.map (·.block) = some q → A'.map (·.block) ≠ some q) : AnsD base X Y (.agg #[.slice A n C, .slice A' n' C']) w' := by
  subst hn hn'
  exact ⟨A, C, A', C', rfl, h1, h2, hne⟩

/-- Texts as what is appended. -/
theorem Strs.src {w : World} {a : Option Addr} {n c : Nat} {l : List ByteArray} (h : Strs w a n l) : Src Tryz.prog 1 22 (.slice a n c) n (scells l) w := by
  cases a with
  | none =>
    have h0 := h.none_nil rfl
    subst h0
    have : l = [] := List.eq_nil_of_length_eq_zero h.1
    subst this
    exact Src.ofNil _ Tryz.underlying22 c
  | some ad => exact Src.ofSlice _ Tryz.underlying22 ad n c _ (by rw [scells_len, h.1, Nat.mul_one]) (h.cells ad rfl) (scells_one l)

theorem cellD_kept {Y : World} {b b' i k : Nat} {v u : Value} (hne : b ≠ b') (h : Y.cell? ⟨b, i, none⟩ = some v) : (Y.setCell ⟨b', k, none⟩ u).cell? ⟨b, i, none⟩ = some v := by
  have e := set_block_ne Y b b' k u hne
  simp only [World.cell?] at h ⊢
  rw [e]
  exact h

end Go.Proofs.YtammmecddnafaaaGreatDoor

namespace Go.Proofs.YtammmecddnafaaaGreatDoor
open Go.RowKit
set_option linter.unusedVariables false

theorem run_append_src {P : Program} (w : World) (base : Nat) (t ty e : TypeId) (i : TypeInfo) (z : Value) (size bytes : Nat) (ht : P.underlying t = some (.slice e)) (hi : P.info? e = some i) (hz : i.zero = some z)
    (hsize : i.size = size) (hby : i.bytes = bytes) (hzs : z.cells.size = size) (hsz : 0 < size)
    (g n cap : Nat) (xs : List Value) (hown : w.ownsRow base e size (.slice (some ⟨g, 0, none⟩) n cap) n xs)
    (src : Option Addr) (m c : Nat) (news : List Value) (hnone : src = none → m = 0) (hl : news.length = m * size) (hnews : ∀ ad, src = some ad → ∀ j u, news[j]? = some u → w.cell? (ad.add j) = some u) (h1 : ∀ u ∈ news, u.oneCell' = true)
    (h63 : n + m ≤ maxLen) (hbytes : (n + m) * bytes ≤ 140737488355328) (hbase : base ≤ w.heap.size) :
    ∃ v' w', (Builtin.append_ #[t, t] ty #[.slice (some ⟨g, 0, none⟩) n cap, .slice src m c]).run P w = .ok v' w' ∧ w'.ownsRow base e size v' (n + m) (xs ++ news) ∧ w.grownBy w' (some g) := by
  cases src with
  | some ad =>
    obtain ⟨v', w', hr, r1, r2, _⟩ := run_append_own (P := P) w base t ty e i z size bytes ht hi hz hsize hby hzs hsz (.slice (some ⟨g, 0, none⟩) n cap) n xs hown ad m c news hl (hnews ad rfl) h1 h63 hbytes hbase
    exact ⟨v', w', hr, r1, r2⟩
  | none =>
    obtain rfl := hnone rfl
    obtain rfl : news = [] := List.eq_nil_of_length_eq_zero (by simpa using hl)
    have hcap : n ≤ cap := by
      rcases hown.2 with ⟨h, _⟩ | ⟨g', cap', cur, h, _, _, hc, _⟩
      · cases h
      · injection h with _ _ h3
        omega
    have hr := run_append_room_src (P := P) w t t ty e i ht hi g 0 n cap (.slice none 0 c) 0 [] (Src.ofNil w ht c) (by omega) (by intro j hj; simp at hj) (by intro j hj; simp at hj)
    refine ⟨_, _, hr, ?_, ?_⟩
    · rw [List.append_nil]
      exact hown
    · exact ⟨rfl, rfl, rfl, Nat.le_refl _, fun _ _ _ => rfl⟩

theorem wp_append_src {P : Program} {o : Oper} {a : Act} {w : World} {K : Act → World → Prop} {Q : Exit → Act → World → Prop} (s x : Operand) (t : TypeId)
    (ho : o.op = .call { callee := .builtin .append, args := #[s, x], argTypes := #[t, t] })
    (base : Nat) (e : TypeId) (i : TypeInfo) (z : Value) (size bytes : Nat) (ht : P.underlying t = some (.slice e)) (hi : P.info? e = some i) (hz : i.zero = some z)
    (hsize : i.size = size) (hby : i.bytes = bytes) (hzs : z.cells.size = size) (hsz : 0 < size)
    (g n cap : Nat) (xs : List Value) (hs : a.eval s = .slice (some ⟨g, 0, none⟩) n cap) (hown : w.ownsRow base e size (.slice (some ⟨g, 0, none⟩) n cap) n xs)
    (src : Option Addr) (m c : Nat) (news : List Value) (hx : a.eval x = .slice src m c) (hnone : src = none → m = 0) (hl : news.length = m * size) (hnews : ∀ ad, src = some ad → ∀ j u, news[j]? = some u → w.cell? (ad.add j) = some u) (h1 : ∀ u ∈ news, u.oneCell' = true)
    (h63 : n + m ≤ maxLen) (hbytes : (n + m) * bytes ≤ 140737488355328) (hbase : base ≤ w.heap.size)
    (h : ∀ v' w', w'.ownsRow base e size v' (n + m) (xs ++ news) → w.grownBy w' (some g) → K (a.put o.dst v') w') : o.wp P a w K Q := by
  obtain ⟨v', w', hr, h2, h3⟩ := run_append_src (P := P) w base t o.type e i z size bytes ht hi hz hsize hby hzs hsz g n cap xs hown src m c news hnone hl hnews h1 h63 hbytes hbase
  unfold Oper.wp execOp
  simp only [ho, resolve, invoke, builtin, Sem.run_bind, Sem.run_pure, Result.andThen_ok, List.map_toArray, List.map_cons, List.map_nil, hs, hx, hr]
  exact h v' w' h2 h3

theorem step_append_src {P : Program} {ops : Array Oper} {o : Oper} {a : Act} {w : World} {K : Act → World → Prop} {Q : Exit → Act → World → Prop} {E : Prop} (hg : o.guard = none) (s x : Operand) (t : TypeId)
    (ho : o.op = .call { callee := .builtin .append, args := #[s, x], argTypes := #[t, t] })
    (base : Nat) (e : TypeId) (i : TypeInfo) (z : Value) (size bytes : Nat) (ht : P.underlying t = some (.slice e)) (hi : P.info? e = some i) (hz : i.zero = some z)
    (hsize : i.size = size) (hby : i.bytes = bytes) (hzs : z.cells.size = size) (hsz : 0 < size)
    (g n cap : Nat) (xs : List Value) (hs : a.eval s = .slice (some ⟨g, 0, none⟩) n cap) (hown : w.ownsRow base e size (.slice (some ⟨g, 0, none⟩) n cap) n xs)
    (src : Option Addr) (m c : Nat) (news : List Value) (hx : a.eval x = .slice src m c) (hnone : src = none → m = 0) (hl : news.length = m * size) (hnews : ∀ ad, src = some ad → ∀ j u, news[j]? = some u → w.cell? (ad.add j) = some u) (h1 : ∀ u ∈ news, u.oneCell' = true)
    (h63 : n + m ≤ maxLen) (hbytes : (n + m) * bytes ≤ 140737488355328) (hbase : base ≤ w.heap.size)
    (h : ∀ v' w', w'.ownsRow base e size v' (n + m) (xs ++ news) → w.grownBy w' (some g) → K (a.put o.dst v') w') :
    if Region.wanted o (yielded ops a.tmps) = true then Oper.wp P o a w K Q else E := by
  have hw : Region.wanted o (yielded ops a.tmps) = true := by simp [Region.wanted, hg]
  rw [if_pos hw]
  exact wp_append_src s x t ho base e i z size bytes ht hi hz hsize hby hzs hsz g n cap xs hs hown src m c news hx hnone hl hnews h1 h63 hbytes hbase h

theorem step_call_any {P : Program} {ops : Array Oper} {o : Oper} {a : Act} {w : World} {K : Act → World → Prop} {Q : Exit → Act → World → Prop} {E : Prop}
    (hg : o.guard = none) (f : FuncId) (x : Operand) (t : TypeId) (ho : o.op = .call { callee := .value (.func f), args := #[x], argTypes := #[t] })
    (hent : ∀ args w, (callFunc f args).run P w = .ok (.enter f args) w) (u : Value) (hx : a.eval x = u) (R : Ending → World → Prop)
    (hc : Calls P f #[u] w R) (h : ∀ e w', R e w' → ∃ v, e = .returned v ∧ K (a.put o.dst v) w') :
    if Region.wanted o (yielded ops a.tmps) = true then Oper.wp P o a w K Q else E := by
  have hw : Region.wanted o (yielded ops a.tmps) = true := by simp [Region.wanted, hg]
  rw [if_pos hw]
  have hf : a.eval (.func f) = .func (.func f) #[] #[] := rfl
  unfold Oper.wp
  simp [execOp, ho, resolve, invoke, Deferred.ofValue, hent, hf, hx, Oper.upon_enter]
  refine hc.mono ?_
  intro e w' hr
  obtain ⟨v, rfl, hk⟩ := h e w' hr
  exact hk

end Go.Proofs.YtammmecddnafaaaGreatDoor

namespace Go.Proofs.YtammmecddnafaaaGreatDoor
open Go.RowKit
set_option linter.unusedVariables false

theorem cloneRow_shape {w : World} {base n : Nat} {v : Value} {xs : List Value} (h : w.ownsRow base 9 1 v n xs) : ∃ a cap, v = .slice a n cap := by
  rcases h.2 with ⟨rfl, rfl⟩ | ⟨g, cap, cur, rfl, _⟩
  · exact ⟨_, _, rfl⟩
  · exact ⟨_, _, rfl⟩

set_option maxRecDepth 10000 in
set_option maxHeartbeats 400000 in
theorem cloneS_any (a : Option Addr) (len cap : Nat) (l : List ByteArray) (w : World) (hs : Strs w a len l) (hl : len ≤ 2097152) :
    Calls Tryz.prog 92 #[.slice a len cap] w fun e w' => (∃ a' cap', e = .returned (.slice a' len cap') ∧ OwnSt w' w.heap.size (.slice a' len cap') len l) ∧ Below w.heap.size w w' := by
  obtain ⟨i0, hi, hz0, hz1, hz2⟩ := info_parts info_string
  have qT : ∀ (w : World) (a : Option Addr) (n c n' c' : Nat), (binOp .eql 22 (.slice a n c) (.slice none n' c')).run Tryz.prog w = .ok (.bool a.isNone) w := fun w a n c n' c' => Lib.run_eql_slice_nil w _ _ a n c n' c' Tryz.underlying22
  cases a with
  | none =>
    have h0 := hs.none_nil rfl
    subst h0
    obtain rfl : l = [] := List.eq_nil_of_length_eq_zero hs.1
    go_enter Tryz.func92, Tryz.ntmps92
    go_wp2
    go_ret
    exact ⟨⟨none, 0, rfl, ⟨World.ownsRow_nil _ _ _ _, by simp⟩⟩, Below.refl _ _⟩
  | some ad =>
    have hzl : l.length = len := hs.1
    have HR : Hid (∀ x ∈ l, x.size ≤ maxLen) := hs.2.1
    have HS1 : Hid (Strs (w.alloc (.cells #[] 9)) (some ad) len l) := hs.below ((Below.refl _ _).alloc (Nat.le_refl _) _)
    have HO1 : Hid ((w.alloc (.cells #[] 9)).ownsRow w.heap.size 9 1 (.slice (some ⟨w.heap.size, 0, none⟩) 0 0) 0 []) := World.ownsRow_lit w #[] 0 (Nat.le_refl _) (Nat.zero_le _) rfl
    clear hs
    go_enter Tryz.func92, Tryz.ntmps92
    go_wp2_with (at_builtin; refine wpList_append_own _ rfl _ _ 22 rfl w.heap.size 9 i0 (.string ⟨#[]⟩) 1 16 Tryz.underlying22 hi hz0 hz1 hz2 rfl (by decide) (.slice (some ⟨w.heap.size, 0, none⟩) 0 0) 0 [] rfl HO1.out ad len cap (scells l) rfl (by rw [scells_len, hzl, Nat.mul_one]) (HS1.out.cells ad rfl) (scells_one l) (by unfold maxLen; omega) (by omega) (by simp) ?_; intro v1 w1 hown1 hgrow1 _; refine Hid.out ?_)
    refine hidden ?_
    have HB1 : Hid (Below w.heap.size w w1) := ((Below.refl _ _).alloc (Nat.le_refl _) _).grown hgrow1 (by simp) (by simp [Value.ownBlock])
    obtain ⟨a1, c1, rfl⟩ := cloneRow_shape hown1
    have HO2 : Hid (w1.ownsRow w.heap.size 9 1 (.slice a1 len c1) len (scells l)) := by
      show World.ownsRow _ _ _ _ _ _ _
      have h := hown1
      rw [Nat.zero_add] at h
      simpa using h
    have hll : 0 + len = len := Nat.zero_add _
    rw [hll]
    clear hown1 hgrow1
    go_wp2_with fail
    go_ret
    exact ⟨⟨_, _, rfl, ⟨HO2.out, HR.out⟩⟩, HB1.out⟩

end Go.Proofs.YtammmecddnafaaaGreatDoor

namespace Go.Proofs.YtammmecddnafaaaGreatDoor
open Go.RowKit
set_option linter.unusedVariables false

theorem blkOf_sC (a : Option Addr) (n c : Nat) : blkOf (.slice a n c) = a.map (·.block) := by cases a <;> rfl

set_option maxRecDepth 10000 in
set_option maxHeartbeats 3200000 in
theorem implDcopy_any (a : Option Addr) (n ca : Nat) (xs : List ByteArray) (a' : Option Addr) (n' ca' : Nat) (ys : List ByteArray) (w : World) (h1 : Strs w a n xs) (h2 : Strs w a' n' ys) (hn : n ≤ 2097152) (hn' : n' ≤ 2097152) :
    Calls Tryz.prog 65 #[.agg #[.slice a n ca, .slice a' n' ca']] w fun e w' => (∃ v, e = .returned v ∧ AnsD w.heap.size xs ys v w') ∧ Below w.heap.size w w' := by
  have HLn : Hid (xs.length = n ∧ ys.length = n') := ⟨h1.1, h2.1⟩
  obtain ⟨W2, hW2⟩ : ∃ W2, (w.alloc (.cells #[.slice a n ca, .slice a' n' ca'] 29)).alloc (.cells #[.slice none 0 0, .slice none 0 0] 29) = W2 := ⟨_, rfl⟩
  have HE : Hid ((w.alloc (.cells #[.slice a n ca, .slice a' n' ca'] 29)).alloc (.cells #[.slice none 0 0, .slice none 0 0] 29) = W2) := hW2
  have HB2 : Hid (Below w.heap.size w W2) := by show Below _ _ _; rw [← hW2]; exact ((Below.refl _ _).alloc (Nat.le_refl _) _).alloc (by simp) _
  have HZ2 : Hid (W2.heap.size = w.heap.size + 2) := by show _ = _; rw [← hW2]; simp
  have q1 : Box2R W2 w.heap.size 29 (.slice a n ca) (.slice a' n' ca') := by rw [← hW2]; exact (Box2R.new _ _ _ _).alloc _
  have q2 : Box2R W2 (w.heap.size + 1) 29 (.slice none 0 0) (.slice none 0 0) := by
    rw [← hW2]
    have := Box2R.new (w.alloc (.cells #[.slice a n ca, .slice a' n' ca'] 29)) 29 (.slice none 0 0) (.slice none 0 0)
    rwa [World.size_alloc] at this
  have HQ : Hid (∀ W, Below W2.heap.size W2 W → Box2R W w.heap.size 29 (.slice a n ca) (.slice a' n' ca') ∧ Box2R W (w.heap.size + 1) 29 (.slice none 0 0) (.slice none 0 0)) := fun W h => ⟨q1.stays h, q2.stays h⟩
  have HX : Hid (∀ W, Below W2.heap.size W2 W → Strs W a n xs ∧ Strs W a' n' ys) := fun W h => by
    have hw := HB2.out.trans (h.mono HB2.out.size)
    exact ⟨h1.below hw, h2.below hw⟩
  have HBd : Hid (Below W2.heap.size W2 W2.drew) := (Below.refl _ _).drew
  clear hW2 q1 q2 h1 h2
  have hne : w.heap.size ≠ w.heap.size + 1 := by omega
  have hs2 : w.heap.size + 1 < W2.heap.size := by have := HZ2.out; omega
  go_enter Tryz.func65, Tryz.ntmps65
  go_upto_region 1 with fail
  rw [HE.out]
  clear HE
  obtain ⟨c0, c1⟩ := (HQ.out _ (Below.refl _ _)).1.cells
  go_region_held3 (fun W => W.cell? ⟨w.heap.size, 0, none⟩ = some (.slice a n ca) ∧ W.cell? ⟨w.heap.size, 1, none⟩ = some (.slice a' n' ca')) (first | (refine ⟨?_, ?_⟩ <;> assumption) | (refine ⟨?_, ?_⟩ <;> (exact cellD_kept hne (cellD_kept hne (by assumption)))) | go_keep) (first
    | (go_at_call 92; refine (cloneS_any a' n' ca' ys _ (HX.out _ hB1).2 hn').mono ?_; rintro e y2 ⟨⟨A2, C2, rfl, own2⟩, hb2⟩
       have hB2 : Below W2.heap.size W2 y2 := hB1.trans (hb2.mono hB1.size)
       obtain ⟨m0, m1⟩ := (HQ.out _ hB2).1.cells
       obtain ⟨r0, r1⟩ := (HQ.out _ hB2).2.cells
       have f0 := (HQ.out _ hB2).2.frozen 0
       have f1 := (HQ.out _ hB2).2.frozen 1)
    | (go_at_call 92; refine (cloneS_any a n ca xs _ (HX.out _ HBd.out).1 hn).mono ?_; rintro e y1 ⟨⟨A1, C1, rfl, own1⟩, hb1⟩
       have hB1 : Below W2.heap.size W2 y1 := HBd.out.trans (hb1.mono (Nat.le_refl _))
       obtain ⟨e0, e1⟩ := (HQ.out _ hB1).1.cells)
    | fail)
  all_goals
    have HF : Hid (AnsD w.heap.size xs ys (.agg #[.slice A1 n C1, .slice A2 n' C2]) ((y2.setCell ⟨w.heap.size + 1, 0, none⟩ (.slice A1 n C1)).setCell ⟨w.heap.size + 1, 1, none⟩ (.slice A2 n' C2)) ∧ Below w.heap.size w ((y2.setCell ⟨w.heap.size + 1, 0, none⟩ (.slice A1 n C1)).setCell ⟨w.heap.size + 1, 1, none⟩ (.slice A2 n' C2))) := by
      have hz := HZ2.out
      have o1 : OwnSt y2 W2.heap.size (.slice A1 n C1) n xs := own1.below hb2
      have o2 : OwnSt y2 W2.heap.size (.slice A2 n' C2) n' ys := own2.low (by have := hB1.size; omega)
      have n1 : blkOf (.slice A1 n C1) ≠ some (w.heap.size + 1) := fun e => by have := (o1.lt _ e).1; omega
      have n2 : blkOf (.slice A2 n' C2) ≠ some (w.heap.size + 1) := fun e => by have := (o2.lt _ e).1; omega
      have hbw := HB2.out.trans (hB2.mono HB2.out.size)
      refine ⟨AnsD.mk' HLn.out.1 HLn.out.2 (((o1.setCell n1 _).setCell n1 _).low (by omega)) (((o2.setCell n2 _).setCell n2 _).low (by omega)) ?_, (hbw.setCell (by dsimp only; omega) _).setCell (by dsimp only; omega) _⟩
      intro q e1 e2
      rw [← blkOf_sC A1 n C1] at e1
      rw [← blkOf_sC A2 n' C2] at e2
      have := (own1.lt q e1).2
      have := (own2.lt q e2).1
      omega
    clear own1 own2 hb1 hb2 hB1 hB2 e0 e1 m0 m1
    go_wp2_with fail
    refine bodyPost_ret (v := .agg #[.slice A1 n C1, .slice A2 n' C2]) (by simp [results, Tryz.f65, go_sem, r0, r1]) rfl ?_
    exact ⟨⟨_, rfl, HF.out.1⟩, HF.out.2⟩

end Go.Proofs.YtammmecddnafaaaGreatDoor

namespace Go.Proofs.YtammmecddnafaaaGreatDoor
open Go.RowKit
set_option linter.unusedVariables false

set_option maxRecDepth 10000 in
set_option maxHeartbeats 800000 in
theorem implCopyUp_any (x : UE) (w : World) (hs : Seg w x.a x.n x.u.zs) (hl : x.n ≤ 1099511627776) :
    Calls Tryz.prog 67 #[.agg #[.string x.u.id, .int .i64 x.u.want, .slice x.a x.n x.c, .bool x.u.done]] w fun e w' => (∃ A C, e = .returned (.agg #[.string x.u.id, .int .i64 x.u.want, .slice A x.n C, .bool x.u.done]) ∧ Owns w' w.heap.size A x.n C x.u.zs) ∧ Below w.heap.size w w' := by
  obtain ⟨w0, hw0⟩ : ∃ w0, (w.alloc (.cells #[.string x.u.id, .int .i64 x.u.want, .slice x.a x.n x.c, .bool x.u.done] 69)).alloc (.cells #[.string ⟨#[]⟩, .int .i64 0, .slice none 0 0, .bool false] 69) = w0 := ⟨_, rfl⟩
  have HE : Hid ((w.alloc (.cells #[.string x.u.id, .int .i64 x.u.want, .slice x.a x.n x.c, .bool x.u.done] 69)).alloc (.cells #[.string ⟨#[]⟩, .int .i64 0, .slice none 0 0, .bool false] 69) = w0) := hw0
  have HB : Hid (Below w.heap.size w w0) := by show Below _ _ _; rw [← hw0]; exact ((Below.refl _ _).alloc (Nat.le_refl _) _).alloc (by simp) _
  have HQ : Hid (BoxN w0 w.heap.size 69 [.string x.u.id, .int .i64 x.u.want, .slice x.a x.n x.c, .bool x.u.done]) := by show BoxN _ _ _ _; rw [← hw0]; exact (BoxN.new _ _ _).alloc _
  have HR : Hid (BoxN w0 (w.heap.size + 1) 69 [.string ⟨#[]⟩, .int .i64 0, .slice none 0 0, .bool false]) := by
    show BoxN _ _ _ _
    rw [← hw0]
    have := BoxN.new (w.alloc (.cells #[.string x.u.id, .int .i64 x.u.want, .slice x.a x.n x.c, .bool x.u.done] 69)) 69 [.string ⟨#[]⟩, .int .i64 0, .slice none 0 0, .bool false]
    rw [World.size_alloc] at this
    exact this
  have HS : Hid (Seg w0 x.a x.n x.u.zs) := hs.below HB.out
  have hwl : w.heap.size + 1 < w0.heap.size := HR.out.lt
  clear hw0 hs
  have c2 := HQ.out.cell 2 rfl
  go_enter Tryz.func67, Tryz.ntmps67
  go_upto_region 1 with fail
  rw [HE.out]
  clear HE
  go_wp2_with fail
  refine (cloneB_any x.a x.n x.c x.u.zs w0 HS.out hl).mono ?_
  rintro _ w1 ⟨A, C, rfl, ho1, hb1⟩
  have hq := HQ.out.stays hb1
  have hr := HR.out.stays hb1
  have HB1 : Hid (Below w.heap.size w w1) := HB.out.trans (hb1.mono HB.out.size)
  have HO1 : Hid (Owns w1 w0.heap.size A x.n C x.u.zs) := ho1
  have b0 := hq.cell 0 rfl
  have b1 := hq.cell 1 rfl
  have b2 := hq.cell 2 rfl
  have b3 := hq.cell 3 rfl
  have z2 := hq.frozen 2
  have a0 := hr.cell 0 rfl
  have a1 := hr.cell 1 rfl
  have a2 := hr.cell 2 rfl
  have a3 := hr.cell 3 rfl
  have f0 := hr.frozen 0
  have f1 := hr.frozen 1
  have f2 := hr.frozen 2
  have f3 := hr.frozen 3
  have hA1 : A.map (·.block) ≠ some w.heap.size := fun e => by have := (ho1.lt _ e).1; omega
  have hA2 : A.map (·.block) ≠ some (w.heap.size + 1) := fun e => by have := (ho1.lt _ e).1; omega
  clear hq hr ho1 hb1 c2 HQ HR
  go_wp2_with fail
  refine bodyPost_ret (v := .agg #[.string x.u.id, .int .i64 x.u.want, .slice A x.n C, .bool x.u.done]) (by simp [results, Tryz.f67, go_sem, a0, a1, a2, a3]) rfl ?_
  refine ⟨⟨A, C, rfl, ?_⟩, ?_⟩
  · exact (owns_set (owns_set (owns_set (owns_set (owns_set HO1.out hA1) hA2) hA2) hA2) hA2).low (by omega)
  · exact ((((HB1.out.setCell (by dsimp only; omega) _).setCell (by dsimp only; omega) _).setCell (by dsimp only; omega) _).setCell (by dsimp only; omega) _).setCell (by dsimp only; omega) _

end Go.Proofs.YtammmecddnafaaaGreatDoor

namespace Go.Proofs.YtammmecddnafaaaGreatDoor
open Go.RowKit
set_option linter.unusedVariables false

theorem shape_ofE {w : World} {base n : Nat} {v : Value} {xs : List Value} (h : w.ownsRow base 69 4 v n xs) : ∃ a cap, v = .slice a n cap := by
  rcases h.2 with ⟨rfl, h0⟩ | ⟨g, cap, cur, rfl, _⟩
  · rw [h0]; exact ⟨_, _, rfl⟩
  · exact ⟨_, _, rfl⟩

set_option maxRecDepth 10000 in
set_option maxHeartbeats 3200000 in
theorem implEachUp_any (ua : Option Addr) (un uc lo : Nat) (l : List UE) (w : World) (hu : UpRow w lo (.slice ua un uc) l) (hun : un = l.length) (hul : un ≤ 1048576) (hz : ∀ e ∈ l, e.n ≤ 1099511627776) :
    Calls Tryz.prog 66 #[.slice ua un uc, .func (.func 67) #[] #[]] w fun e w' => (∃ a c l', e = .returned (.slice a un c) ∧ UpRow w' w.heap.size (.slice a un c) l' ∧ l'.map UE.u = l.map UE.u) ∧ Below w.heap.size w w' := by
  have HLn : Hid (un = l.length ∧ ∀ e ∈ l, e.n ≤ 1099511627776) := ⟨hun, hz⟩
  have HX : Hid (∀ W, Below w.heap.size w W → UpRow W lo (.slice ua un uc) l) := fun W h => hu.stays h
  obtain ⟨i0, hi, hz0, hz1, hz2⟩ := info_parts info_up
  clear hu hun hz
  go_enter Tryz.func66, Tryz.ntmps66
  go_wp2_with (first | (at_make; refine _root_.Go.wpList_make_own _ rfl _ _ 30 rfl w.heap.size 69 i0 _ 4 Tryz.underlying30 hi hz0 hz1 _ _ _ un rfl rfl (by have := HLn.out.1; omega) (by rw [hz2]; omega) (by unfold maxLen; omega) (Nat.le_refl _) ?_; intro w1 hown1 hg1) | fail)
  have HB0 : Hid (Below w.heap.size w w1) := (Below.refl _ _).grown hg1 (Nat.le_refl _) (fun q hq => by cases hq)
  have HR0 : Hid (UpRow w1 w.heap.size (.slice (some ⟨w.heap.size, 0, none⟩) 0 un) []) := ⟨hown1, by simp, List.Pairwise.nil⟩
  clear hown1 hg1
  go_loopw [5, 13] (fun o i wr => ∃ (k : Nat) (va : Option Addr) (vc : Nat) (l' : List UE), k ≤ un ∧ l'.length = k ∧ i = .int .i64 (k : Int) ∧ o = .slice va k vc ∧ Hid (UpRow wr w.heap.size (.slice va k vc) l') ∧ Hid (l'.map UE.u = (l.map UE.u).take k) ∧ Hid (Below w.heap.size w wr)) (fun _ i _ => un - (intOf i).toNat)
  case atStart => exact ⟨0, _, _, [], Nat.zero_le _, rfl, rfl, rfl, HR0, rfl, HB0⟩
  case round =>
    clear HR0 HB0
    obtain ⟨k, va, vc, l', hk, hlk, rfl, rfl, HRx, HMx, HWx⟩ := hrel
    by_cases hlt : k < un
    case neg =>
      obtain rfl : k = un := by omega
      have HF : Hid (l'.map UE.u = l.map UE.u) := by show _ = _; rw [HMx.out, List.take_of_length_le (by rw [List.length_map, ← HLn.out.1]; exact Nat.le_refl _)]
      clear HMx HX
      go_wp2_with fail
      go_ret
      exact ⟨⟨va, vc, l', rfl, HRx.out, HF.out⟩, HWx.out⟩
    have hkl : k < l.length := by rw [← HLn.out.1]; exact hlt
    have hki : (k : Int) < (un : Int) := by omega
    have hk0 : (0 : Int) ≤ (k : Int) := by omega
    obtain ⟨g, rfl, g0, g1, g2, g3, _⟩ := (HX.out _ HWx.out).at HLn.out.1 hkl
    have HSg : Hid (Seg wr (l[k]).a (l[k]).n (l[k]).u.zs) := ((HX.out _ HWx.out).2.1 (l[k]) (List.getElem_mem hkl)).seg
    have hen : (l[k]).n ≤ 1099511627776 := HLn.out.2 _ (List.getElem_mem hkl)
    have HM2 : Hid (l'.map UE.u ++ [(l[k]).u] = (l.map UE.u).take (k + 1)) := by show _ = _; rw [List.take_add_one, List.getElem?_map, List.getElem?_eq_getElem hkl, HMx.out]; rfl
    clear HMx
    generalize l[k] = e at *
    obtain ⟨x1, hx1⟩ : ∃ x1, wr.alloc (.cells #[.string e.u.id, .int .i64 e.u.want, .slice e.a e.n e.c, .bool e.u.done] 69) = x1 := ⟨_, rfl⟩
    have HE1 : Hid (wr.alloc (.cells #[.string e.u.id, .int .i64 e.u.want, .slice e.a e.n e.c, .bool e.u.done] 69) = x1) := hx1
    have hb1 : Below wr.heap.size wr x1 := by rw [← hx1]; exact (Below.refl _ _).alloc (Nat.le_refl _) _
    have hU1 : BoxN x1 wr.heap.size 69 [.string e.u.id, .int .i64 e.u.want, .slice e.a e.n e.c, .bool e.u.done] := by rw [← hx1]; exact BoxN.new _ _ _
    have HB1 : Hid (Below w.heap.size w x1) := HWx.out.trans (hb1.mono HWx.out.size)
    have HR1 : Hid (UpRow x1 w.heap.size (.slice va k vc) l') := HRx.out.stays hb1
    have HG1 : Hid (Seg x1 e.a e.n e.u.zs) := HSg.out.below hb1
    have hx1s : w.heap.size ≤ x1.heap.size := HB1.out.size
    have u0 := hU1.cell 0 rfl
    have u1 := hU1.cell 1 rfl
    have u2 := hU1.cell 2 rfl
    have u3 := hU1.cell 3 rfl
    clear hx1 hb1 hU1 HSg HWx HRx
    go_upto_region 5 with fail
    rw [HE1.out]
    clear HE1 g0 g1 g2 g3
    go_wp2_with fail
    refine (implCopyUp_any e x1 HG1.out hen).mono ?_
    rintro _ y1 ⟨⟨A, C, rfl, ho1⟩, hb1'⟩
    have hy1 : x1.heap.size ≤ y1.heap.size := hb1'.size
    have hS0 := HR1.out.stays hb1'
    have hS1 : y1.ownsRow w.heap.size 69 4 (.slice va k vc) k (ueCells l') := by have := hS0.1; rw [hlk] at this; exact this
    have HG2 : Hid (∀ (v2 : Value) (y2 : World), y2.ownsRow w.heap.size 69 4 v2 (k + 1) (ueCells l' ++ UE.cells ⟨e.u, A, e.n, C⟩) → (y1.alloc (.cells #[.string e.u.id, .int .i64 e.u.want, .slice A e.n C, .bool e.u.done] 69)).grownBy y2 (Value.slice va k vc).ownBlock → UpRow y2 w.heap.size v2 (l' ++ [⟨e.u, A, e.n, C⟩]) ∧ Below w.heap.size w y2) := (fun v2 y2 hown2 hg2 => ⟨hS0.snoc ho1 hx1s (fun x hx q hq => (HR1.out.lts.2 x hx q hq).2) (by rw [hlk]; exact hown2) hg2, ((HB1.out.trans (hb1'.mono hx1s)).alloc (by omega) _).grown hg2 (by simp; omega) (fun q hq => (hS0.lts.1 q hq).1)⟩)
    have HN1 := four_new y1 e.u A e.n C
    have HO1 : Hid ((y1.alloc (.cells #[.string e.u.id, .int .i64 e.u.want, .slice A e.n C, .bool e.u.done] 69)).ownsRow w.heap.size 69 4 (.slice va k vc) k (ueCells l')) := hS1.alloc _
    have hbw : w.heap.size ≤ (y1.alloc (.cells #[.string e.u.id, .int .i64 e.u.want, .slice A e.n C, .bool e.u.done] 69)).heap.size := by simp; omega
    clear hS0 hS1 hb1' ho1 u0 u1 u2 u3
    go_wp2_with (at_builtin; refine wpList_append_own _ rfl _ _ 30 rfl w.heap.size 69 i0 (.agg #[.string ⟨#[]⟩, .int .i64 0, .slice none 0 0, .bool false]) 4 56 Tryz.underlying30 hi hz0 hz1 hz2 rfl (by decide) (.slice va k vc) k (ueCells l') rfl HO1.out ⟨y1.heap.size, 0, none⟩ 1 1 (UE.cells ⟨e.u, A, e.n, C⟩) rfl rfl HN1 (four_one e.u A e.n C) (by unfold maxLen; omega) (by omega) hbw ?_; intro v2 y2 hown2 hg2 _; obtain ⟨v2a, v2c, hv2⟩ := shape_ofE hown2; subst hv2; have HR3 := HG2.out _ _ hown2 hg2; clear hown2 hg2)
    have HR4 : Hid (UpRow y2 w.heap.size (.slice v2a (k + 1) v2c) (l' ++ [⟨e.u, A, e.n, C⟩])) := HR3.1
    have HR5 : Hid (Below w.heap.size w y2) := HR3.2
    have HM3 : Hid ((l' ++ [(⟨e.u, A, e.n, C⟩ : UE)]).map UE.u = (l.map UE.u).take (k + 1)) := by show _ = _; rw [List.map_append]; exact HM2.out
    clear HG2 HM2 HR3 HN1 HO1
    go_roundw
    case rel => exact ⟨k + 1, v2a, v2c, l' ++ [⟨e.u, A, e.n, C⟩], by omega, by simp [hlk], by go_num, rfl, HR4, HM3, HR5⟩
    case measure => simp [intOf]; omega

end Go.Proofs.YtammmecddnafaaaGreatDoor

namespace Go.Proofs.YtammmecddnafaaaGreatDoor
open Go.RowKit
set_option linter.unusedVariables false

theorem put_mk (t : Array Value) (d : List Deferred) (i : Tmp) (v : Value) : Act.put ⟨t, d⟩ (some i) v = ⟨t.setIfInBounds i v, d⟩ := rfl

theorem all_zero {S : Nat → Prop} : ∀ i, i < 0 → S i := fun i h => absurd h (by omega)
theorem all_succ {S : Nat → Prop} {n : Nat} (h : ∀ i, i < n → S i) (hn : S n) : ∀ i, i < n + 1 → S i := fun i hi => by
  by_cases e : i = n
  · subst e
    exact hn
  · exact h i (by omega)

/-- What is known of a value, and stays so when what was there is as it was. -/
structure Stay where
  p : Value → World → Prop
  mono : ∀ {v w w'}, p v w → Below w.heap.size w w' → p v w'

def Stay.free : Stay := ⟨fun _ _ => True, fun _ _ => trivial⟩
def Stay.val (c : Value) : Stay := ⟨fun v _ => v = c, fun h _ => h⟩

/-- What an operation is asked that came to this. -/
def growsUpon (P : Program) (R : Value → World → Prop) (w : World) : Result Next → Prop
  | .ok (.value v) w' => Below w.heap.size w w' ∧ R v w'
  | .ok .skip w' => Below w.heap.size w w' ∧ R undef w'
  | .ok (.enter f args) w' => Calls P f args w' fun e w'' => ∃ v, e = .returned v ∧ Below w.heap.size w w'' ∧ R v w''
  | .ok (.row row args) w' => Rows P row args w' fun v w'' => Below w.heap.size w w'' ∧ R v w''
  | _ => False

section
variable {P : Program}

theorem put_get {a : Act} {d : Tmp} (hd : d < a.tmps.size) {u v : Value} (h : a.put (some d) u = a.put (some d) v) : u = v := by
  have h1 : (a.tmps.setIfInBounds d u)[d]? = (a.tmps.setIfInBounds d v)[d]? := congrArg (fun x : Act => x.tmps[d]?) h
  rw [Array.getElem?_setIfInBounds_self_of_lt hd, Array.getElem?_setIfInBounds_self_of_lt hd] at h1
  exact Option.some.inj h1

/-- An operation walked alone. -/
theorem grows_of_wp {o : Oper} {d : Tmp} {a : Act} {w : World} {R : Value → World → Prop} (hd : o.dst = some d) (hs : d < a.tmps.size) (hg : o.guard = none)
    (h : ∀ K : Act → World → Prop, (∀ v w', Below w.heap.size w w' → R v w' → K (a.put o.dst v) w') → wpList P #[o] (fun e a w => e = .normal ∧ K a w) [o] a w) :
    growsUpon P R w ((execOp a.eval o).run P w) := by
  have h1 := h (fun a' w' => ∃ v, a' = a.put o.dst v ∧ Below w.heap.size w w' ∧ R v w') (fun v w' hb hr => ⟨v, rfl, hb, hr⟩)
  unfold wpList at h1
  rw [if_pos (by simp [Region.wanted, hg])] at h1
  rcases h1 with h1 | ⟨_, x, y, h1, _⟩
  case inr => cases h1
  unfold Oper.wp at h1
  generalize (execOp a.eval o).run P w = r at *
  cases r with
  | ok n w' =>
    cases n <;> simp only [Oper.upon, wpList] at h1 <;> simp only [growsUpon]
    case value u =>
      obtain ⟨_, v, e, hb, hr⟩ := h1
      rw [hd] at e
      rw [put_get hs e]
      exact ⟨hb, hr⟩
    case skip =>
      obtain ⟨_, v, e, hb, hr⟩ := h1
      rw [hd] at e
      rw [put_get hs e]
      exact ⟨hb, hr⟩
    case enter f args =>
      refine h1.mono fun e w'' he => ?_
      cases e with
      | returned u =>
        obtain ⟨_, v, e, hb, hr⟩ := he
        rw [hd] at e
        exact ⟨v, by rw [put_get hs e], hb, hr⟩
      | panicked c => cases he.1
      | outgrown => obtain ⟨x, y, h1, _⟩ := he; cases h1
    case row row args =>
      refine h1.mono fun u w'' he => ?_
      obtain ⟨_, v, e, hb, hr⟩ := he
      rw [hd] at e
      rw [put_get hs e]
      exact ⟨hb, hr⟩
    case defer dd =>
      obtain ⟨_, v, e, hb, hr⟩ := h1
      rw [hd] at e
      have h2 : dd :: a.defers = a.defers := congrArg Act.defers e
      exact absurd (congrArg List.length h2) (by simp)
  | halt x w' =>
    cases x <;> simp only [Oper.upon] at h1 <;> first | exact h1 | cases h1.1

theorem wp_of_grows {o : Oper} {a b : Act} {w : World} {R : Value → World → Prop} {K : Act → World → Prop} {Q : Exit → Act → World → Prop} (he : execOp a.eval o = execOp b.eval o)
    (h : growsUpon P R w ((execOp b.eval o).run P w)) (hK : ∀ v w', Below w.heap.size w w' → R v w' → K (a.put o.dst v) w') : o.wp P a w K Q := by
  unfold Oper.wp
  rw [he]
  generalize (execOp b.eval o).run P w = r at *
  cases r with
  | ok n w' =>
    cases n <;> simp only [growsUpon] at h <;> simp only [Oper.upon]
    case value u => exact hK _ _ h.1 h.2
    case skip => exact hK _ _ h.1 h.2
    case enter f args =>
      refine h.mono fun e w'' he => ?_
      obtain ⟨v, rfl, hb, hr⟩ := he
      exact hK _ _ hb hr
    case row row args => exact h.mono fun u w'' he => hK _ _ he.1 he.2
  | halt x w' => simp only [growsUpon] at h

/-- The values of the listed ones laid into their slots, in the order of the text. -/
def putsL (ops : Array Oper) (L : Nat → Bool) (vs : Nat → Value) (a : Act) : Nat → Act
  | 0 => a
  | k + 1 => if L k then (putsL ops L vs a k).put ((ops[k]?).bind (·.dst)) (vs k) else putsL ops L vs a k

def dstOf (ops : Array Oper) (i : Nat) : Option Tmp := (ops[i]?).bind (·.dst)

/-- The bounds of such a region. -/
def growB (ops : Array Oper) (n size : Nat) : Bool :=
  Region.noSelect ops && decide (n < ops.size) && Region.sinkB .any ops n && Region.chainB .any ops n &&
  Region.seqB .any ops (ops.size - n) n ((List.range n).foldl (fun l i => l.setIfInBounds i true) (Array.replicate ops.size false)) &&
  ((List.range n).all fun i => match ops[i]? with
    | some o => o.guard.isNone && (match o.dst with | some d => decide (d < size) | none => false) && (o.after.all fun e => !Region.binds .any e || decide (e.on < i)) &&
      ((List.range n).all fun j => decide (i = j) || (dstOf ops i != dstOf ops j && (match dstOf ops j with | some d => !(o.looksAt ops).contains d || (decide (j < i) && Region.waitsFor .any ops i j) | none => false)))
    | none => false)

section
variable {ops : Array Oper}

theorem putsL_congr {L L' : Nat → Bool} {vs vs' : Nat → Value} {a : Act} : ∀ k, (∀ j, j < k → L j = L' j ∧ (L j = true → vs j = vs' j)) → putsL ops L vs a k = putsL ops L' vs' a k
  | 0, _ => rfl
  | k + 1, h => by
    obtain ⟨h1, h2⟩ := h k (by omega)
    have ih := putsL_congr (a := a) k (fun j hj => h j (by omega))
    unfold putsL
    rw [ih, ← h1]
    by_cases hL : L k = true
    · rw [if_pos hL, if_pos hL, h2 hL]
    · rw [if_neg hL, if_neg hL]

theorem putsL_size {L : Nat → Bool} {vs : Nat → Value} {a : Act} : ∀ k, (putsL ops L vs a k).tmps.size = a.tmps.size
  | 0 => rfl
  | k + 1 => by
    unfold putsL
    split
    · cases (ops[k]?).bind (·.dst) <;> simp [Act.put, putsL_size k]
    · exact putsL_size k

/-- One more value, put last: it might have been put in its turn. -/
theorem putsL_put {L : Nat → Bool} {vs : Nat → Value} {a : Act} {n i : Nat} {v : Value} (hL : L i = false) (hne : ∀ j, j < n → j ≠ i → ∀ d, dstOf ops j = some d → dstOf ops i ≠ some d) :
    ∀ k, k ≤ n → (i < k → (putsL ops L vs a k).put (dstOf ops i) v = putsL ops (fun j => L j || decide (j = i)) (fun j => if j = i then v else vs j) a k) ∧ (k ≤ i → putsL ops L vs a k = putsL ops (fun j => L j || decide (j = i)) (fun j => if j = i then v else vs j) a k)
  | 0, _ => ⟨fun h => by omega, fun _ => rfl⟩
  | k + 1, hkn => by
    obtain ⟨h1, h2⟩ := putsL_put (a := a) (vs := vs) (v := v) hL hne k (by omega)
    refine ⟨fun h => ?_, fun h => ?_⟩
    · by_cases hki : k = i
      · subst hki
        unfold putsL
        rw [if_neg (by rw [hL]; simp), if_pos (by simp), if_pos rfl, h2 (Nat.le_refl _)]
        rfl
      · have h3 := h1 (by omega)
        unfold putsL
        by_cases hLk : L k = true
        · rw [if_pos hLk, if_pos (by simp [hLk]), if_neg hki, ← h3]
          exact Act.put_comm _ _ _ (fun d hd => hne k (by omega) hki d hd)
        · rw [if_neg hLk, if_neg (by simp [hLk, hki])]
          exact h3
    · unfold putsL
      have hki : k ≠ i := by omega
      rw [h2 (by omega)]
      by_cases hLk : L k = true
      · rw [if_pos hLk, if_pos (by simp [hLk]), if_neg hki]
      · rw [if_neg hLk, if_neg (by simp [hLk, hki])]

theorem eval_putsL {L L' : Nat → Bool} {vs vs' : Nat → Value} {a : Act} {x : Operand} : ∀ k, (∀ j, j < k → (∀ d, dstOf ops j = some d → x ≠ .tmp d) ∨ (L j = L' j ∧ vs j = vs' j)) → (putsL ops L vs a k).eval x = (putsL ops L' vs' a k).eval x
  | 0, _ => rfl
  | k + 1, h => by
    have ih := eval_putsL (a := a) k (fun j hj => h j (by omega))
    unfold putsL
    rcases h k (by omega) with h1 | ⟨h1, h2⟩
    · have e : ∀ b v, (Act.put b ((ops[k]?).bind (·.dst)) v).eval x = b.eval x := fun b v => Act.eval_put h1
      have e1 : ∀ (c : Bool) (b : Act) (v : Value), (if c = true then Act.put b ((ops[k]?).bind (·.dst)) v else b).eval x = b.eval x := fun c b v => by
        cases c
        · rfl
        · exact e b v
      rw [e1, e1, ih]
    · rw [h1, h2]
      by_cases hL : L' k = true
      · rw [if_pos hL, if_pos hL]
        cases hd : (ops[k]?).bind (·.dst) with
        | none => exact ih
        | some d =>
          cases x with
          | tmp t =>
            by_cases ht : d = t
            · subst ht
              by_cases hlt : d < a.tmps.size
              · simp [Act.eval, Act.put, putsL_size, hlt]
              · simp [Act.eval, Act.put, putsL_size, hlt]
            · rw [Act.eval_put (fun d' hd' => by injection hd' with hd'; subst hd'; intro e; injection e with e; exact ht e.symm), Act.eval_put (fun d' hd' => by injection hd' with hd'; subst hd'; intro e; injection e with e; exact ht e.symm)]
              exact ih
          | _ => rfl
      · rw [if_neg hL, if_neg hL]
        exact ih

theorem foldl_set_get (n j : Nat) : ∀ (L : Array Bool), n ≤ L.size → ((List.range n).foldl (fun l i => l.setIfInBounds i true) L).getD j false = (decide (j < n) || L.getD j false) ∧ ((List.range n).foldl (fun l i => l.setIfInBounds i true) L).size = L.size := by
  induction n with
  | zero => intro L _; simp
  | succ n ih =>
    intro L hL
    obtain ⟨h1, h2⟩ := ih L (by omega)
    rw [List.range_succ, List.foldl_append, List.foldl_cons, List.foldl_nil]
    refine ⟨?_, by rw [Array.size_setIfInBounds, h2]⟩
    by_cases hj : n = j
    · subst hj
      have h3 : n < ((List.range n).foldl (fun l i => l.setIfInBounds i true) L).size := by rw [h2]; omega
      simp only [Array.getD_eq_getD_getElem?]
      rw [Array.getElem?_setIfInBounds_self_of_lt h3]
      simp
    · rw [getD_set_ne false hj, h1]
      congr 1
      simp only [decide_eq_decide]
      omega

/-- How many of the first n are not listed. -/
def unlisted (listed : Array Bool) (n : Nat) : Nat := ((List.range n).filter fun i => !listed.getD i false).length

theorem unlisted_set {listed : Array Bool} {n i : Nat} (hi : i < n) (hs : i < listed.size) (hl : listed.getD i false = false) : unlisted listed n = unlisted (listed.setIfInBounds i true) n + 1 := by
  induction n with
  | zero => omega
  | succ n ih =>
    unfold unlisted at *
    rw [List.range_succ, List.filter_append, List.filter_append, List.length_append, List.length_append]
    by_cases h : i = n
    · subst h
      have e : (List.range i).filter (fun j => !listed.getD j false) = (List.range i).filter (fun j => !(listed.setIfInBounds i true).getD j false) := by
        refine List.filter_congr fun j hj => ?_
        rw [getD_set_ne false (by have := List.mem_range.1 hj; omega)]
      rw [e]
      have h1 : (listed.setIfInBounds i true).getD i false = true := by
        rw [Array.getD_eq_getD_getElem?, Array.getElem?_setIfInBounds_self_of_lt hs]
        rfl
      rw [List.filter_cons, List.filter_cons, hl, h1]
      simp
    · have h2 := ih (by omega)
      rw [h2]
      simp only [List.filter_cons, List.filter_nil]
      rw [getD_set_ne false h]
      omega

theorem unlisted_zero {listed : Array Bool} {n : Nat} (h : unlisted listed n = 0) : ∀ j, j < n → listed.getD j false = true := fun j hj => by
  have h1 : (List.range n).filter (fun i => !listed.getD i false) = [] := List.length_eq_zero_iff.1 h
  have h2 := List.filter_eq_nil_iff.1 h1 j (List.mem_range.2 hj)
  simpa using h2

/-- The least of them. -/
theorem unlisted_least {listed : Array Bool} : ∀ {n : Nat}, unlisted listed n ≠ 0 → ∃ i, i < n ∧ listed.getD i false = false ∧ ∀ j, j < i → listed.getD j false = true := by
  intro n h
  have h1 : ∃ i, i < n ∧ listed.getD i false = false := by
    apply Classical.byContradiction
    intro hno
    apply h
    unfold unlisted
    rw [List.length_eq_zero_iff, List.filter_eq_nil_iff]
    intro i hi
    have := List.mem_range.1 hi
    cases hb : listed.getD i false with
    | true => simp
    | false => exact absurd ⟨i, this, hb⟩ hno
  obtain ⟨i, hi, hb⟩ := h1
  induction i using Nat.strongRecOn with
  | _ i ih =>
    by_cases hc : ∃ j, j < i ∧ listed.getD j false = false
    · obtain ⟨j, hj, hb'⟩ := hc
      exact ih j hj (by omega) hb'
    · refine ⟨i, hi, hb, fun j hj => ?_⟩
      cases hb' : listed.getD j false with
      | true => rfl
      | false => exact absurd ⟨j, hj, hb'⟩ hc

/-- What growB says of one of the first n. -/
theorem growB_at {n size i : Nat} (hB : growB ops n size = true) (hi : i < n) : ∃ o d, ops[i]? = some o ∧ o.guard = none ∧ o.dst = some d ∧ d < size ∧ (∀ e ∈ o.after, Region.binds .any e = true → e.on < i) ∧
    (∀ j, j < n → i ≠ j → dstOf ops i ≠ dstOf ops j) ∧ (∀ j, j < n → i ≠ j → ∀ d, dstOf ops j = some d → d ∈ o.looksAt ops → j < i ∧ Region.waitsFor .any ops i j = true) := by
  simp only [growB, Bool.and_eq_true] at hB
  have h := List.all_eq_true.1 hB.2 i (List.mem_range.2 hi)
  cases ho : ops[i]? with
  | none => rw [ho] at h; simp at h
  | some o =>
    rw [ho] at h
    simp only [Bool.and_eq_true] at h
    obtain ⟨⟨⟨h1, h2⟩, h3⟩, h4⟩ := h
    cases hd : o.dst with
    | none => rw [hd] at h2; simp at h2
    | some d =>
      rw [hd] at h2
      refine ⟨o, d, rfl, by simpa using h1, hd, by simpa using h2, fun e he hb => ?_, fun j hj hij => ?_, fun j hj hij d' hd' hm => ?_⟩
      · have := Array.all_eq_true'.1 h3 e he
        rw [hb] at this
        simpa using this
      · have := List.all_eq_true.1 h4 j (List.mem_range.2 hj)
        simp only [Bool.or_eq_true, decide_eq_true_eq, Bool.and_eq_true] at this
        rcases this with h5 | h5
        · exact absurd h5 hij
        · simpa using h5.1
      · have := List.all_eq_true.1 h4 j (List.mem_range.2 hj)
        simp only [Bool.or_eq_true, decide_eq_true_eq, Bool.and_eq_true] at this
        rcases this with h5 | h5
        · exact absurd h5 hij
        · have h6 := h5.2
          rw [hd'] at h6
          simp only [Bool.or_eq_true, Bool.and_eq_true, decide_eq_true_eq] at h6
          rcases h6 with h6 | h6
          · have : (Oper.looksAt ops o).contains d' = true := List.contains_iff_mem.2 hm
            rw [this] at h6
            simp at h6
          · exact h6

/-- The first n in whatever order, then those behind them. -/
theorem wpAny_grow {n : Nat} {R : Nat → Stay} {Q : Exit → Act → World → Prop} {a : Act} {w0 : World} (hB : growB ops n a.tmps.size = true)
    (hop : ∀ i, i < n → ∀ o, ops[i]? = some o → ∀ vs w, Below w0.heap.size w0 w → (∀ j, j < i → Region.waitsFor .any ops i j = true → (R j).p (vs j) w) →
      growsUpon P (R i).p w ((execOp (putsL ops (fun j => decide (j < i)) vs a n).eval o).run P w))
    (hend : ∀ vs w, Below w0.heap.size w0 w → (∀ j, j < n → (R j).p (vs j) w) → wpList P ops Q (ops.toList.drop n) (putsL ops (fun _ => true) vs a n) w) :
    ∀ (m : Nat) (listed : Array Bool) (vs : Nat → Value) (w : World), unlisted listed n = m → HeadInv .any ops n listed → Below w0.heap.size w0 w → (∀ j, j < n → listed.getD j false = true → (R j).p (vs j) w) →
      wpAny P .any ops Q (m + (ops.size - n)) listed (putsL ops (fun j => listed.getD j false) vs a n) w := by
  have hB0 := hB
  simp only [growB, Bool.and_eq_true, decide_eq_true_eq] at hB0
  obtain ⟨⟨⟨⟨⟨hsel, hn⟩, hs⟩, hc⟩, hseq⟩, -⟩ := hB0
  intro m
  induction m with
  | zero =>
    intro listed vs w hu inv hb hr
    have hall := unlisted_zero hu
    have hlen : (ops.toList.drop n).length = ops.size - n := by simp
    have hl : listed = (List.range n).foldl (fun l i => l.setIfInBounds i true) (Array.replicate ops.size false) := by
      obtain ⟨-, h2⟩ := foldl_set_get n 0 (Array.replicate ops.size false) (by simp; omega)
      apply Array.ext
      · rw [h2, inv.size]; simp
      · intro j hj hj'
        have e1 : listed.getD j false = listed[j] := by simp [hj]
        have e2 := (foldl_set_get n j (Array.replicate ops.size false) (by simp; omega)).1
        have e3 : ((List.range n).foldl (fun l i => l.setIfInBounds i true) (Array.replicate ops.size false)).getD j false = ((List.range n).foldl (fun l i => l.setIfInBounds i true) (Array.replicate ops.size false))[j] := by simp only [Array.getD_eq_getD_getElem?, Array.getElem?_eq_getElem hj', Option.getD_some]
        rw [← e1, ← e3, e2, getD_replicate_false, Bool.or_false]
        by_cases hjn : j < n
        · rw [hall j hjn, decide_eq_true hjn]
        · rw [decide_eq_false hjn]
          exact getD_both (inv.tail j (by omega) (by rw [inv.size] at hj; exact hj))
    rw [Nat.zero_add, ← hlen]
    refine wpAny_of_seq (ops.toList.drop n) n listed _ w (fun j => by rw [List.getElem?_drop]; simp) (by rw [hlen, hl]; exact hseq) ?_
    rw [putsL_congr (L' := fun _ => true) (vs' := vs) n (fun j hj => ⟨hall j hj, fun _ => rfl⟩)]
    exact hend vs w hb (fun j hj => hr j hj (hall j hj))
  | succ m ih =>
    intro listed vs w hu inv hb hr
    rw [show m + 1 + (ops.size - n) = (m + (ops.size - n)) + 1 by omega]
    obtain ⟨k, hk, hkl, hkb⟩ := unlisted_least (listed := listed) (n := n) (by omega)
    have hks : k < listed.size := by rw [inv.size]; omega
    refine ⟨fun h0 => ?_, fun i hi => ?_⟩
    · obtain ⟨o, d, ho, _, _, _, haf, _, _⟩ := growB_at hB hk
      have : k ∈ Region.ready .any ops listed := mem_ready.2 ⟨getD_in hks hkl, o, ho, fun e he hbd => hkb _ (haf e he hbd)⟩
      rw [h0] at this
      cases this
    · obtain ⟨hiun, oi, hoi, hall⟩ := mem_ready.1 hi
      have hin : i < n := by
        rcases Nat.lt_or_ge i n with h | h
        · exact h
        · exact absurd hi (tail_waits hs hc hn inv _ k rfl hk (getD_in hks hkl) i h)
      obtain ⟨o, d, ho, hg, hd, hds, haf, hdn, hlk⟩ := growB_at hB hin
      obtain rfl : oi = o := Option.some.inj (hoi.symm.trans ho)
      have hilf : listed.getD i false = false := getD_both hiun
      have his : i < listed.size := by rw [inv.size]; omega
      unfold wpOp
      simp only [hoi]
      rw [if_pos (by simp [Region.wanted, hg])]
      refine .inl (wp_of_grows (b := putsL ops (fun j => decide (j < i)) vs a n) (R := (R i).p) ?_ (hop i hin oi hoi vs w hb fun j hj hw => ?_) ?_)
      · refine execOp_congr oi (fun cs b => Region.noSelect_spec hsel i oi cs b hoi) fun x hx => eval_putsL n fun j hj => ?_
        by_cases hd' : ∀ d, dstOf ops j = some d → x ≠ .tmp d
        · exact .inl hd'
        · refine .inr ⟨?_, rfl⟩
          have hd2 : ∃ d, dstOf ops j = some d ∧ x = .tmp d := by
            apply Classical.byContradiction
            intro hno
            exact hd' fun d hd hx => hno ⟨d, hd, hx⟩
          obtain ⟨d', hj', rfl⟩ := hd2
          by_cases hij : i = j
          · subst hij
            rw [hilf, decide_eq_false (by omega)]
          · obtain ⟨hji, hw⟩ := hlk j hj hij d' hj' (List.mem_append_left _ (List.mem_filterMap.2 ⟨.tmp d', by simpa using hx, rfl⟩))
            obtain ⟨o', ho', e, he, hbd, hon⟩ := Region.waitsFor_spec hw
            obtain rfl : oi = o' := Option.some.inj (hoi.symm.trans ho')
            have := hall e he hbd
            rw [hon] at this
            rw [this, decide_eq_true hji]
      · obtain ⟨o', ho', e, he, hbd, hon⟩ := Region.waitsFor_spec hw
        obtain rfl : oi = o' := Option.some.inj (hoi.symm.trans ho')
        have := hall e he hbd
        rw [hon] at this
        exact hr j (by omega) this
      · intro v w' hbw hrv
        have hdo : dstOf ops i = oi.dst := by simp [dstOf, hoi]
        have hb' : Below w0.heap.size w0 w' := hb.trans (hbw.mono hb.size)
        have hput := (putsL_put (ops := ops) (L := fun j => listed.getD j false) (vs := vs) (a := a) (i := i) (v := v) (n := n) hilf (fun j hjn hj d' hd' => fun h => hdn j hjn (Ne.symm hj) (by rw [hd', h])) n (Nat.le_refl _)).1 hin
        rw [← hdo, hput]
        have e := putsL_congr (ops := ops) (L := fun j => listed.getD j false || decide (j = i)) (L' := fun j => (listed.setIfInBounds i true).getD j false) (vs := fun j => if j = i then v else vs j) (vs' := fun j => if j = i then v else vs j) (a := a) n (fun j hj => ⟨by
          by_cases hji : j = i
          · subst hji
            rw [Array.getD_eq_getD_getElem? (xs := listed.setIfInBounds j true), Array.getElem?_setIfInBounds_self_of_lt his]
            simp
          · rw [getD_set_ne false (Ne.symm hji)]
            simp [hji], fun _ => rfl⟩)
        rw [e]
        refine ih _ _ w' (by have := unlisted_set hin his hilf; omega) (inv.set hi hin) hb' fun j hj hl => ?_
        by_cases hji : j = i
        · subst hji
          rw [if_pos rfl]
          exact hrv
        · rw [if_neg hji]
          rw [getD_set_ne false (Ne.symm hji)] at hl
          exact (R j).mono (hr j hj hl) hbw
end

/-- The first i put in the order of the text. -/
def putsT : List Oper → (Nat → Value) → Act → Nat → Act
  | [], _, a, _ => a
  | o :: l, vs, a, k => putsT l vs (a.put o.dst (vs k)) (k + 1)

theorem putsT_snoc : ∀ (l : List Oper) (o : Oper) (vs : Nat → Value) (a : Act) (k : Nat), putsT (l ++ [o]) vs a k = (putsT l vs a k).put o.dst (vs (k + l.length))
  | [], _, _, _, _ => rfl
  | p :: l, o, vs, a, k => by
    rw [List.cons_append, putsT, putsT, putsT_snoc l o vs _ (k + 1), List.length_cons, show k + 1 + l.length = k + (l.length + 1) by omega]

theorem putsL_text {l : List Oper} {vs : Nat → Value} {a : Act} {i : Nat} : ∀ n, i ≤ n → n ≤ l.length → putsL l.toArray (fun j => decide (j < i)) vs a n = putsT (l.take i) vs a 0
  | 0, hi, _ => by
    obtain rfl : i = 0 := by omega
    rfl
  | n + 1, hi, hl => by
    by_cases h : i = n + 1
    · subst h
      unfold putsL
      rw [if_pos (by simp), putsL_congr (L' := fun j => decide (j < n)) (vs' := vs) n (fun j hj => ⟨by simp [hj]; omega, fun _ => rfl⟩), putsL_text n (Nat.le_refl _) (by omega)]
      have hn : n < l.length := by omega
      rw [List.take_succ_eq_append_getElem hn, putsT_snoc, Nat.zero_add, List.length_take, Nat.min_eq_left (by omega)]
      simp [hn]
    · unfold putsL
      rw [if_neg (by simp; omega)]
      exact putsL_text n (by omega) (by omega)

/-- A region that draws: what each of the first n is asked, in whatever world it may come up; what is behind them. -/
theorem wp_region_grow {id : Nat} {Q : Exit → Act → World → Prop} {a : Act} {w : World} {l : List Oper} (n : Nat) (R : List Stay) (hm : P.follows .mixedOrders = true) (hB : growB l.toArray n a.tmps.size = true)
    (hop : ∀ i, i < n → ∀ o, l[i]? = some o → ∀ (vs : Nat → Value) (w' : World), Below w.heap.size w w' → (∀ j, j < i → Region.waitsFor .any l.toArray i j = true → (R.getD j Stay.free).p (vs j) w') →
      ∀ K : Act → World → Prop, (∀ v w'', Below w'.heap.size w' w'' → (R.getD i Stay.free).p v w'' → K ((putsT (l.take i) vs a 0).put o.dst v) w'') → wpList P #[o] (fun e a w => e = .normal ∧ K a w) [o] (putsT (l.take i) vs a 0) w')
    (hend : ∀ (vs : Nat → Value) (w' : World), Below w.heap.size w w' → (∀ j, j < n → (R.getD j Stay.free).p (vs j) w') → wpList P l.toArray Q (l.drop n) (putsT (l.take n) vs a 0) w') :
    (Code.region id l.toArray true).wp P Q a w := by
  have hn : n < l.length := by
    have h := hB
    simp only [growB, Bool.and_eq_true, decide_eq_true_eq] at h
    simpa using h.1.1.1.1.2
  have hd : Below w.heap.size w w.drew := (Below.refl _ _).drew
  refine wp_region_any hm ?_
  have inv0 : HeadInv .any l.toArray n (Array.replicate l.toArray.size false) :=
    ⟨by simp, fun j oj _ hl => (by rw [getD_replicate_false] at hl; cases hl), fun t _ ht => getD_in (by simpa using ht) (getD_replicate_false _ _)⟩
  have hu : unlisted (Array.replicate l.toArray.size false) n = n := by
    unfold unlisted
    rw [List.filter_eq_self.2 (fun j _ => by rw [getD_replicate_false]; rfl), List.length_range]
  have H := wpAny_grow (P := P) (ops := l.toArray) (n := n) (R := fun j => R.getD j Stay.free) (Q := Q) (a := a) (w0 := w.drew) hB (fun i hi o ho vs w' hb hr => by
      rw [putsL_text n (by omega) (by omega)]
      obtain ⟨o', d, ho', hg, hdo, hds, -⟩ := growB_at hB hi
      obtain rfl : o = o' := Option.some.inj (ho.symm.trans ho')
      have hsz : (putsT (l.take i) vs a 0).tmps.size = a.tmps.size := by rw [← putsL_text n (by omega) (by omega), putsL_size]
      exact grows_of_wp hdo (by rw [hsz]; exact hds) hg (hop i hi o (by simpa using ho) vs w' (hd.trans hb) hr))
    (fun vs w' hb hr => by
      rw [putsL_congr (L' := fun j => decide (j < n)) (vs' := vs) n (fun j hj => ⟨by simp [hj], fun _ => rfl⟩), putsL_text n (Nat.le_refl _) (by omega)]
      exact hend vs w' (hd.trans hb) hr)
    n (Array.replicate l.toArray.size false) (fun _ => undef) w.drew hu inv0 (Below.refl _ _) (fun j hj h => by rw [getD_replicate_false] at h; cases h)
  rw [show n + (l.toArray.size - n) = l.toArray.size by simp; omega] at H
  rw [putsL_congr (L' := fun j => decide (j < 0)) (vs' := fun _ => undef) n (fun j hj => ⟨by rw [getD_replicate_false]; simp, fun _ => rfl⟩), putsL_text n (Nat.zero_le _) (by omega)] at H
  exact H
end

end Go.Proofs.YtammmecddnafaaaGreatDoor
