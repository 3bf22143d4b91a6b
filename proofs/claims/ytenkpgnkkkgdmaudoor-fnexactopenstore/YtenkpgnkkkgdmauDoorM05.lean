/- Rows of texts cut in two. No program in it but its table of types. A store in memory: its two rows of texts and its uploads, of a call's own. No program in it but its table of types. What is written lies between two bounds. No program in it. The mark of a number as a text. Marks laid on a row of texts. The marks laid into a disk. A disk in a variable of the law's: where its rows lie, and the marks in it. -/
import Derived.Test.YtenkpgnkkkgdmauDoorM04
import Derived.Test.YtenkpgnkkkgdmauDoorM01
import Derived.Laws.IdiomStrings
import Derived.Laws.BytesArg
import Derived.Deep.QuietTactic
import Derived.BigQuiet
namespace Go.Proofs.YtenkpgnkkkgdmauDoor
open Go.RowKit
set_option linter.unusedVariables false

/-- A slice value whose parts may be taken. -/
def SlOk (a : Option Addr) (n ca : Nat) : Prop := n ≤ ca ∧ ca ≤ maxLen ∧ ((a = none ∧ ca = 0) ∨ ∃ b off, a = some ⟨b, off, none⟩)

theorem OwnSt.sl {w : World} {base n ca : Nat} {a : Option Addr} {l : List ByteArray} (h : OwnSt w base (.slice a n ca) n l) : SlOk a n ca := by
  rcases h.1.2 with ⟨h0, h1⟩ | ⟨g, cap, cur, he, hb, hg, hn, hm, hc, ht⟩
  · injection h0 with e1 e2 e3
    subst e1 e2 e3
    exact ⟨Nat.le_refl _, Nat.zero_le _, .inl ⟨rfl, rfl⟩⟩
  · injection he with e1 e2 e3
    subst e1 e3
    exact ⟨hn, hm, .inr ⟨g, 0, rfl⟩⟩

theorem Strs.take {w : World} {a : Option Addr} {n : Nat} {l : List ByteArray} (h : Strs w a n l) {k : Nat} (hk : k ≤ n) : Strs w a k (l.take k) := by
  obtain ⟨h1, h2, h3⟩ := h
  refine ⟨by rw [List.length_take]; omega, fun s hs => h2 s (List.mem_of_mem_take hs), ?_⟩
  rcases h3 with h0 | ⟨b, off, ha, hlt, hc⟩
  · exact .inl (by omega)
  · by_cases hk0 : k = 0
    · exact .inl hk0
    · refine .inr ⟨b, off, ha, hlt, fun i hi => ?_⟩
      have hil : i < l.length := by rw [List.length_take] at hi; omega
      rw [List.getElem_take]
      exact hc i hil

theorem Strs.drop {w : World} {b off n : Nat} {l : List ByteArray} (h : Strs w (some ⟨b, off, none⟩) n l) {k : Nat} (hk : k ≤ n) : Strs w (some ⟨b, off + k, none⟩) (n - k) (l.drop k) := by
  obtain ⟨h1, h2, h3⟩ := h
  refine ⟨by rw [List.length_drop]; omega, fun s hs => h2 s (List.mem_of_mem_drop hs), ?_⟩
  rcases h3 with h0 | ⟨b', off', ha, hlt, hc⟩
  · exact .inl (by omega)
  · injection ha with ha
    injection ha with e1 e2
    subst e1 e2
    refine .inr ⟨b, off + k, rfl, hlt, fun i hi => ?_⟩
    have hil : k + i < l.length := by rw [List.length_drop] at hi; omega
    have := hc (k + i) hil
    rw [List.getElem_drop]
    rw [show off + k + i = off + (k + i) by omega]
    exact this

theorem Strs.gone {w : World} {a : Option Addr} {n : Nat} {l : List ByteArray} (h : Strs w a n l) (a' : Option Addr) {k : Nat} (hk : n ≤ k) : Strs w a' 0 (l.drop k) := by
  have : l.drop k = [] := List.drop_of_length_le (by have := h.1; omega)
  rw [this]
  exact ⟨rfl, by simp, .inl rfl⟩

end Go.Proofs.YtenkpgnkkkgdmauDoor

namespace Go.Proofs.YtenkpgnkkkgdmauDoor
open Go.RowKit
set_option linter.unusedVariables false

/-- Rows of different types do not lie in one block. -/
theorem rows_apart {W : World} {base base' n n' size size' : Nat} {e e' : TypeId} {v v' : Value} {xs xs' : List Value} (h : W.ownsRow base e size v n xs) (h' : W.ownsRow base' e' size' v' n' xs') (hne : e ≠ e') : ∀ q, v.ownBlock = some q → v'.ownBlock ≠ some q := by
  intro q hq hq'
  rcases h.2 with ⟨rfl, _⟩ | ⟨g, cap, cur, rfl, _, hg, _⟩
  · cases hq
  · rcases h'.2 with ⟨rfl, _⟩ | ⟨g', cap', cur', rfl, _, hg', _⟩
    · cases hq'
    · obtain rfl : g = q := by simpa [Value.ownBlock] using hq
      obtain rfl : g' = g := by simpa [Value.ownBlock] using hq'
      rw [hg] at hg'
      injection hg' with hg'
      injection hg' with _ h2 _
      exact hne h2

theorem blk_own (a : Option Addr) (n c : Nat) : blkOf (.slice a n c) = a.map (·.block) := by cases a <;> rfl

/-- Uploads are as they were where a row of texts is written. -/
theorem UpRow.keptS {W W' : World} {base base' n ca : Nat} {a : Option Addr} {v : Value} {l : List UE} {X : List ByteArray} (h : UpRow W base v l) (ho : OwnSt W base' (.slice a n ca) n X) (hg : W.grownBy W' (a.map (·.block))) : UpRow W' base v l := by
  have h9 : W.ownsRow base' 9 1 (.slice a n ca) n (scells X) := ho.1
  refine h.grown hg (fun q hq hq2 => ?_) (fun e he q hq hq2 => ?_)
  · exact rows_apart h9 h.1 (by decide) q (by rw [ownBlock_sU]; exact hq) hq2
  · exact rows_apart h9 (h.2.1 e he).1 (by decide) q (by rw [ownBlock_sU]; exact hq) (by rw [ownBlock_sU]; exact hq2)

/-- Texts are as they were where blocks of another type are written. -/
theorem OwnSt.keptR {W W' : World} {base base' n m ca size : Nat} {a : Option Addr} {e : TypeId} {v : Value} {xs : List Value} {X : List ByteArray} (ho : OwnSt W base (.slice a n ca) n X) (h : W.ownsRow base' e size v m xs) (hne : 9 ≠ e) (hg : W.grownBy W' v.ownBlock) : OwnSt W' base (.slice a n ca) n X := by
  have h9 : W.ownsRow base 9 1 (.slice a n ca) n (scells X) := ho.1
  refine ho.kept hg (fun q hq hq2 => ?_)
  rw [blk_own] at hq2
  exact rows_apart h9 h hne q (by rw [ownBlock_sU]; exact hq2) hq

/-- A store's three rows, of a call's own. -/
structure StoAt (W : World) (base : Nat) (a : Option Addr) (n ca : Nat) (X : List ByteArray) (a' : Option Addr) (n' ca' : Nat) (Y : List ByteArray) (ua : Option Addr) (un uc : Nat) (l : List UE) : Prop where
  now : OwnSt W base (.slice a n ca) n X
  sure : OwnSt W base (.slice a' n' ca') n' Y
  apart : ∀ q, a.map (·.block) = some q → a'.map (·.block) ≠ some q
  ups : UpRow W base (.slice ua un uc) l
  len : un = l.length

section
variable {W W' : World} {base : Nat} {a : Option Addr} {n ca : Nat} {X : List ByteArray} {a' : Option Addr} {n' ca' : Nat} {Y : List ByteArray} {ua : Option Addr} {un uc : Nat} {l : List UE}

theorem StoAt.stays (h : StoAt W base a n ca X a' n' ca' Y ua un uc l) (hb : Below W.heap.size W W') : StoAt W' base a n ca X a' n' ca' Y ua un uc l :=
  ⟨h.now.below hb, h.sure.below hb, h.apart, h.ups.stays hb, h.len⟩

theorem StoAt.low {b : Nat} (h : StoAt W base a n ca X a' n' ca' Y ua un uc l) (hb : b ≤ base) : StoAt W b a n ca X a' n' ca' Y ua un uc l :=
  ⟨h.now.low hb, h.sure.low hb, h.apart, h.ups.low hb, h.len⟩
end

/-- What lies below a bound stays. -/
theorem OwnSt.under {W W' : World} {base n ca B : Nat} {a : Option Addr} {X : List ByteArray} (h : OwnSt W base (.slice a n ca) n X) (hb : Below B W W') (h1 : ∀ q, a.map (·.block) = some q → q < B) : OwnSt W' base (.slice a n ca) n X := by
  refine ⟨⟨h.1.1, ?_⟩, h.2⟩
  rcases h.1.2 with h0 | ⟨g, cap, cur, he, hg, hh, r⟩
  · exact .inl h0
  · injection he with e1 e2 e3
    subst e1 e3
    exact .inr ⟨g, ca, cur, rfl, hg, (hb.block g (h1 g rfl)).trans hh, r⟩

theorem StoAt.setLow {W : World} {base b i : Nat} {a : Option Addr} {n ca : Nat} {X : List ByteArray} {a' : Option Addr} {n' ca' : Nat} {Y : List ByteArray} {ua : Option Addr} {un uc : Nat} {l : List UE} (h : StoAt W base a n ca X a' n' ca' Y ua un uc l) (hb : b < base) (u : Value) : StoAt (W.setCell ⟨b, i, none⟩ u) base a n ca X a' n' ca' Y ua un uc l := by
  refine ⟨h.now.setCell (fun e => ?_) u, h.sure.setCell (fun e => ?_) u, h.apart, h.ups.grown (grownBy_setU W b i u) (fun q hq hq2 => ?_) (fun e he q hq hq2 => ?_), h.len⟩
  · have := (h.now.lt b e).1; omega
  · have := (h.sure.lt b e).1; omega
  · injection hq with hq; have := (h.ups.lts.1 q hq2).1; omega
  · injection hq with hq; have := (h.ups.lts.2 e he q hq2).1; omega

/-- An answer that is a store. -/
def AnsS (base : Nat) (X Y : List ByteArray) (ep nx : Int) (us : List U) (v : Value) (w' : World) : Prop :=
  ∃ (a : Option Addr) (n ca : Nat) (a' : Option Addr) (n' ca' : Nat) (ua : Option Addr) (un uc : Nat) (l : List UE), v = .agg #[.slice a n ca, .slice a' n' ca', .int .i64 ep, .int .i64 nx, .slice ua un uc] ∧ StoAt w' base a n ca X a' n' ca' Y ua un uc l ∧ l.map UE.u = us

/-- The rows of a store lie below a bound. -/
def StoIn (a a' ua : Option Addr) (l : List UE) (hi : Nat) : Prop := (∀ q, a.map (·.block) = some q → q < hi) ∧ (∀ q, a'.map (·.block) = some q → q < hi) ∧ (∀ q, ua.map (·.block) = some q → q < hi) ∧ ∀ e ∈ l, ∀ q, e.a.map (·.block) = some q → q < hi

end Go.Proofs.YtenkpgnkkkgdmauDoor

namespace Go.Proofs.YtenkpgnkkkgdmauDoor
open Go.RowKit
set_option linter.unusedVariables false

/-- Of what was there, only blocks from lo on and below hi may have turned. -/
structure Within (w w' : World) (lo hi : Nat) : Prop where
  os : w'.os = w.os
  tape : w'.tape = w.tape
  output : w'.output = w.output
  size : w.heap.size ≤ w'.heap.size
  block : ∀ q, q < w.heap.size → (q < lo ∨ hi ≤ q) → w'.heap[q]? = w.heap[q]?

theorem Within.refl (w : World) (lo hi : Nat) : Within w w lo hi := ⟨rfl, rfl, rfl, Nat.le_refl _, fun _ _ _ => rfl⟩

theorem Within.trans {w w1 w2 : World} {lo hi : Nat} (h : Within w w1 lo hi) (k : Within w1 w2 lo hi) : Within w w2 lo hi :=
  ⟨k.os.trans h.os, k.tape.trans h.tape, k.output.trans h.output, Nat.le_trans h.size k.size, fun q hq ho => (k.block q (Nat.lt_of_lt_of_le hq h.size) ho).trans (h.block q hq ho)⟩

theorem within_below {w w' : World} {lo hi : Nat} (h : Below w.heap.size w w') : Within w w' lo hi := ⟨h.os, h.tape, h.output, h.size, fun q hq _ => h.block q hq⟩

theorem within_grown {w w' : World} {lo hi : Nat} {r : Option Nat} (h : w.grownBy w' r) (hr : ∀ q, r = some q → lo ≤ q ∧ q < hi) : Within w w' lo hi :=
  ⟨h.os, h.tape, h.output, h.size, fun q hq ho => h.block q hq (fun e => by have := hr q e.symm; omega)⟩

theorem Within.below {w w' : World} {lo hi : Nat} (h : Within w w' lo hi) (hl : lo ≤ w.heap.size) : Below lo w w' :=
  ⟨h.os, h.tape, h.output, h.size, fun q hq => h.block q (Nat.lt_of_lt_of_le hq hl) (.inl hq)⟩

theorem Within.more {w w' : World} {lo hi lo' hi' : Nat} (h : Within w w' lo hi) (h1 : lo' ≤ lo) (h2 : hi ≤ hi') : Within w w' lo' hi' :=
  ⟨h.os, h.tape, h.output, h.size, fun q hq ho => h.block q hq (by omega)⟩

end Go.Proofs.YtenkpgnkkkgdmauDoor

namespace Go.Proofs.YtenkpgnkkkgdmauDoor
open Go.RowKit
set_option linter.unusedVariables false

theorem own_stays {w w' : World} {base size n : Nat} {v : Value} {e : TypeId} {xs : List Value} (h : w.ownsRow base e size v n xs) (hb : Below w.heap.size w w') : w'.ownsRow base e size v n xs := by
  refine ⟨h.1, ?_⟩
  rcases h.2 with h0 | ⟨g, cap, cur, he, hg, hh, r⟩
  · exact .inl h0
  · exact .inr ⟨g, cap, cur, he, hg, (hb.block g (Array.getElem?_eq_some_iff.1 hh).1).trans hh, r⟩

/-- 'string([]byte{c})'. -/
theorem convm_one (c : Nat) (hc : c < 256) (W : World) (g : Nat) (h : W.cell? ⟨g, 0, none⟩ = some (.int .u8 (c : Int))) :
    (convert 50 9 (.slice (some ⟨g, 0, none⟩) 1 1)).run Tryd.prog W = .ok (.string ⟨#[UInt8.ofNat c]⟩) W := by
  refine run_convert_bytes_back W 50 9 5 ⟨g, 0, none⟩ 1 [UInt8.ofNat c] Tryd.underlying50 Tryd.underlying5 Tryd.underlying9 (fun j hj => ?_)
  obtain rfl : j = 0 := by simpa using hj
  have e : (UInt8.ofNat c).toNat = c := by simp; omega
  simpa [Addr.add, Nat.mod_eq_of_lt hc] using h

/-- The digits of k ahead of a text. -/
def mtGo (k : Nat) (out : ByteArray) : ByteArray := if k = 0 then out else mtGo (k / 10) (⟨#[UInt8.ofNat (48 + k % 10)]⟩ ++ out)
termination_by k
decreasing_by omega

/-- The mark of the number k. -/
def mt (k : Nat) : ByteArray := if k = 0 then ⟨#[109, 48]⟩ else ⟨#[109]⟩ ++ mtGo k ⟨#[]⟩

set_option maxRecDepth 10000 in
set_option maxHeartbeats 800000 in
theorem markText_any (k : Nat) (w : World) (hk : k ≤ 4398046511104) : Calls Tryd.prog 40 #[.int .i64 (k : Int)] w fun e w' => e = .returned (.string (mt k)) ∧ Below w.heap.size w w' := by
  by_cases h0 : k = 0
  · subst h0
    go_enter Tryd.func40, Tryd.ntmps40
    go_wp2
    go_ret
    exact ⟨rfl, Below.refl _ _⟩
  · have e : mt k = ⟨#[109]⟩ ++ mtGo k ⟨#[]⟩ := by rw [mt, if_neg h0]
    rw [e]
    have hki : ¬ (k : Int) ≤ 0 := by omega
    have hkd : decide ((k : Int) ≤ 0) = false := by simp; omega
    generalize hT : mtGo k ⟨#[]⟩ = T
    have HT : Hid (mtGo k ⟨#[]⟩ = T) := hT
    clear hT e
    go_enter Tryd.func40, Tryd.ntmps40
    go_wp2_with fail
    go_loopw [0, 3] (fun n o wr => ∃ (j : Nat) (u : ByteArray), j + u.size ≤ k ∧ n = .int .i64 (j : Int) ∧ o = .string u ∧ Hid (mtGo j u = T) ∧ Hid (Below w.heap.size w wr)) (fun n _ _ => (intOf n).toNat)
    case atStart => exact ⟨k, ⟨#[]⟩, Nat.le_refl _, rfl, rfl, HT, Below.refl _ _⟩
    case round =>
      clear HT
      obtain ⟨j, u, hj, rfl, rfl, HT, HB⟩ := hrel
      by_cases hj0 : j = 0
      · subst hj0
        have hTu : u = T := by
          have := HT.out
          rw [mtGo, if_pos rfl] at this
          exact this
        subst hTu
        go_wp2_with fail
        go_ret
        exact ⟨rfl, HB.out⟩
      · have hj1 : (0 : Int) < (j : Int) := by omega
        have HT2 : Hid (mtGo (j / 10) (⟨#[UInt8.ofNat (48 + j % 10)]⟩ ++ u) = T) := by
          show _ = _
          have := HT.out
          rw [mtGo, if_neg hj0] at this
          exact this
        have hjb : (j : Int) ≤ 4398046511104 := by omega
        have hcv : ∀ (W : World) (g : Nat), W.cell? ⟨g, 0, none⟩ = some (.int .u8 (48 + (j : Int) % 10)) → (convert 50 9 (.slice (some ⟨g, 0, none⟩) 1 1)).run Tryd.prog W = .ok (.string ⟨#[UInt8.ofNat (48 + j % 10)]⟩) W := fun W g hW => convm_one (48 + j % 10) (by omega) W g (by rw [hW]; congr 2)
        have hsz : (⟨#[UInt8.ofNat (48 + j % 10)]⟩ ++ u : ByteArray).size = 1 + u.size := by rw [ByteArray.size_append]; rfl
        have hXs : (⟨#[UInt8.ofNat (48 + j % 10)]⟩ : ByteArray).size = 1 := rfl
        generalize hX : (⟨#[UInt8.ofNat (48 + j % 10)]⟩ : ByteArray) = X at *
        clear hX
        have hus : X.size + u.size ≤ 4398046511105 := by omega
        have HSz : Hid ((X ++ u).size = 1 + u.size) := hsz
        clear hsz
        go_wp2_with fail
        go_roundw
        case rel =>
          refine ⟨j / 10, X ++ u, by rw [HSz.out]; omega, by congr 1, rfl, HT2, ?_⟩
          exact HB.out.alloc HB.out.size _
        case measure => simp [intOf]; omega

theorem mtGo_size (k : Nat) : ∀ u : ByteArray, (mtGo k u).size ≤ k + u.size := by
  induction k using Nat.strongRecOn with
  | _ k ih =>
    intro u
    rw [mtGo]
    split
    · omega
    · have := ih (k / 10) (by omega) (⟨#[UInt8.ofNat (48 + k % 10)]⟩ ++ u)
      rw [ByteArray.size_append] at this
      have e : (⟨#[UInt8.ofNat (48 + k % 10)]⟩ : ByteArray).size = 1 := rfl
      omega

theorem mt_size (k : Nat) : (mt k).size ≤ k + 2 := by
  unfold mt
  split
  · have e : (⟨#[109, 48]⟩ : ByteArray).size = 2 := rfl
    omega
  · have := mtGo_size k ⟨#[]⟩
    rw [ByteArray.size_append]
    have e : (⟨#[109]⟩ : ByteArray).size = 1 := rfl
    have e2 : (⟨#[]⟩ : ByteArray).size = 0 := rfl
    omega

theorem grown_refl (w : World) (r : Option Nat) : w.grownBy w r := ⟨rfl, rfl, rfl, Nat.le_refl _, fun _ _ _ => rfl⟩
theorem grown_trans {a b c : World} {r : Option Nat} (h : a.grownBy b r) (g : b.grownBy c r) : a.grownBy c r :=
  ⟨g.os.trans h.os, g.tape.trans h.tape, g.output.trans h.output, Nat.le_trans h.size g.size, fun k hk hr => (g.block k (Nat.lt_of_lt_of_le hk h.size) hr).trans (h.block k hk hr)⟩
theorem grown_below {a b : World} {r : Option Nat} (h : Below a.heap.size a b) : a.grownBy b r := ⟨h.os, h.tape, h.output, h.size, fun k hk _ => h.block k hk⟩

end Go.Proofs.YtenkpgnkkkgdmauDoor

namespace Go.Proofs.YtenkpgnkkkgdmauDoor
open Go.RowKit
set_option linter.unusedVariables false

/-- The marks of n texts, from the number k on. -/
def marksS (k n : Nat) : List ByteArray := (List.range n).map fun j => mt (k + j)
theorem marksS_len (k n : Nat) : (marksS k n).length = n := by simp [marksS]
theorem marksS_at (k n j : Nat) (hj : j < n) : (marksS k n)[j]? = some (mt (k + j)) := by simp [marksS, hj]

/-- Texts of which the first j are marked. -/
def smarkTo (k : Nat) (xs : List ByteArray) (j : Nat) : List ByteArray := marksS k j ++ xs.drop j

theorem smarkTo_len (k : Nat) (xs : List ByteArray) (j : Nat) (h : j ≤ xs.length) : (smarkTo k xs j).length = xs.length := by
  simp [smarkTo, marksS_len]
  omega

theorem smarkTo_step (k : Nat) (xs : List ByteArray) (j : Nat) (h : j < xs.length) : (smarkTo k xs j).set j (mt (k + j)) = smarkTo k xs (j + 1) := by
  rw [smarkTo, smarkTo, List.set_append_right j _ (by rw [marksS_len]; exact Nat.le_refl _), marksS_len, Nat.sub_self, List.drop_eq_getElem_cons h, List.set_cons_zero]
  simp [marksS, List.range_succ]

set_option maxRecDepth 10000 in
set_option maxHeartbeats 1600000 in
theorem markStrS_any (base : Nat) (a : Option Addr) (n cap k : Nat) (xs : List ByteArray) (w : World) (h : OwnSt w base (.slice a n cap) n xs) (hn : n ≤ 1099511627776) (hk : k ≤ 1099511627776) :
    Calls Tryd.prog 27 #[.slice a n cap, .int .i64 (k : Int)] w fun e w' => e = .returned (.int .i64 ((k + n : Nat) : Int)) ∧ OwnSt w' base (.slice a n cap) n (marksS k n) ∧ w.grownBy w' (a.map (·.block)) := by
  have hlen := h.len
  have HO0 : Hid (w.ownsRow base 9 1 (.slice a n cap) n (scells (smarkTo k xs 0))) := h.1
  clear h
  go_enter Tryd.func27, Tryd.ntmps27
  go_wp2_with fail
  go_loopw [1, 5] (fun q i wr => ∃ j : Nat, j ≤ n ∧ i = .int .i64 j ∧ q = .int .i64 ((k + j : Nat) : Int) ∧ Hid (wr.ownsRow base 9 1 (.slice a n cap) n (scells (smarkTo k xs j))) ∧ Hid (w.grownBy wr (a.map (·.block)))) (fun _ i _ => n - (intOf i).toNat)
  case atStart => exact ⟨0, Nat.zero_le _, rfl, rfl, HO0, grown_refl _ _⟩
  case round =>
    clear HO0
    obtain ⟨j, hj, rfl, rfl, HO, HG⟩ := hrel
    by_cases hlt : j < n
    · obtain ⟨g, rfl⟩ : ∃ g, a = some ⟨g, 0, none⟩ := by
        rcases HO.out.2 with ⟨_, h0⟩ | ⟨g, cap', cur, he, _⟩
        · omega
        · injection he with e1 _ _
          exact ⟨g, e1⟩
      have hji : (j : Int) < (n : Int) := by omega
      have HM1 : Hid (∀ W, Calls Tryd.prog 40 #[.int .i64 ((k + j : Nat) : Int)] W fun e w' => e = .returned (.string (mt (k + j))) ∧ Below W.heap.size W w') := fun W => markText_any _ W (by omega)
      have HSt : Hid ((smarkTo k xs j).set j (mt (k + j)) = smarkTo k xs (j + 1)) := smarkTo_step k xs j (by omega)
      have HLn : Hid ((smarkTo k xs j).length = n) := by show _ = _; rw [smarkTo_len k xs j (by omega), hlen]
      generalize mt (k + j) = m1 at *
      generalize smarkTo k xs j = L at *
      obtain ⟨K1, hK1⟩ : ∃ K1, k + (j + 1) = K1 := ⟨_, rfl⟩
      obtain ⟨K0, hK0⟩ : ∃ K0, k + j = K0 := ⟨_, rfl⟩
      have hq1 : (K0 : Int) + 1 = (K1 : Int) := by omega
      rw [hK0] at HM1 ⊢
      have HK1 : Hid (k + (j + 1) = K1) := hK1
      have hK0b : (K0 : Int) ≤ 4398046511104 := by omega
      clear hK0 hK1
      go_wp2_with fail
      refine (HM1.out wr).mono ?_
      rintro e x1 ⟨rfl, hb1⟩
      have HO1 : Hid (x1.ownsRow base 9 1 (.slice (some ⟨g, 0, none⟩) n cap) n (scells L)) := own_stays HO.out hb1
      have HG1 : Hid (w.grownBy x1 (some g)) := grown_trans HG.out (grown_below hb1)
      clear hb1 HO HG
      have hln : (scells L).length = n := by rw [scells_len, HLn.out]
      have f0 : x1.frozen? ⟨g, j, none⟩ = false := HO1.out.frozenAt _
      obtain ⟨u0, hu0⟩ : ∃ u, x1.cell? ⟨g, j, none⟩ = some u := by
        rw [HO1.out.cellAt _ (by omega)]
        exact ⟨_, List.getElem?_eq_getElem (by omega)⟩
      have hst := HO1.out.stored j (.string m1)
      have HO4 : Hid ((x1.setCell ⟨g, j, none⟩ (.string m1)).ownsRow base 9 1 (.slice (some ⟨g, 0, none⟩) n cap) n (scells (smarkTo k xs (j + 1)))) := by
        have h1 := hst.1
        rw [scells_set, HSt.out] at h1
        exact h1
      have HG4 : Hid (w.grownBy (x1.setCell ⟨g, j, none⟩ (.string m1)) (some g)) := grown_trans HG1.out hst.2
      clear hst hln HO1 HG1
      go_wp2_with fail
      go_roundw
      case rel => exact ⟨j + 1, by omega, by go_num, by rw [HK1.out], HO4, HG4⟩
      case measure => simp [intOf]; omega
    · have hjn : j = n := by omega
      subst hjn
      go_wp2_with fail
      go_ret
      have hd : smarkTo k xs j = marksS k j := by
        rw [smarkTo, List.drop_eq_nil_of_le (by omega), List.append_nil]
      have h1 := HO.out
      rw [hd] at h1
      refine ⟨rfl, ⟨h1, ?_⟩, HG.out⟩
      intro f hf
      simp only [marksS, List.mem_map, List.mem_range] at hf
      obtain ⟨i, hi, rfl⟩ := hf
      have s1 := mt_size (k + i)
      unfold maxLen
      omega

end Go.Proofs.YtenkpgnkkkgdmauDoor

namespace Go.Proofs.YtenkpgnkkkgdmauDoor
open Go.RowKit
set_option linter.unusedVariables false

theorem blkOf_slice (a : Option Addr) (n c : Nat) : blkOf (.slice a n c) = a.map (·.block) := by cases a <;> rfl

theorem ret_i64 {a b : Int} (h : a = b) : Ending.returned (.int .i64 a) = .returned (.int .i64 b) := by rw [h]

/-- Of all that was there two blocks alone may have changed. -/
def Two (w w' : World) (r r' : Option Nat) : Prop := ∃ w1, w.grownBy w1 r ∧ w1.grownBy w' r'

set_option maxHeartbeats 800000 in
theorem markDisk_any (base : Nat) (a : Option Addr) (n ca : Nat) (xs : List ByteArray) (a' : Option Addr) (n' ca' : Nat) (ys : List ByteArray) (k : Nat) (w : World) (h1 : OwnSt w base (.slice a n ca) n xs) (h2 : OwnSt w base (.slice a' n' ca') n' ys) (hne : ∀ q, a.map (·.block) = some q → a'.map (·.block) ≠ some q) (hn : n ≤ 1073741824) (hn' : n' ≤ 1073741824) (hk : k ≤ 1073741824) :
    Calls Tryd.prog 10 #[.agg #[.slice a n ca, .slice a' n' ca'], .int .i64 (k : Int)] w fun r w' => r = .returned (.int .i64 ((k + n + n' : Nat) : Int)) ∧ OwnSt w' base (.slice a n ca) n (marksS k n) ∧ OwnSt w' base (.slice a' n' ca') n' (marksS (k + n) n') ∧ Two w w' (a.map (·.block)) (a'.map (·.block)) := by
  have HO : Hid (OwnSt w base (.slice a n ca) n xs) := h1
  have HP : Hid (OwnSt w base (.slice a' n' ca') n' ys) := h2
  have HN : Hid (∀ q, a.map (·.block) = some q → a'.map (·.block) ≠ some q) := hne
  clear h1 h2 hne
  have HA : Hid (Box2R (w.alloc (Obj.cells #[Value.slice a n ca, Value.slice a' n' ca'] 26)) w.heap.size 26 (.slice a n ca) (.slice a' n' ca')) := Box2R.new _ _ _ _
  have HB : Hid (Below w.heap.size w (w.alloc (Obj.cells #[Value.slice a n ca, Value.slice a' n' ca'] 26))) := (Below.refl _ _).alloc (Nat.le_refl _) _
  go_enter Tryd.func10, Tryd.ntmps10
  go_wp2_with fail
  refine (markStrS_any base a n ca k xs _ (HO.out.below HB.out) (by omega) (by omega)).mono ?_
  rintro r x1 ⟨rfl, ho1, hg1⟩
  have hlt : ∀ q, a.map (·.block) = some q → q < w.heap.size := fun q hq => (HO.out.lt q (by rw [blkOf_slice]; exact hq)).2
  have HO1 : Hid (OwnSt x1 base (.slice a n ca) n (marksS k n)) := ho1
  have HP1 : Hid (OwnSt x1 base (.slice a' n' ca') n' ys) := (HP.out.below HB.out).kept hg1 (fun q hq => by rw [blkOf_slice]; exact HN.out q hq)
  have HG1 : Hid (w.grownBy x1 (a.map (·.block))) := grown_trans (grown_below HB.out) hg1
  have HA1 : Hid (Box2R x1 w.heap.size 26 (.slice a n ca) (.slice a' n' ca')) := HA.out.grown hg1 (fun e => by have := hlt _ e; omega)
  clear ho1 hg1 hlt HA HB HO HP
  obtain ⟨c0, c1⟩ := HA1.out.cells
  have HM : Hid (Calls Tryd.prog 27 #[.slice a' n' ca', .int .i64 ((k + n : Nat) : Int)] x1 fun e w' => e = .returned (.int .i64 ((k + n + n' : Nat) : Int)) ∧ OwnSt w' base (.slice a' n' ca') n' (marksS (k + n) n') ∧ x1.grownBy w' (a'.map (·.block))) := markStrS_any base a' n' ca' (k + n) ys _ HP1.out (by omega) (by omega)
  obtain ⟨K, hK⟩ : ∃ K, k + n = K := ⟨_, rfl⟩
  rw [hK] at HM ⊢
  have hKb : K ≤ 2147483648 := by omega
  have HK : Hid (k + n = K) := hK
  clear hK
  go_wp2_with fail
  refine HM.out.mono ?_
  rintro r x2 ⟨rfl, ho2, hg2⟩
  have HP2 : Hid (OwnSt x2 base (.slice a' n' ca') n' (marksS K n')) := ho2
  have HO2 : Hid (OwnSt x2 base (.slice a n ca) n (marksS k n)) := HO1.out.kept hg2 (fun q hq e => HN.out q (by rw [blkOf_slice] at e; exact e) hq)
  have HG2 : Hid (Two w x2 (a.map (·.block)) (a'.map (·.block))) := ⟨x1, HG1.out, hg2⟩
  clear ho2 hg2 HM HA1 c0 c1
  obtain ⟨K2, hK2⟩ : ∃ K2, K + n' = K2 := ⟨_, rfl⟩
  have HK2 : Hid (K + n' = K2) := hK2
  rw [hK2]
  clear hK2
  go_wp2_with fail
  go_ret
  exact ⟨ret_i64 (by rw [HK.out, HK2.out]), HO2.out, by rw [HK.out]; exact HP2.out, HG2.out⟩

end Go.Proofs.YtenkpgnkkkgdmauDoor

namespace Go.Proofs.YtenkpgnkkkgdmauDoor
open Go.RowKit
set_option linter.unusedVariables false

theorem OwnSt.alike {W W' : World} {base n c : Nat} {a : Option Addr} {l : List ByteArray} (h : OwnSt W base (.slice a n c) n l) (hq : ∀ q, a.map (·.block) = some q → W'.heap[q]? = W.heap[q]?) : OwnSt W' base (.slice a n c) n l := by
  refine ⟨⟨h.1.1, ?_⟩, h.2⟩
  rcases h.1.2 with h0 | ⟨g, cap, cur, he, hb, hg, r⟩
  · exact .inl h0
  · injection he with e1 e2 e3
    subst e1 e3
    exact .inr ⟨g, c, cur, rfl, hb, (hq g rfl).trans hg, r⟩

/-- A variable that holds a disk. -/
structure DAt (W : World) (lo b : Nat) (a : Option Addr) (n ca : Nat) (X : List ByteArray) (a' : Option Addr) (n' ca' : Nat) (Y : List ByteArray) : Prop where
  box : BoxN W b 26 [.slice a n ca, .slice a' n' ca']
  now : OwnSt W lo (.slice a n ca) n X
  sure : OwnSt W lo (.slice a' n' ca') n' Y
  apart : ∀ q, a.map (·.block) = some q → a'.map (·.block) ≠ some q
  inn : (∀ q, a.map (·.block) = some q → q < b) ∧ ∀ q, a'.map (·.block) = some q → q < b
  lob : lo ≤ b

section
variable {W W' : World} {lo b : Nat} {a : Option Addr} {n ca : Nat} {X : List ByteArray} {a' : Option Addr} {n' ca' : Nat} {Y : List ByteArray}

theorem DAt.new (h1 : OwnSt W lo (.slice a n ca) n X) (h2 : OwnSt W lo (.slice a' n' ca') n' Y) (hap : ∀ q, a.map (·.block) = some q → a'.map (·.block) ≠ some q) (hl : lo ≤ W.heap.size) : DAt (W.alloc (.cells #[.slice a n ca, .slice a' n' ca'] 26)) lo W.heap.size a n ca X a' n' ca' Y :=
  ⟨BoxN.new _ _ _, h1.below ((Below.refl _ _).alloc (Nat.le_refl _) _), h2.below ((Below.refl _ _).alloc (Nat.le_refl _) _), hap, ⟨fun q e => (h1.lt q (by rw [blk_own]; exact e)).2, fun q e => (h2.lt q (by rw [blk_own]; exact e)).2⟩, hl⟩

theorem DAt.stays (h : DAt W lo b a n ca X a' n' ca' Y) (hb : Below W.heap.size W W') : DAt W' lo b a n ca X a' n' ca' Y := ⟨h.box.stays hb, h.now.below hb, h.sure.below hb, h.apart, h.inn, h.lob⟩

theorem DAt.kept {lo2 hi2 : Nat} (h : DAt W lo b a n ca X a' n' ca' Y) (hw : Within W W' lo2 hi2) (ho : b < lo2 ∨ hi2 ≤ lo) : DAt W' lo b a n ca X a' n' ca' Y := by
  have hl := h.lob
  refine ⟨(hw.block b h.box.lt (by omega)).trans h.box, h.now.alike (fun q e => ?_), h.sure.alike (fun q e => ?_), h.apart, h.inn, h.lob⟩
  · have h1 := h.now.lt q (by rw [blk_own]; exact e)
    have h2 := h.inn.1 q e
    exact hw.block q h1.2 (by omega)
  · have h1 := h.sure.lt q (by rw [blk_own]; exact e)
    have h2 := h.inn.2 q e
    exact hw.block q h1.2 (by omega)

/-- What is marked lies in it. -/
theorem DAt.two (h : DAt W lo b a n ca X a' n' ca' Y) (h2 : Two W W' (a.map (·.block)) (a'.map (·.block))) : Within W W' lo b := by
  obtain ⟨y, g1, g2⟩ := h2
  exact (within_grown g1 (fun q hq => ⟨(h.now.lt q (by rw [blk_own]; exact hq)).1, h.inn.1 q hq⟩)).trans (within_grown g2 (fun q hq => ⟨(h.sure.lt q (by rw [blk_own]; exact hq)).1, h.inn.2 q hq⟩))
end

end Go.Proofs.YtenkpgnkkkgdmauDoor
