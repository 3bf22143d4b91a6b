/- A store in memory: its two rows of texts and its uploads, of a call's own. No program in it but its table of types. Blocks of one type that stay while those of others are written. No program in it but its table of types. What is written lies between two bounds. No program in it. The mark of a number as a text. -/
import Derived.Test.YtmephcabgccocauM04
import Derived.Test.YtmephcabgccocauM05
import Derived.Test.YtmephcabgccocauM05
import Derived.Test.YtmephcabgccocauM03
import Derived.Test.YtmephcabgccocauM01
import Derived.Laws.IdiomStrings
import Derived.Laws.BytesArg
import Derived.Deep.QuietTactic
import Derived.BigQuiet
namespace Go.Proofs.Ytmephcabgccocau
open Go.RowKit
set_option linter.unusedVariables false

/-- Rows of different types do not lie in one block. -/
theorem rows_apart {W : World} {base base' n n' size size' : Nat} {e e' : TypeId} {v v' : Value} {xs xs' : List Value} (h : W.ownsRow base e size v n xs) (h' : W.ownsRow base' e' size' v' n' xs') (hne : e ≠ e') : ∀ q, v.ownBlock = some q → v'.ownBlock ≠ some q := by
  intro q hq hq'
  rcases h.2 with ⟨rfl, _⟩ | ⟨g, cap, cur, rfl, _, hg, _⟩
  · cases hq
  · rcases h'.2 with ⟨rfl, _⟩ | ⟨g', cap', cur', rfl, _, hg', _⟩
    · cases hq'
    · obtain rfl : g = q := by simpa [Value.ownBlock] using hq
      obtain rfl : g' = g := by simpa [Value.ownBlock] using hq'
      rw [hg] at hg'
      injection hg' with hg'
      injection hg' with _ h2 _
      exact hne h2

theorem blk_own (a : Option Addr) (n c : Nat) : blkOf (.slice a n c) = a.map (·.block) := by cases a <;> rfl

/-- Uploads are as they were where a row of texts is written. -/
theorem UpRow.keptS {W W' : World} {base base' n ca : Nat} {a : Option Addr} {v : Value} {l : List UE} {X : List ByteArray} (h : UpRow W base v l) (ho : OwnSt W base' (.slice a n ca) n X) (hg : W.grownBy W' (a.map (·.block))) : UpRow W' base v l := by
  have h9 : W.ownsRow base' 9 1 (.slice a n ca) n (scells X) := ho.1
  refine h.grown hg (fun q hq hq2 => ?_) (fun e he q hq hq2 => ?_)
  · exact rows_apart h9 h.1 (by decide) q (by rw [ownBlock_sU]; exact hq) hq2
  · exact rows_apart h9 (h.2.1 e he).1 (by decide) q (by rw [ownBlock_sU]; exact hq) (by rw [ownBlock_sU]; exact hq2)

/-- Texts are as they were where blocks of another type are written. -/
theorem OwnSt.keptR {W W' : World} {base base' n m ca size : Nat} {a : Option Addr} {e : TypeId} {v : Value} {xs : List Value} {X : List ByteArray} (ho : OwnSt W base (.slice a n ca) n X) (h : W.ownsRow base' e size v m xs) (hne : 9 ≠ e) (hg : W.grownBy W' v.ownBlock) : OwnSt W' base (.slice a n ca) n X := by
  have h9 : W.ownsRow base 9 1 (.slice a n ca) n (scells X) := ho.1
  refine ho.kept hg (fun q hq hq2 => ?_)
  rw [blk_own] at hq2
  exact rows_apart h9 h hne q (by rw [ownBlock_sU]; exact hq2) hq

/-- A store's three rows, of a call's own. -/
structure StoAt (W : World) (base : Nat) (a : Option Addr) (n ca : Nat) (X : List ByteArray) (a' : Option Addr) (n' ca' : Nat) (Y : List ByteArray) (ua : Option Addr) (un uc : Nat) (l : List UE) : Prop where
  now : OwnSt W base (.slice a n ca) n X
  sure : OwnSt W base (.slice a' n' ca') n' Y
  apart : ∀ q, a.map (·.block) = some q → a'.map (·.block) ≠ some q
  ups : UpRow W base (.slice ua un uc) l
  len : un = l.length

section
variable {W W' : World} {base : Nat} {a : Option Addr} {n ca : Nat} {X : List ByteArray} {a' : Option Addr} {n' ca' : Nat} {Y : List ByteArray} {ua : Option Addr} {un uc : Nat} {l : List UE}

theorem StoAt.stays (h : StoAt W base a n ca X a' n' ca' Y ua un uc l) (hb : Below W.heap.size W W') : StoAt W' base a n ca X a' n' ca' Y ua un uc l :=
  ⟨h.now.below hb, h.sure.below hb, h.apart, h.ups.stays hb, h.len⟩

theorem StoAt.low {b : Nat} (h : StoAt W base a n ca X a' n' ca' Y ua un uc l) (hb : b ≤ base) : StoAt W b a n ca X a' n' ca' Y ua un uc l :=
  ⟨h.now.low hb, h.sure.low hb, h.apart, h.ups.low hb, h.len⟩
end

/-- What lies below a bound stays. -/
theorem OwnSt.under {W W' : World} {base n ca B : Nat} {a : Option Addr} {X : List ByteArray} (h : OwnSt W base (.slice a n ca) n X) (hb : Below B W W') (h1 : ∀ q, a.map (·.block) = some q → q < B) : OwnSt W' base (.slice a n ca) n X := by
  refine ⟨⟨h.1.1, ?_⟩, h.2⟩
  rcases h.1.2 with h0 | ⟨g, cap, cur, he, hg, hh, r⟩
  · exact .inl h0
  · injection he with e1 e2 e3
    subst e1 e3
    exact .inr ⟨g, ca, cur, rfl, hg, (hb.block g (h1 g rfl)).trans hh, r⟩

theorem StoAt.setLow {W : World} {base b i : Nat} {a : Option Addr} {n ca : Nat} {X : List ByteArray} {a' : Option Addr} {n' ca' : Nat} {Y : List ByteArray} {ua : Option Addr} {un uc : Nat} {l : List UE} (h : StoAt W base a n ca X a' n' ca' Y ua un uc l) (hb : b < base) (u : Value) : StoAt (W.setCell ⟨b, i, none⟩ u) base a n ca X a' n' ca' Y ua un uc l := by
  refine ⟨h.now.setCell (fun e => ?_) u, h.sure.setCell (fun e => ?_) u, h.apart, h.ups.grown (grownBy_setU W b i u) (fun q hq hq2 => ?_) (fun e he q hq hq2 => ?_), h.len⟩
  · have := (h.now.lt b e).1; omega
  · have := (h.sure.lt b e).1; omega
  · injection hq with hq; have := (h.ups.lts.1 q hq2).1; omega
  · injection hq with hq; have := (h.ups.lts.2 e he q hq2).1; omega

/-- An answer that is a store. -/
def AnsS (base : Nat) (X Y : List ByteArray) (ep nx : Int) (us : List U) (v : Value) (w' : World) : Prop :=
  ∃ (a : Option Addr) (n ca : Nat) (a' : Option Addr) (n' ca' : Nat) (ua : Option Addr) (un uc : Nat) (l : List UE), v = .agg #[.slice a n ca, .slice a' n' ca', .int .i64 ep, .int .i64 nx, .slice ua un uc] ∧ StoAt w' base a n ca X a' n' ca' Y ua un uc l ∧ l.map UE.u = us

end Go.Proofs.Ytmephcabgccocau

namespace Go.Proofs.Ytmephcabgccocau
open Go.RowKit
set_option linter.unusedVariables false

/-- All blocks of texts are as they were. -/
def KeptT (w w' : World) : Prop := ∀ (q : Nat) (cs : Array Value) (z : Nat × Nat), w.heap[q]? = some (.cells cs 9 z) → w'.heap[q]? = some (.cells cs 9 z)

theorem KeptT.refl (w : World) : KeptT w w := fun _ _ _ h => h
theorem KeptT.trans {w w1 w2 : World} (h : KeptT w w1) (k : KeptT w1 w2) : KeptT w w2 := fun q cs z e => k q cs z (h q cs z e)
theorem keptT_below {w w' : World} (h : Below w.heap.size w w') : KeptT w w' := fun q cs z e => (h.block q (Array.getElem?_eq_some_iff.1 e).1).trans e

theorem keptT_grown {w w' : World} {base n size : Nat} {e : TypeId} {v : Value} {xs : List Value} (h : w.grownBy w' v.ownBlock) (ho : w.ownsRow base e size v n xs) (hne : e ≠ 9) : KeptT w w' := by
  intro q cs z hq
  refine (h.block q (Array.getElem?_eq_some_iff.1 hq).1 (fun e1 => ?_)).trans hq
  rcases ho.2 with ⟨rfl, _⟩ | ⟨g, cap, cur, rfl, _, hg, _⟩
  · cases e1
  · obtain rfl : q = g := by simpa [Value.ownBlock] using e1
    rw [hq] at hg
    injection hg with hg
    injection hg with _ h2 _
    exact hne h2.symm

theorem OwnSt.keptT {w w' : World} {base n : Nat} {v : Value} {l : List ByteArray} (h : OwnSt w base v n l) (k : KeptT w w') : OwnSt w' base v n l := by
  refine ⟨⟨h.1.1, ?_⟩, h.2⟩
  rcases h.1.2 with h0 | ⟨g, cap, cur, he, hg, hh, r⟩
  · exact .inl h0
  · exact .inr ⟨g, cap, cur, he, hg, k g cur _ hh, r⟩

end Go.Proofs.Ytmephcabgccocau

namespace Go.Proofs.Ytmephcabgccocau
open Go.RowKit
set_option linter.unusedVariables false

/-- Of what was there, only blocks from lo on and below hi may have turned. -/
structure Within (w w' : World) (lo hi : Nat) : Prop where
  os : w'.os = w.os
  tape : w'.tape = w.tape
  output : w'.output = w.output
  size : w.heap.size ≤ w'.heap.size
  block : ∀ q, q < w.heap.size → (q < lo ∨ hi ≤ q) → w'.heap[q]? = w.heap[q]?

theorem Within.refl (w : World) (lo hi : Nat) : Within w w lo hi := ⟨rfl, rfl, rfl, Nat.le_refl _, fun _ _ _ => rfl⟩

theorem Within.trans {w w1 w2 : World} {lo hi : Nat} (h : Within w w1 lo hi) (k : Within w1 w2 lo hi) : Within w w2 lo hi :=
  ⟨k.os.trans h.os, k.tape.trans h.tape, k.output.trans h.output, Nat.le_trans h.size k.size, fun q hq ho => (k.block q (Nat.lt_of_lt_of_le hq h.size) ho).trans (h.block q hq ho)⟩

theorem within_below {w w' : World} {lo hi : Nat} (h : Below w.heap.size w w') : Within w w' lo hi := ⟨h.os, h.tape, h.output, h.size, fun q hq _ => h.block q hq⟩

theorem within_grown {w w' : World} {lo hi : Nat} {r : Option Nat} (h : w.grownBy w' r) (hr : ∀ q, r = some q → lo ≤ q ∧ q < hi) : Within w w' lo hi :=
  ⟨h.os, h.tape, h.output, h.size, fun q hq ho => h.block q hq (fun e => by have := hr q e.symm; omega)⟩

theorem Within.below {w w' : World} {lo hi : Nat} (h : Within w w' lo hi) (hl : lo ≤ w.heap.size) : Below lo w w' :=
  ⟨h.os, h.tape, h.output, h.size, fun q hq => h.block q (Nat.lt_of_lt_of_le hq hl) (.inl hq)⟩

theorem Within.more {w w' : World} {lo hi lo' hi' : Nat} (h : Within w w' lo hi) (h1 : lo' ≤ lo) (h2 : hi ≤ hi') : Within w w' lo' hi' :=
  ⟨h.os, h.tape, h.output, h.size, fun q hq ho => h.block q hq (by omega)⟩

end Go.Proofs.Ytmephcabgccocau

namespace Go.Proofs.Ytmephcabgccocau
open Go.RowKit
set_option linter.unusedVariables false

theorem own_stays {w w' : World} {base size n : Nat} {v : Value} {e : TypeId} {xs : List Value} (h : w.ownsRow base e size v n xs) (hb : Below w.heap.size w w') : w'.ownsRow base e size v n xs := by
  refine ⟨h.1, ?_⟩
  rcases h.2 with h0 | ⟨g, cap, cur, he, hg, hh, r⟩
  · exact .inl h0
  · exact .inr ⟨g, cap, cur, he, hg, (hb.block g (Array.getElem?_eq_some_iff.1 hh).1).trans hh, r⟩

/-- 'string([]byte{c})'. -/
theorem convm_one (c : Nat) (hc : c < 256) (W : World) (g : Nat) (h : W.cell? ⟨g, 0, none⟩ = some (.int .u8 (c : Int))) :
    (convert 29 9 (.slice (some ⟨g, 0, none⟩) 1 1)).run Try.prog W = .ok (.string ⟨#[UInt8.ofNat c]⟩) W := by
  refine run_convert_bytes_back W 29 9 5 ⟨g, 0, none⟩ 1 [UInt8.ofNat c] Try.underlying29 Try.underlying5 Try.underlying9 (fun j hj => ?_)
  obtain rfl : j = 0 := by simpa using hj
  have e : (UInt8.ofNat c).toNat = c := by simp; omega
  simpa [Addr.add, Nat.mod_eq_of_lt hc] using h

/-- The digits of k ahead of a text. -/
def mtGo (k : Nat) (out : ByteArray) : ByteArray := if k = 0 then out else mtGo (k / 10) (⟨#[UInt8.ofNat (48 + k % 10)]⟩ ++ out)
termination_by k
decreasing_by omega

/-- The mark of the number k. -/
def mt (k : Nat) : ByteArray := if k = 0 then ⟨#[109, 48]⟩ else ⟨#[109]⟩ ++ mtGo k ⟨#[]⟩

set_option maxRecDepth 10000 in
set_option maxHeartbeats 800000 in
theorem markText_any (k : Nat) (w : World) (hk : k ≤ 4398046511104) : Calls Try.prog 35 #[.int .i64 (k : Int)] w fun e w' => e = .returned (.string (mt k)) ∧ Below w.heap.size w w' := by
  by_cases h0 : k = 0
  · subst h0
    go_enter Try.func35, Try.ntmps35
    go_wp2
    go_ret
    exact ⟨rfl, Below.refl _ _⟩
  · have e : mt k = ⟨#[109]⟩ ++ mtGo k ⟨#[]⟩ := by rw [mt, if_neg h0]
    rw [e]
    have hki : ¬ (k : Int) ≤ 0 := by omega
    have hkd : decide ((k : Int) ≤ 0) = false := by simp; omega
    generalize hT : mtGo k ⟨#[]⟩ = T
    have HT : Hid (mtGo k ⟨#[]⟩ = T) := hT
    clear hT e
    go_enter Try.func35, Try.ntmps35
    go_wp2_with fail
    go_loopw [0, 3] (fun n o wr => ∃ (j : Nat) (u : ByteArray), j + u.size ≤ k ∧ n = .int .i64 (j : Int) ∧ o = .string u ∧ Hid (mtGo j u = T) ∧ Hid (Below w.heap.size w wr)) (fun n _ _ => (intOf n).toNat)
    case atStart => exact ⟨k, ⟨#[]⟩, Nat.le_refl _, rfl, rfl, HT, Below.refl _ _⟩
    case round =>
      clear HT
      obtain ⟨j, u, hj, rfl, rfl, HT, HB⟩ := hrel
      by_cases hj0 : j = 0
      · subst hj0
        have hTu : u = T := by
          have := HT.out
          rw [mtGo, if_pos rfl] at this
          exact this
        subst hTu
        go_wp2_with fail
        go_ret
        exact ⟨rfl, HB.out⟩
      · have hj1 : (0 : Int) < (j : Int) := by omega
        have HT2 : Hid (mtGo (j / 10) (⟨#[UInt8.ofNat (48 + j % 10)]⟩ ++ u) = T) := by
          show _ = _
          have := HT.out
          rw [mtGo, if_neg hj0] at this
          exact this
        have hjb : (j : Int) ≤ 4398046511104 := by omega
        have hcv : ∀ (W : World) (g : Nat), W.cell? ⟨g, 0, none⟩ = some (.int .u8 (48 + (j : Int) % 10)) → (convert 29 9 (.slice (some ⟨g, 0, none⟩) 1 1)).run Try.prog W = .ok (.string ⟨#[UInt8.ofNat (48 + j % 10)]⟩) W := fun W g hW => convm_one (48 + j % 10) (by omega) W g (by rw [hW]; congr 2)
        have hsz : (⟨#[UInt8.ofNat (48 + j % 10)]⟩ ++ u : ByteArray).size = 1 + u.size := by rw [ByteArray.size_append]; rfl
        have hXs : (⟨#[UInt8.ofNat (48 + j % 10)]⟩ : ByteArray).size = 1 := rfl
        generalize hX : (⟨#[UInt8.ofNat (48 + j % 10)]⟩ : ByteArray) = X at *
        clear hX
        have hus : X.size + u.size ≤ 4398046511105 := by omega
        have HSz : Hid ((X ++ u).size = 1 + u.size) := hsz
        clear hsz
        go_wp2_with fail
        go_roundw
        case rel =>
          refine ⟨j / 10, X ++ u, by rw [HSz.out]; omega, by congr 1, rfl, HT2, ?_⟩
          exact HB.out.alloc HB.out.size _
        case measure => simp [intOf]; omega

theorem mtGo_size (k : Nat) : ∀ u : ByteArray, (mtGo k u).size ≤ k + u.size := by
  induction k using Nat.strongRecOn with
  | _ k ih =>
    intro u
    rw [mtGo]
    split
    · omega
    · have := ih (k / 10) (by omega) (⟨#[UInt8.ofNat (48 + k % 10)]⟩ ++ u)
      rw [ByteArray.size_append] at this
      have e : (⟨#[UInt8.ofNat (48 + k % 10)]⟩ : ByteArray).size = 1 := rfl
      omega

theorem mt_size (k : Nat) : (mt k).size ≤ k + 2 := by
  unfold mt
  split
  · have e : (⟨#[109, 48]⟩ : ByteArray).size = 2 := rfl
    omega
  · have := mtGo_size k ⟨#[]⟩
    rw [ByteArray.size_append]
    have e : (⟨#[109]⟩ : ByteArray).size = 1 := rfl
    have e2 : (⟨#[]⟩ : ByteArray).size = 0 := rfl
    omega

theorem grown_refl (w : World) (r : Option Nat) : w.grownBy w r := ⟨rfl, rfl, rfl, Nat.le_refl _, fun _ _ _ => rfl⟩
theorem grown_trans {a b c : World} {r : Option Nat} (h : a.grownBy b r) (g : b.grownBy c r) : a.grownBy c r :=
  ⟨g.os.trans h.os, g.tape.trans h.tape, g.output.trans h.output, Nat.le_trans h.size g.size, fun k hk hr => (g.block k (Nat.lt_of_lt_of_le hk h.size) hr).trans (h.block k hk hr)⟩
theorem grown_below {a b : World} {r : Option Nat} (h : Below a.heap.size a b) : a.grownBy b r := ⟨h.os, h.tape, h.output, h.size, fun k hk _ => h.block k hk⟩

end Go.Proofs.Ytmephcabgccocau
