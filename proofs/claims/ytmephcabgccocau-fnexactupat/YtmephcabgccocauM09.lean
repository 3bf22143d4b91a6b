/- The marks laid into a disk. The marks laid into a store, and asked for. A store, and an upload, in a variable of the law's: where its rows lie. No statement of the program but its table of types. A list of bytes that comes in, in a struct. Uploads that come in: their cells, their bytes wherever they lie. -/
import Derived.Test.YtmephcabgccocauM08
import Derived.Test.YtmephcabgccocauM08
import Derived.Test.YtmephcabgccocauM06
import Derived.Test.YtmephcabgccocauM07
import Derived.Test.YtmephcabgccocauM01
import Derived.Deep.Slices
import Derived.Lib.SmallJoins
import Derived.Test.YtmephcabgccocauM03
import Derived.OpenShut
import Derived.ChangeOld
import Derived.WalkKit
import Derived.ProofKit
import Derived.Deep.SlicePairs
namespace Go.Proofs.Ytmephcabgccocau
open Go.RowKit
set_option linter.unusedVariables false

theorem blkOf_slice (a : Option Addr) (n c : Nat) : blkOf (.slice a n c) = a.map (·.block) := by cases a <;> rfl

theorem ret_i64 {a b : Int} (h : a = b) : Ending.returned (.int .i64 a) = .returned (.int .i64 b) := by rw [h]

/-- Of all that was there two blocks alone may have changed. -/
def Two (w w' : World) (r r' : Option Nat) : Prop := ∃ w1, w.grownBy w1 r ∧ w1.grownBy w' r'

set_option maxHeartbeats 800000 in
theorem markDisk_any (base : Nat) (a : Option Addr) (n ca : Nat) (xs : List ByteArray) (a' : Option Addr) (n' ca' : Nat) (ys : List ByteArray) (k : Nat) (w : World) (h1 : OwnSt w base (.slice a n ca) n xs) (h2 : OwnSt w base (.slice a' n' ca') n' ys) (hne : ∀ q, a.map (·.block) = some q → a'.map (·.block) ≠ some q) (hn : n ≤ 1073741824) (hn' : n' ≤ 1073741824) (hk : k ≤ 1073741824) :
    Calls Try.prog 23 #[.agg #[.slice a n ca, .slice a' n' ca'], .int .i64 (k : Int)] w fun r w' => r = .returned (.int .i64 ((k + n + n' : Nat) : Int)) ∧ OwnSt w' base (.slice a n ca) n (marksS k n) ∧ OwnSt w' base (.slice a' n' ca') n' (marksS (k + n) n') ∧ Two w w' (a.map (·.block)) (a'.map (·.block)) := by
  have HO : Hid (OwnSt w base (.slice a n ca) n xs) := h1
  have HP : Hid (OwnSt w base (.slice a' n' ca') n' ys) := h2
  have HN : Hid (∀ q, a.map (·.block) = some q → a'.map (·.block) ≠ some q) := hne
  clear h1 h2 hne
  have HA : Hid (Box2R (w.alloc (Obj.cells #[Value.slice a n ca, Value.slice a' n' ca'] 34)) w.heap.size 34 (.slice a n ca) (.slice a' n' ca')) := Box2R.new _ _ _ _
  have HB : Hid (Below w.heap.size w (w.alloc (Obj.cells #[Value.slice a n ca, Value.slice a' n' ca'] 34))) := (Below.refl _ _).alloc (Nat.le_refl _) _
  go_enter Try.func23, Try.ntmps23
  go_wp2_with fail
  refine (markStrS_any base a n ca k xs _ (HO.out.below HB.out) (by omega) (by omega)).mono ?_
  rintro r x1 ⟨rfl, ho1, hg1⟩
  have hlt : ∀ q, a.map (·.block) = some q → q < w.heap.size := fun q hq => (HO.out.lt q (by rw [blkOf_slice]; exact hq)).2
  have HO1 : Hid (OwnSt x1 base (.slice a n ca) n (marksS k n)) := ho1
  have HP1 : Hid (OwnSt x1 base (.slice a' n' ca') n' ys) := (HP.out.below HB.out).kept hg1 (fun q hq => by rw [blkOf_slice]; exact HN.out q hq)
  have HG1 : Hid (w.grownBy x1 (a.map (·.block))) := grown_trans (grown_below HB.out) hg1
  have HA1 : Hid (Box2R x1 w.heap.size 34 (.slice a n ca) (.slice a' n' ca')) := HA.out.grown hg1 (fun e => by have := hlt _ e; omega)
  clear ho1 hg1 hlt HA HB HO HP
  obtain ⟨c0, c1⟩ := HA1.out.cells
  have HM : Hid (Calls Try.prog 34 #[.slice a' n' ca', .int .i64 ((k + n : Nat) : Int)] x1 fun e w' => e = .returned (.int .i64 ((k + n + n' : Nat) : Int)) ∧ OwnSt w' base (.slice a' n' ca') n' (marksS (k + n) n') ∧ x1.grownBy w' (a'.map (·.block))) := markStrS_any base a' n' ca' (k + n) ys _ HP1.out (by omega) (by omega)
  obtain ⟨K, hK⟩ : ∃ K, k + n = K := ⟨_, rfl⟩
  rw [hK] at HM ⊢
  have hKb : K ≤ 2147483648 := by omega
  have HK : Hid (k + n = K) := hK
  clear hK
  go_wp2_with fail
  refine HM.out.mono ?_
  rintro r x2 ⟨rfl, ho2, hg2⟩
  have HP2 : Hid (OwnSt x2 base (.slice a' n' ca') n' (marksS K n')) := ho2
  have HO2 : Hid (OwnSt x2 base (.slice a n ca) n (marksS k n)) := HO1.out.kept hg2 (fun q hq e => HN.out q (by rw [blkOf_slice] at e; exact e) hq)
  have HG2 : Hid (Two w x2 (a.map (·.block)) (a'.map (·.block))) := ⟨x1, HG1.out, hg2⟩
  clear ho2 hg2 HM HA1 c0 c1
  obtain ⟨K2, hK2⟩ : ∃ K2, K + n' = K2 := ⟨_, rfl⟩
  have HK2 : Hid (K + n' = K2) := hK2
  rw [hK2]
  clear hK2
  go_wp2_with fail
  go_ret
  exact ⟨ret_i64 (by rw [HK.out, HK2.out]), HO2.out, by rw [HK.out]; exact HP2.out, HG2.out⟩

end Go.Proofs.Ytmephcabgccocau

namespace Go.Proofs.Ytmephcabgccocau
open Go.RowKit
set_option linter.unusedVariables false

/-- The rows of a store lie below a bound. -/
def StoIn (a a' ua : Option Addr) (l : List UE) (hi : Nat) : Prop := (∀ q, a.map (·.block) = some q → q < hi) ∧ (∀ q, a'.map (·.block) = some q → q < hi) ∧ (∀ q, ua.map (·.block) = some q → q < hi) ∧ ∀ e ∈ l, ∀ q, e.a.map (·.block) = some q → q < hi

/-- The rows of a store with the marks in them, from k on. -/
def StoMkd (W : World) (base k : Nat) (a : Option Addr) (n ca : Nat) (a' : Option Addr) (n' ca' : Nat) (ua : Option Addr) (un uc : Nat) (l : List UE) : Prop :=
  StoAt W base a n ca (marksS k n) a' n' ca' (marksS (k + n) n') ua un uc (mkUp (k + n + n') l)

set_option maxRecDepth 10000 in
set_option maxHeartbeats 1600000 in
theorem markStore_any (base : Nat) (a : Option Addr) (n ca : Nat) (X : List ByteArray) (a' : Option Addr) (n' ca' : Nat) (Y : List ByteArray) (ep nx : Int) (ua : Option Addr) (un uc : Nat) (l : List UE) (k : Nat) (w : World) (h : StoAt w base a n ca X a' n' ca' Y ua un uc l) (hn : n ≤ 2097152) (hn' : n' ≤ 2097152) (hk : k ≤ 1073741824) (hul : un ≤ 1099511627776) (hkE : mkUEnd (k + n + n') l ≤ 2199023255552) (hi : Nat) (hwi : StoIn a a' ua l hi) :
    Calls Try.prog 10 #[.agg #[.slice a n ca, .slice a' n' ca', .int .i64 ep, .int .i64 nx, .slice ua un uc], .int .i64 (k : Int)] w fun r w' => r = .returned (.int .i64 (mkUEnd (k + n + n') l : Int)) ∧ StoMkd w' base k a n ca a' n' ca' ua un uc l ∧ Within w w' base hi := by
  have HHi : Hid (StoIn a a' ua l hi) := hwi
  clear hwi
  have HS : Hid (StoAt w base a n ca X a' n' ca' Y ua un uc l) := h
  have HK : Hid (mkUEnd (k + n + n') l ≤ 2199023255552) := hkE
  clear h hkE
  have HA : Hid (BoxN (w.alloc (.cells #[.slice a n ca, .slice a' n' ca', .int .i64 ep, .int .i64 nx, .slice ua un uc] 37)) w.heap.size 37 [.slice a n ca, .slice a' n' ca', .int .i64 ep, .int .i64 nx, .slice ua un uc]) := BoxN.new _ _ _
  have HB : Hid (Below w.heap.size w (w.alloc (.cells #[.slice a n ca, .slice a' n' ca', .int .i64 ep, .int .i64 nx, .slice ua un uc] 37))) := (Below.refl _ _).alloc (Nat.le_refl _) _
  go_enter Try.func10, Try.ntmps10
  go_wp2_with fail
  obtain ⟨w0, hw0⟩ : ∃ w0, w.alloc (.cells #[.slice a n ca, .slice a' n' ca', .int .i64 ep, .int .i64 nx, .slice ua un uc] 37) = w0 := ⟨_, rfl⟩
  rw [hw0] at HA HB ⊢
  clear hw0
  have HS0 : Hid (StoAt w0 base a n ca X a' n' ca' Y ua un uc l) := HS.out.stays HB.out
  have hww : w.heap.size < w0.heap.size := HA.out.lt
  refine (markDisk_any base a n ca X a' n' ca' Y k w0 HS0.out.now HS0.out.sure HS0.out.apart (by omega) (by omega) hk).mono ?_
  rintro _ x1 ⟨rfl, ho1, ho2, h2⟩
  have HT : Hid (Two w0 x1 (a.map (·.block)) (a'.map (·.block))) := h2
  have hU1 : UpRow x1 base (.slice ua un uc) l := by
    obtain ⟨y, g1, g2⟩ := h2
    have hy := HS0.out.ups.keptS HS0.out.now g1
    have hy2 : OwnSt y base (.slice a' n' ca') n' Y := HS0.out.sure.kept g1 (fun q hq hq2 => by rw [blk_own] at hq2; exact HS0.out.apart q hq hq2)
    exact hy.keptS hy2 g2
  have HB1 : Hid (Within w x1 base hi) := by
    obtain ⟨y, g1, g2⟩ := h2
    exact ((within_below HB.out).trans (within_grown g1 (fun q hq => ⟨(HS0.out.now.lt q (by rw [blk_own]; exact hq)).1, HHi.out.1 q hq⟩))).trans (within_grown g2 (fun q hq => ⟨(HS0.out.sure.lt q (by rw [blk_own]; exact hq)).1, HHi.out.2.1 q hq⟩))
  have hA1 : BoxN x1 w.heap.size 37 [.slice a n ca, .slice a' n' ca', .int .i64 ep, .int .i64 nx, .slice ua un uc] := by
    obtain ⟨y, g1, g2⟩ := h2
    refine (HA.out.grown g1 (fun e => ?_)).grown g2 (fun e => ?_)
    · have h9 := HS.out.now.lt w.heap.size (by rw [blk_own]; exact e); omega
    · have h9 := HS.out.sure.lt w.heap.size (by rw [blk_own]; exact e); omega
  have c4 := hA1.cell 4 rfl
  have HD1 : Hid (OwnSt x1 base (.slice a n ca) n (marksS k n) ∧ OwnSt x1 base (.slice a' n' ca') n' (marksS (k + n) n') ∧ UpRow x1 base (.slice ua un uc) l) := ⟨ho1, ho2, hU1⟩
  obtain ⟨K, hK⟩ : ∃ K, k + n + n' = K := ⟨_, rfl⟩
  have HKe : Hid (k + n + n' = K) := hK
  rw [hK] at HK ⊢
  have hKb : (K : Int) ≤ 2199023255552 := by have := HKe.out; omega
  clear hK ho1 ho2 h2 hU1 hA1
  go_wp2_with fail
  refine (markUpS_any base ua un uc K l x1 HD1.out.2.2 HS.out.len.symm HK.out hul hi HHi.out.2.2).mono ?_
  rintro _ x2 ⟨rfl, hu2, hb2, hk2⟩
  have HR : Hid (StoMkd x2 base k a n ca a' n' ca' ua un uc l ∧ Within w x2 base hi) := by
    refine ⟨⟨HD1.out.1.keptT hk2, HD1.out.2.1.keptT hk2, HS.out.apart, ?_, ?_⟩, HB1.out.trans hb2⟩
    · rw [HKe.out]; exact hu2
    · rw [mkUp_len]; exact HS.out.len
  obtain ⟨E, hE⟩ : ∃ E, mkUEnd K l = E := ⟨_, rfl⟩
  have HEe : Hid (mkUEnd K l = E) := hE
  rw [hE]
  clear hE hu2 hb2 hk2
  go_wp2_with fail
  go_ret
  exact ⟨ret_i64 (by rw [HKe.out, HEe.out]), HR.out.1, HR.out.2⟩

end Go.Proofs.Ytmephcabgccocau

namespace Go.Proofs.Ytmephcabgccocau
open Go.RowKit
set_option linter.unusedVariables false

theorem own_same {W W' : World} {base n size : Nat} {e : TypeId} {v : Value} {xs : List Value} (h : W.ownsRow base e size v n xs) (hq : ∀ q, v.ownBlock = some q → W'.heap[q]? = W.heap[q]?) : W'.ownsRow base e size v n xs := by
  refine ⟨h.1, ?_⟩
  rcases h.2 with h0 | ⟨g, cap, cur, rfl, hb, hg, r⟩
  · exact .inl h0
  · exact .inr ⟨g, cap, cur, rfl, hb, (hq g rfl).trans hg, r⟩

theorem Owns.same {W W' : World} {base n c : Nat} {a : Option Addr} {zs : List Int} (h : Owns W base a n c zs) (hq : ∀ q, a.map (·.block) = some q → W'.heap[q]? = W.heap[q]?) : Owns W' base a n c zs := ⟨own_same h.1 (fun q e => hq q (by rw [← ownBlock_sU a n c]; exact e)), h.2⟩

theorem UpRow.same {W W' : World} {base : Nat} {v : Value} {l : List UE} (h : UpRow W base v l) (h1 : ∀ q, v.ownBlock = some q → W'.heap[q]? = W.heap[q]?) (h2 : ∀ e ∈ l, ∀ q, e.a.map (·.block) = some q → W'.heap[q]? = W.heap[q]?) : UpRow W' base v l :=
  ⟨own_same h.1 h1, fun e he => (h.2.1 e he).same (h2 e he), h.2.2⟩

theorem OwnSt.same {W W' : World} {base n c : Nat} {a : Option Addr} {l : List ByteArray} (h : OwnSt W base (.slice a n c) n l) (hq : ∀ q, a.map (·.block) = some q → W'.heap[q]? = W.heap[q]?) : OwnSt W' base (.slice a n c) n l := ⟨own_same h.1 (fun q e => hq q (by rw [← ownBlock_sU a n c]; exact e)), h.2⟩

theorem StoAt.same {W W' : World} {base : Nat} {a : Option Addr} {n ca : Nat} {X : List ByteArray} {a' : Option Addr} {n' ca' : Nat} {Y : List ByteArray} {ua : Option Addr} {un uc : Nat} {l : List UE} (h : StoAt W base a n ca X a' n' ca' Y ua un uc l) {hi : Nat} (hin : StoIn a a' ua l hi) (hs : ∀ q, base ≤ q → q < hi → q < W.heap.size → W'.heap[q]? = W.heap[q]?) : StoAt W' base a n ca X a' n' ca' Y ua un uc l := by
  refine ⟨h.now.same (fun q e => ?_), h.sure.same (fun q e => ?_), h.apart, h.ups.same (fun q e => ?_) (fun x hx q e => ?_), h.len⟩
  · have := h.now.lt q (by rw [blk_own]; exact e); exact hs q this.1 (hin.1 q e) this.2
  · have := h.sure.lt q (by rw [blk_own]; exact e); exact hs q this.1 (hin.2.1 q e) this.2
  · have := h.ups.lts.1 q e; exact hs q this.1 (hin.2.2.1 q (by rw [← ownBlock_sU ua un uc]; exact e)) this.2
  · have := h.ups.lts.2 x hx q e; exact hs q this.1 (hin.2.2.2 x hx q e) this.2

/-- A variable that holds a store. -/
structure SAt (W : World) (lo b : Nat) (a : Option Addr) (n ca : Nat) (X : List ByteArray) (a' : Option Addr) (n' ca' : Nat) (Y : List ByteArray) (ep nx : Int) (ua : Option Addr) (un uc : Nat) (l : List UE) : Prop where
  box : BoxN W b 37 [.slice a n ca, .slice a' n' ca', .int .i64 ep, .int .i64 nx, .slice ua un uc]
  sto : StoAt W lo a n ca X a' n' ca' Y ua un uc l
  inn : StoIn a a' ua l b
  lob : lo ≤ b

section
variable {W W' : World} {lo b : Nat} {a : Option Addr} {n ca : Nat} {X : List ByteArray} {a' : Option Addr} {n' ca' : Nat} {Y : List ByteArray} {ep nx : Int} {ua : Option Addr} {un uc : Nat} {l : List UE}

theorem StoAt.inn (h : StoAt W lo a n ca X a' n' ca' Y ua un uc l) : StoIn a a' ua l W.heap.size :=
  ⟨fun q e => (h.now.lt q (by rw [blk_own]; exact e)).2, fun q e => (h.sure.lt q (by rw [blk_own]; exact e)).2, fun q e => (h.ups.lts.1 q (by rw [ownBlock_sU]; exact e)).2, fun x hx q e => (h.ups.lts.2 x hx q e).2⟩

theorem SAt.new (h : StoAt W lo a n ca X a' n' ca' Y ua un uc l) (hl : lo ≤ W.heap.size) : SAt (W.alloc (.cells #[.slice a n ca, .slice a' n' ca', .int .i64 ep, .int .i64 nx, .slice ua un uc] 37)) lo W.heap.size a n ca X a' n' ca' Y ep nx ua un uc l :=
  ⟨BoxN.new _ _ _, h.stays ((Below.refl _ _).alloc (Nat.le_refl _) _), h.inn, hl⟩

theorem SAt.stays (h : SAt W lo b a n ca X a' n' ca' Y ep nx ua un uc l) (hb : Below W.heap.size W W') : SAt W' lo b a n ca X a' n' ca' Y ep nx ua un uc l := ⟨h.box.stays hb, h.sto.stays hb, h.inn, h.lob⟩

theorem SAt.kept {lo2 hi2 : Nat} (h : SAt W lo b a n ca X a' n' ca' Y ep nx ua un uc l) (hw : Within W W' lo2 hi2) (ho : b < lo2 ∨ hi2 ≤ lo) : SAt W' lo b a n ca X a' n' ca' Y ep nx ua un uc l :=
  ⟨(hw.block b h.box.lt (by have := h.lob; omega)).trans h.box, h.sto.same h.inn (fun q h1 h2 h3 => hw.block q h3 (by omega)), h.inn, h.lob⟩

/-- The marks are in it. -/
theorem SAt.marked {k : Nat} (h : SAt W lo b a n ca X a' n' ca' Y ep nx ua un uc l) (hm : StoMkd W' lo k a n ca a' n' ca' ua un uc l) (hw : Within W W' lo b) : BoxN W' b 37 [.slice a n ca, .slice a' n' ca', .int .i64 ep, .int .i64 nx, .slice ua un uc] ∧ StoMkd W' lo k a n ca a' n' ca' ua un uc l :=
  ⟨(hw.block b h.box.lt (.inr (Nat.le_refl _))).trans h.box, hm⟩
end

/-- A variable that holds an upload. -/
structure UAt (W : World) (lo b : Nat) (x : UE) : Prop where
  box : BoxN W b 31 [.string x.u.id, .int .i64 x.u.want, .slice x.a x.n x.c, .bool x.u.done]
  own : Owns W lo x.a x.n x.c x.u.zs
  inn : ∀ q, x.a.map (·.block) = some q → q < b
  lob : lo ≤ b

section
variable {W W' : World} {lo b : Nat} {x : UE}

theorem UAt.new (h : Owns W lo x.a x.n x.c x.u.zs) (hl : lo ≤ W.heap.size) : UAt (W.alloc (.cells #[.string x.u.id, .int .i64 x.u.want, .slice x.a x.n x.c, .bool x.u.done] 31)) lo W.heap.size x :=
  ⟨BoxN.new _ _ _, h.below ((Below.refl _ _).alloc (Nat.le_refl _) _), fun q e => (h.lt q e).2, hl⟩

theorem UAt.stays (h : UAt W lo b x) (hb : Below W.heap.size W W') : UAt W' lo b x := ⟨h.box.stays hb, h.own.below hb, h.inn, h.lob⟩

theorem UAt.kept {lo2 hi2 : Nat} (h : UAt W lo b x) (hw : Within W W' lo2 hi2) (ho : b < lo2 ∨ hi2 ≤ lo) : UAt W' lo b x :=
  ⟨(hw.block b h.box.lt (by have := h.lob; omega)).trans h.box, h.own.same (fun q e => by
    have h1 := h.own.lt q e
    have h2 := h.inn q e
    exact hw.block q h1.2 (by omega)), h.inn, h.lob⟩
end

/-- The marks laid into an upload's bytes. -/
theorem markUp_any (base : Nat) (x : UE) (w : World) (h : Owns w base x.a x.n x.c x.u.zs) (hn : x.n ≤ 1099511627776) :
    Calls Try.prog 11 #[.agg #[.string x.u.id, .int .i64 x.u.want, .slice x.a x.n x.c, .bool x.u.done], .int .i64 1] w fun r w' => r = .returned (.int .i64 ((1 + x.n : Nat) : Int)) ∧ Owns w' base x.a x.n x.c (marks 1 x.n) ∧ Only w w' x.a := by
  have HO : Hid (Owns w base x.a x.n x.c x.u.zs) := h
  clear h
  have HB : Hid (Below w.heap.size w (w.alloc (.cells #[.string x.u.id, .int .i64 x.u.want, .slice x.a x.n x.c, .bool x.u.done] 31))) := (Below.refl _ _).alloc (Nat.le_refl _) _
  go_enter Try.func11, Try.ntmps11
  go_wp2_with fail
  refine (mark_one base x.a x.n x.c x.u.zs _ (HO.out.below HB.out) (by omega)).mono ?_
  rintro r x1 ⟨rfl, ho, hg⟩
  have HO2 : Hid (Owns x1 base x.a x.n x.c (marks 1 x.n)) := ho
  have HG2 : Hid (Only w x1 x.a) := by
    have h1 := HB.out
    have h2 : World.grownBy _ _ _ := hg
    exact ⟨h2.os.trans h1.os, h2.tape.trans h1.tape, h2.output.trans h1.output, Nat.le_trans h1.size h2.size, fun i hi hne => (h2.block i (Nat.lt_of_lt_of_le hi h1.size) hne).trans (h1.block i hi)⟩
  clear ho hg
  obtain ⟨t, ht⟩ : ∃ t, 1 + x.n = t := ⟨_, rfl⟩
  have HQ : Hid (1 + x.n = t) := ht
  rw [ht]
  clear ht
  go_wp2_with fail
  go_ret
  exact ⟨ret_int (by rw [HQ.out]), HO2.out, HG2.out⟩

theorem heldUp_any (base : Nat) (x : UE) (w : World) (h : Owns w base x.a x.n x.c (marks 1 x.n)) (hn : x.n ≤ 1099511627776) :
    Calls Try.prog 12 #[.agg #[.string x.u.id, .int .i64 x.u.want, .slice x.a x.n x.c, .bool x.u.done], .int .i64 1] w fun r w' => r = .returned (.int .i64 ((1 + x.n : Nat) : Int)) ∧ Below w.heap.size w w' := by
  have HO : Hid (Owns w base x.a x.n x.c (marks 1 x.n)) := h
  clear h
  have HB : Hid (Below w.heap.size w (w.alloc (.cells #[.string x.u.id, .int .i64 x.u.want, .slice x.a x.n x.c, .bool x.u.done] 31))) := (Below.refl _ _).alloc (Nat.le_refl _) _
  go_enter Try.func12, Try.ntmps12
  go_wp2_with fail
  refine (held_one base x.a x.n x.c _ (HO.out.below HB.out) (by omega)).mono ?_
  rintro r x1 ⟨rfl, rfl⟩
  have hpos : ¬ ((1 + x.n : Nat) : Int) < 0 := by omega
  have hposd : decide (((1 + x.n : Nat) : Int) < 0) = false := by simp; omega
  obtain ⟨t, ht⟩ : ∃ t, 1 + x.n = t := ⟨_, rfl⟩
  have HQ : Hid (1 + x.n = t) := ht
  rw [ht] at hpos hposd ⊢
  clear ht
  go_wp2_with fail
  go_ret
  exact ⟨ret_int (by rw [HQ.out]), HB.out⟩

end Go.Proofs.Ytmephcabgccocau

namespace Go.Proofs.Ytmephcabgccocau
open Go.RowKit Go.ChangeShapes Go.WideShapes
set_option linter.unusedVariables false

theorem bytes_opened {H : Type} {enc : TypeId × Value → H} {w : World} {fuel : Nat} {v : Value} {x : DataW H × List MemPlace} (h : DataW.trod enc Try.prog w 0 (fun _ => true) true fuel 29 [v] = some x) :
    ∃ a len cap zs, v = .slice a len cap ∧ len ≤ cap ∧ len ≤ maxLen ∧ Seg w a len zs := by
  rcases Go.Deep.open_slice1 Try.underlying29 (by kernel_rfl) h with ⟨hcs, _⟩ | ⟨a, len, cap, m, n, V, D, Pl, hcs, _, hl, hm, hmm, _, hc⟩
  · simp at hcs
    exact ⟨none, 0, 0, [], hcs, Nat.le_refl _, Nat.zero_le _, rfl, by simp, .inl rfl⟩
  · simp at hcs hmm
    subst hmm
    have hs : ∀ i, i < m → ∃ z : Int, V i = .int .u8 z ∧ 0 ≤ z ∧ z ≤ 255 := by
      intro i hi
      obtain ⟨_, h0⟩ := hc i hi
      obtain ⟨z, e0, _, w0⟩ := DataW.trod_int Try.underlying5 h0
      exact ⟨z, by simpa using e0, bounds_u8 w0⟩
    refine ⟨some a, len, m, (List.range len).map fun i => if hi : i < m then Classical.choose (hs i hi) else 0, hcs, hl, by omega, by simp, ?_, ?_⟩
    · intro z hz
      obtain ⟨i, hi, rfl⟩ := List.mem_map.1 hz
      have him : i < m := by have := List.mem_range.1 hi; omega
      rw [dif_pos him]
      exact (Classical.choose_spec (hs i him)).2
    · by_cases h0 : len = 0
      · exact .inl h0
      · right
        obtain ⟨b, off, spot⟩ := a
        have hspot : spot = none := by simpa [Addr.add] using World.cell?_spot (hc 0 (by omega)).1
        subst hspot
        have key : ∀ i (hi : i < m), w.cell? ⟨b, off + i, none⟩ = some (.int .u8 (Classical.choose (hs i hi))) := by
          intro i hi
          have hq := Classical.choose_spec (hs i hi)
          have hcc := (hc i hi).1
          rw [← hq.1]
          by_cases hi0 : i = 0
          · subst hi0
            simpa [Addr.add] using hcc
          · simpa [Addr.add, hi0] using hcc
        refine ⟨b, off, rfl, lt_of_cell (key 0 (by omega)), fun i hi => ?_⟩
        have := key i (by omega)
        rw [this]
        simp [List.getD_eq_getElem?_getD, hi, show i < m by omega]

end Go.Proofs.Ytmephcabgccocau

namespace Go.Proofs.Ytmephcabgccocau
open Go.RowKit Go.ChangeShapes Go.WideShapes Go.Joins Go.Deep
set_option linter.unusedVariables false

/-- The slice (a, n) names these uploads. -/
def UpsI (w : World) (a : Option Addr) (n : Nat) (l : List UE) : Prop :=
  l.length = n ∧ (∀ e ∈ l, e.u.id.size ≤ maxLen ∧ e.n ≤ maxLen ∧ Seg w e.a e.n e.u.zs) ∧
  (n = 0 ∨ ∃ b off, a = some ⟨b, off, none⟩ ∧ b < w.heap.size ∧ ∀ i (hi : i < l.length), w.cell? ⟨b, off + i * 4, none⟩ = some (.string (l[i]).u.id) ∧ w.cell? ⟨b, off + i * 4 + 1, none⟩ = some (.int .i64 (l[i]).u.want) ∧ w.cell? ⟨b, off + i * 4 + 2, none⟩ = some (.slice (l[i]).a (l[i]).n (l[i]).c) ∧ w.cell? ⟨b, off + i * 4 + 3, none⟩ = some (.bool (l[i]).u.done))

theorem UpsI.below {w w' : World} {a : Option Addr} {n : Nat} {l : List UE} (h : UpsI w a n l) (hb : Below w.heap.size w w') : UpsI w' a n l := by
  obtain ⟨h1, h2, h3⟩ := h
  refine ⟨h1, fun e he => ⟨(h2 e he).1, (h2 e he).2.1, (h2 e he).2.2.below hb⟩, ?_⟩
  rcases h3 with h3 | ⟨b, off, rfl, hlt, hc⟩
  · exact .inl h3
  · refine .inr ⟨b, off, rfl, Nat.lt_of_lt_of_le hlt hb.size, fun i hi => ?_⟩
    obtain ⟨c0, c1, c2, c3⟩ := hc i hi
    exact ⟨(hb.cell (p := ⟨b, _, none⟩) hlt).trans c0, (hb.cell (p := ⟨b, _, none⟩) hlt).trans c1, (hb.cell (p := ⟨b, _, none⟩) hlt).trans c2, (hb.cell (p := ⟨b, _, none⟩) hlt).trans c3⟩

theorem UpsI.at {w : World} {a : Option Addr} {n : Nat} {l : List UE} (h : UpsI w a n l) {i : Nat} (hi : i < l.length) :
    ∃ b off, a = some ⟨b, off, none⟩ ∧ b < w.heap.size ∧ w.cell? ⟨b, off + i * 4, none⟩ = some (.string (l[i]).u.id) ∧ w.cell? ⟨b, off + i * 4 + 1, none⟩ = some (.int .i64 (l[i]).u.want) ∧ w.cell? ⟨b, off + i * 4 + 2, none⟩ = some (.slice (l[i]).a (l[i]).n (l[i]).c) ∧ w.cell? ⟨b, off + i * 4 + 3, none⟩ = some (.bool (l[i]).u.done) := by
  obtain ⟨h1, h2, h3⟩ := h
  rcases h3 with h3 | ⟨b, off, rfl, hlt, hc⟩
  · omega
  · exact ⟨b, off, rfl, hlt, hc i hi⟩

set_option maxRecDepth 100000 in
theorem up_cells {H : Type} {enc : TypeId × Value → H} {w : World} {n : Nat} {cs : List Value} {x : DataW H × List MemPlace} (h : DataW.trod enc Try.prog w 0 (fun _ => true) true n 60 cs = some x) :
    ∃ e : UE, cs = e.cells ∧ e.u.id.size ≤ maxLen ∧ e.n ≤ maxLen ∧ Seg w e.a e.n e.u.zs := by
  obtain ⟨xs, m, _, _, hl, hlen, hg⟩ := DataW.trod_struct Try.underlying60 h
  have hC : Try.prog.cellsOf 60 = 4 := by kernel_rfl
  rw [hC] at hl
  have k3 : Try.prog.cellsOf 3 = 1 := by kernel_rfl
  have k4 : Try.prog.cellsOf 4 = 1 := by kernel_rfl
  have k9 : Try.prog.cellsOf 9 = 1 := by kernel_rfl
  have kb : Try.prog.cellsOf 29 = 1 := by kernel_rfl
  match xs, hlen, cs, hl with
  | [y0, y1, y2, y3], _, [v0, v1, v2, v3], _ =>
    have g0 := hg 0 _ rfl
    have g1 := hg 1 _ rfl
    have g2 := hg 2 _ rfl
    have g3 := hg 3 _ rfl
    simp [k3, k4, k9, kb] at g0 g1 g2 g3
    obtain ⟨s, e0, _, z0⟩ := DataW.trod_string Try.underlying9 g0
    obtain ⟨i, e1, _, _⟩ := DataW.trod_int Try.underlying3 g1
    obtain ⟨b, e3, _⟩ := DataW.trod_bool Try.underlying4 g3
    obtain ⟨a, len, cap, zs, e2, _, hlm, hs⟩ := bytes_opened g2
    refine ⟨⟨⟨s, i, zs, b⟩, a, len, cap⟩, ?_, z0, hlm, hs⟩
    simp only [List.cons.injEq, and_true] at e0 e1 e3
    rw [UE.cells, e0, e1, e2, e3]

theorem UpsI.opened {H : Type} {enc : TypeId × Value → H} {w : World} {fuel : Nat} {v : Value} {x : DataW H × List MemPlace} (h : DataW.trod enc Try.prog w 0 (fun _ => true) true fuel 25 [v] = some x) :
    ∃ a len cap l, v = .slice a len cap ∧ len ≤ maxLen ∧ UpsI w a len l := by
  rcases Go.Deep.open_slice Try.underlying25 h with ⟨hcs, _⟩ | ⟨a, len, cap, m, n, D, Pl, hcs, _, hl, hm, hmm, _, hc⟩
  · simp at hcs
    exact ⟨none, 0, 0, [], hcs, Nat.zero_le _, rfl, by simp, .inl rfl⟩
  · simp at hcs hmm
    subst hmm
    have hC : Try.prog.cellsOf 60 = 4 := by kernel_rfl
    rw [hC] at hc
    have hs : ∀ i, i < m → ∃ e : UE, (w.cell? (a.add (i * 4)) = some (.string e.u.id) ∧ w.cell? (a.add (i * 4 + 1)) = some (.int .i64 e.u.want) ∧ w.cell? (a.add (i * 4 + 2)) = some (.slice e.a e.n e.c) ∧ w.cell? (a.add (i * 4 + 3)) = some (.bool e.u.done)) ∧ e.u.id.size ≤ maxLen ∧ e.n ≤ maxLen ∧ Seg w e.a e.n e.u.zs := by
      intro i hi
      obtain ⟨cs', h1, h2⟩ := hc i hi
      obtain ⟨e, rfl, r⟩ := up_cells h2
      obtain ⟨_, hlen, hcell⟩ := World.cells?_some h1
      have e0 := hcell 0 (by omega)
      have e1 := hcell 1 (by omega)
      have e2 := hcell 2 (by omega)
      have e3 := hcell 3 (by omega)
      rw [Go.Deep.add_add] at e0 e1 e2 e3
      exact ⟨e, ⟨by simpa [UE.cells] using e0, by simpa [UE.cells] using e1, by simpa [UE.cells] using e2, by simpa [UE.cells] using e3⟩, r⟩
    refine ⟨some a, len, m, (List.range len).map fun i => if hi : i < m then Classical.choose (hs i hi) else ⟨⟨⟨#[]⟩, 0, [], false⟩, none, 0, 0⟩, hcs, by omega, by simp, ?_, ?_⟩
    · intro f hf
      obtain ⟨i, hi, rfl⟩ := List.mem_map.1 hf
      have him : i < m := by have := List.mem_range.1 hi; omega
      rw [dif_pos him]
      exact (Classical.choose_spec (hs i him)).2
    · by_cases h0 : len = 0
      · exact .inl h0
      · right
        obtain ⟨b, off, spot⟩ := a
        have hspot : spot = none := by simpa [Addr.add] using World.cell?_spot (Classical.choose_spec (hs 0 (by omega))).1.1
        subst hspot
        have key : ∀ i (hi : i < m), w.cell? ⟨b, off + i * 4, none⟩ = some (.string (Classical.choose (hs i hi)).u.id) ∧ w.cell? ⟨b, off + i * 4 + 1, none⟩ = some (.int .i64 (Classical.choose (hs i hi)).u.want) ∧ w.cell? ⟨b, off + i * 4 + 2, none⟩ = some (.slice (Classical.choose (hs i hi)).a (Classical.choose (hs i hi)).n (Classical.choose (hs i hi)).c) ∧ w.cell? ⟨b, off + i * 4 + 3, none⟩ = some (.bool (Classical.choose (hs i hi)).u.done) := by
          intro i hi
          obtain ⟨⟨q0, q1, q2, q3⟩, _⟩ := Classical.choose_spec (hs i hi)
          generalize Classical.choose (hs i hi) = e at *
          refine ⟨?_, ?_, ?_, ?_⟩
          · by_cases hi0 : i = 0
            · subst hi0
              simpa [Addr.add] using q0
            · simpa [Addr.add, show ¬ i * 4 = 0 by omega] using q0
          · simpa [Addr.add, Nat.add_assoc] using q1
          · simpa [Addr.add, Nat.add_assoc] using q2
          · simpa [Addr.add, Nat.add_assoc] using q3
        refine ⟨b, off, rfl, lt_of_cell (key 0 (by omega)).1, fun i hi => ?_⟩
        have hil : i < len := by simpa using hi
        have := key i (by omega)
        simpa [show i < m by omega] using this

end Go.Proofs.Ytmephcabgccocau
