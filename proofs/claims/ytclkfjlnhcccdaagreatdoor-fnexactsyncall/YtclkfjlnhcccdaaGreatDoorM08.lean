/- A store, and an upload, in a variable of the law's: where its rows lie. No statement of the program but its table of types. Cells written below the rows of answers that wait. No program in it. A server of the laws: its copy. Uploads held against themselves. Stores held against themselves. An answer held against itself. -/
import Derived.Test.YtclkfjlnhcccdaaGreatDoorM07
import Derived.Test.YtclkfjlnhcccdaaGreatDoorM05
import Derived.Test.YtclkfjlnhcccdaaGreatDoorM07
import Derived.Test.YtclkfjlnhcccdaaGreatDoorM04
import Derived.Test.YtclkfjlnhcccdaaGreatDoorM06
import Derived.Deep.CutBlock
import Derived.WalkKit
namespace Go.Proofs.YtclkfjlnhcccdaaGreatDoor
open Go.RowKit
set_option linter.unusedVariables false

theorem OwnSt.same {W W' : World} {base n c : Nat} {a : Option Addr} {l : List ByteArray} (h : OwnSt W base (.slice a n c) n l) (hq : ∀ q, a.map (·.block) = some q → W'.heap[q]? = W.heap[q]?) : OwnSt W' base (.slice a n c) n l := ⟨own_same h.1 (fun q e => hq q (by rw [← ownBlock_sU a n c]; exact e)), h.2⟩

theorem StoAt.same {W W' : World} {base : Nat} {a : Option Addr} {n ca : Nat} {X : List ByteArray} {a' : Option Addr} {n' ca' : Nat} {Y : List ByteArray} {ua : Option Addr} {un uc : Nat} {l : List UE} (h : StoAt W base a n ca X a' n' ca' Y ua un uc l) {hi : Nat} (hin : StoIn a a' ua l hi) (hs : ∀ q, base ≤ q → q < hi → q < W.heap.size → W'.heap[q]? = W.heap[q]?) : StoAt W' base a n ca X a' n' ca' Y ua un uc l := by
  refine ⟨h.now.same (fun q e => ?_), h.sure.same (fun q e => ?_), h.apart, h.ups.same (fun q e => ?_) (fun x hx q e => ?_), h.len⟩
  · have := h.now.lt q (by rw [blk_own]; exact e); exact hs q this.1 (hin.1 q e) this.2
  · have := h.sure.lt q (by rw [blk_own]; exact e); exact hs q this.1 (hin.2.1 q e) this.2
  · have := h.ups.lts.1 q e; exact hs q this.1 (hin.2.2.1 q (by rw [← ownBlock_sU ua un uc]; exact e)) this.2
  · have := h.ups.lts.2 x hx q e; exact hs q this.1 (hin.2.2.2 x hx q e) this.2

/-- A variable that holds a store. -/
structure SAt (W : World) (lo b : Nat) (a : Option Addr) (n ca : Nat) (X : List ByteArray) (a' : Option Addr) (n' ca' : Nat) (Y : List ByteArray) (ep nx : Int) (ua : Option Addr) (un uc : Nat) (l : List UE) : Prop where
  box : BoxN W b 35 [.slice a n ca, .slice a' n' ca', .int .i64 ep, .int .i64 nx, .slice ua un uc]
  sto : StoAt W lo a n ca X a' n' ca' Y ua un uc l
  inn : StoIn a a' ua l b
  lob : lo ≤ b

section
variable {W W' : World} {lo b : Nat} {a : Option Addr} {n ca : Nat} {X : List ByteArray} {a' : Option Addr} {n' ca' : Nat} {Y : List ByteArray} {ep nx : Int} {ua : Option Addr} {un uc : Nat} {l : List UE}

theorem StoAt.inn (h : StoAt W lo a n ca X a' n' ca' Y ua un uc l) : StoIn a a' ua l W.heap.size :=
  ⟨fun q e => (h.now.lt q (by rw [blk_own]; exact e)).2, fun q e => (h.sure.lt q (by rw [blk_own]; exact e)).2, fun q e => (h.ups.lts.1 q (by rw [ownBlock_sU]; exact e)).2, fun x hx q e => (h.ups.lts.2 x hx q e).2⟩

theorem SAt.new (h : StoAt W lo a n ca X a' n' ca' Y ua un uc l) (hl : lo ≤ W.heap.size) : SAt (W.alloc (.cells #[.slice a n ca, .slice a' n' ca', .int .i64 ep, .int .i64 nx, .slice ua un uc] 35)) lo W.heap.size a n ca X a' n' ca' Y ep nx ua un uc l :=
  ⟨BoxN.new _ _ _, h.stays ((Below.refl _ _).alloc (Nat.le_refl _) _), h.inn, hl⟩

theorem SAt.stays (h : SAt W lo b a n ca X a' n' ca' Y ep nx ua un uc l) (hb : Below W.heap.size W W') : SAt W' lo b a n ca X a' n' ca' Y ep nx ua un uc l := ⟨h.box.stays hb, h.sto.stays hb, h.inn, h.lob⟩

theorem SAt.kept {lo2 hi2 : Nat} (h : SAt W lo b a n ca X a' n' ca' Y ep nx ua un uc l) (hw : Within W W' lo2 hi2) (ho : b < lo2 ∨ hi2 ≤ lo) : SAt W' lo b a n ca X a' n' ca' Y ep nx ua un uc l :=
  ⟨(hw.block b h.box.lt (by have := h.lob; omega)).trans h.box, h.sto.same h.inn (fun q h1 h2 h3 => hw.block q h3 (by omega)), h.inn, h.lob⟩

end

/-- An answered store, the lengths of its rows said. -/
theorem AnsS.get {base : Nat} {X Y : List ByteArray} {ep nx : Int} {us : List U} {v : Value} {w' : World} (h : AnsS base X Y ep nx us v w') : ∃ (a : Option Addr) (ca : Nat) (a' : Option Addr) (ca' : Nat) (ua : Option Addr) (uc : Nat) (l : List UE), v = .agg #[.slice a X.length ca, .slice a' Y.length ca', .int .i64 ep, .int .i64 nx, .slice ua us.length uc] ∧ StoAt w' base a X.length ca X a' Y.length ca' Y ua us.length uc l ∧ l.map UE.u = us := by
  obtain ⟨a, n, ca, a', n', ca', ua, un, uc, l, rfl, hs, hm⟩ := h
  have h1 : n = X.length := by have := hs.now.1.1; simpa [scells] using this.symm
  have h2 : n' = Y.length := by have := hs.sure.1.1; simpa [scells] using this.symm
  have h3 : un = us.length := by rw [hs.len, ← hm, List.length_map]
  subst h1 h2 h3
  exact ⟨a, ca, a', ca', ua, uc, l, rfl, hs, hm⟩

end Go.Proofs.YtclkfjlnhcccdaaGreatDoor

namespace Go.Proofs.YtclkfjlnhcccdaaGreatDoor
open Go.RowKit
set_option linter.unusedVariables false

theorem own_setH {w : World} {base n size : Nat} {e : TypeId} {v : Value} {xs : List Value} (h : w.ownsRow base e size v n xs) {b : Nat} (hb : v.ownBlock ≠ some b) (k : Nat) (u : Value) : (w.setCell ⟨b, k, none⟩ u).ownsRow base e size v n xs := by
  refine ⟨h.1, ?_⟩
  rcases h.2 with h0 | ⟨g, cap, cur, rfl, hg, hc, h3, h4, h5, h6⟩
  · exact .inl h0
  · refine .inr ⟨g, cap, cur, rfl, hg, ?_, h3, h4, h5, h6⟩
    have hne : g ≠ b := fun e => hb (by simp [Value.ownBlock, e])
    exact (set_block_ne w g b k u hne).trans hc

/-- A cell of a block below the row's bound. -/
theorem OwnH.setLow {W : World} {base b i n cap : Nat} {a : Option Addr} {l : List Hd} (h : OwnH W base a n cap l) (hb : b < base) (u : Value) : OwnH (W.setCell ⟨b, i, none⟩ u) base a n cap l := by
  refine ⟨own_setH h.1 (fun e => ?_) _ _, h.2⟩
  have := (h.1.lt b e).1
  omega

end Go.Proofs.YtclkfjlnhcccdaaGreatDoor

namespace Go.Proofs.YtclkfjlnhcccdaaGreatDoor
open Go.RowKit
set_option linter.unusedVariables false

set_option maxRecDepth 10000 in
set_option maxHeartbeats 3200000 in
theorem toServer_in (a : Option Addr) (n ca : Nat) (X : List ByteArray) (a' : Option Addr) (n' ca' : Nat) (Y : List ByteArray) (ep nx : Int) (ua : Option Addr) (un uc : Nat) (l : List UE) (ha : Option Addr) (hn hc : Nat) (hs : List Hd) (w : World) (h1 : Strs w a n X) (h2 : Strs w a' n' Y) (hu : UpsI w ua un l) (hh : Helds w ha hn hs) (hsz : SzS n X n' Y un l) (hhn : hn ≤ 1048576) :
    Calls Tryz.prog 7 #[.agg #[.slice a n ca, .slice a' n' ca', .int .i64 ep, .int .i64 nx, .slice ua un uc, .slice ha hn hc]] w fun r w' => (∃ g g' gu l' gh, r = .returned (.agg #[.slice (some ⟨g, 0, none⟩) n n, .slice (some ⟨g', 0, none⟩) n' n', .int .i64 ep, .int .i64 nx, .slice (some ⟨gu, 0, none⟩) un un, .slice (some ⟨gh, 0, none⟩) hn hn]) ∧ StoAt w' w.heap.size (some ⟨g, 0, none⟩) n n X (some ⟨g', 0, none⟩) n' n' Y (some ⟨gu, 0, none⟩) un un l' ∧ OwnH w' w.heap.size (some ⟨gh, 0, none⟩) hn hn hs ∧ l'.map UE.u = l.map UE.u ∧ (∀ e ∈ l', e.n ≤ 1048576) ∧ StoIn (some ⟨g, 0, none⟩) (some ⟨g', 0, none⟩) (some ⟨gu, 0, none⟩) l' gh ∧ w.heap.size ≤ gh) ∧ Below w.heap.size w w' := by
  have HX : Hid (∀ W, Below w.heap.size w W → Strs W a n X ∧ Strs W a' n' Y ∧ UpsI W ua un l ∧ Helds W ha hn hs) := fun W h => ⟨h1.below h, h2.below h, hu.below h, hh.below h⟩
  have HS : Hid (SzS n X n' Y un l) := hsz
  clear h1 h2 hu hh hsz
  obtain ⟨W0, hW0⟩ : ∃ W0, ((w.alloc (.cells #[.slice a n ca, .slice a' n' ca', .int .i64 ep, .int .i64 nx, .slice ua un uc, .slice ha hn hc] 30)).alloc (.cells #[.slice none 0 0, .slice none 0 0, .int .i64 0, .int .i64 0, .slice none 0 0, .slice none 0 0] 38)).alloc (.cells #[.slice none 0 0, .slice none 0 0, .int .i64 0, .int .i64 0, .slice none 0 0, .slice none 0 0] 38) = W0 := ⟨_, rfl⟩
  have HE : Hid (((w.alloc (.cells #[.slice a n ca, .slice a' n' ca', .int .i64 ep, .int .i64 nx, .slice ua un uc, .slice ha hn hc] 30)).alloc (.cells #[.slice none 0 0, .slice none 0 0, .int .i64 0, .int .i64 0, .slice none 0 0, .slice none 0 0] 38)).alloc (.cells #[.slice none 0 0, .slice none 0 0, .int .i64 0, .int .i64 0, .slice none 0 0, .slice none 0 0] 38) = W0) := hW0
  have HB : Hid (Below w.heap.size w W0) := by show Below _ _ _; rw [← hW0]; exact (((Below.refl _ _).alloc (Nat.le_refl _) _).alloc (by simp) _).alloc (by simp; omega) _
  have HI : Hid (BoxN W0 w.heap.size 30 [.slice a n ca, .slice a' n' ca', .int .i64 ep, .int .i64 nx, .slice ua un uc, .slice ha hn hc]) := by show BoxN _ _ _ _; rw [← hW0]; exact ((BoxN.new _ _ _).alloc _).alloc _
  have HR : Hid (BoxN W0 (w.heap.size + 1) 38 [.slice none 0 0, .slice none 0 0, .int .i64 0, .int .i64 0, .slice none 0 0, .slice none 0 0]) := by
    show BoxN _ _ _ _
    rw [← hW0]
    have := (BoxN.new (w.alloc (.cells #[.slice a n ca, .slice a' n' ca', .int .i64 ep, .int .i64 nx, .slice ua un uc, .slice ha hn hc] 30)) 38 [.slice none 0 0, .slice none 0 0, .int .i64 0, .int .i64 0, .slice none 0 0, .slice none 0 0]).alloc (.cells #[.slice none 0 0, .slice none 0 0, .int .i64 0, .int .i64 0, .slice none 0 0, .slice none 0 0] 38)
    rw [World.size_alloc] at this
    exact this
  have HO : Hid (BoxN W0 (w.heap.size + 1 + 1) 38 [.slice none 0 0, .slice none 0 0, .int .i64 0, .int .i64 0, .slice none 0 0, .slice none 0 0]) := by
    show BoxN _ _ _ _
    rw [← hW0]
    have := BoxN.new ((w.alloc (.cells #[.slice a n ca, .slice a' n' ca', .int .i64 ep, .int .i64 nx, .slice ua un uc, .slice ha hn hc] 30)).alloc (.cells #[.slice none 0 0, .slice none 0 0, .int .i64 0, .int .i64 0, .slice none 0 0, .slice none 0 0] 38)) 38 [.slice none 0 0, .slice none 0 0, .int .i64 0, .int .i64 0, .slice none 0 0, .slice none 0 0]
    rw [World.size_alloc, World.size_alloc] at this
    exact this
  clear hW0
  obtain ⟨c0, c1, c2, c3, c4, c5⟩ := (show _ ∧ _ ∧ _ ∧ _ ∧ _ ∧ _ from ⟨BoxN.cell HI.out 0 rfl, BoxN.cell HI.out 1 rfl, BoxN.cell HI.out 2 rfl, BoxN.cell HI.out 3 rfl, BoxN.cell HI.out 4 rfl, BoxN.cell HI.out 5 rfl⟩)
  go_enter Tryz.func7, Tryz.ntmps7
  go_upto_region 2 with fail
  rw [HE.out]
  clear HE
  go_wp2_with fail
  refine (toStore_any a n ca X a' n' ca' Y ep nx ua un uc l W0 (HX.out _ HB.out).1 (HX.out _ HB.out).2.1 (HX.out _ HB.out).2.2.1 HS.out).mono ?_
  rintro _ x1 ⟨⟨g, g', gu, l', rfl, hst, hlm, hl10⟩, hb1⟩
  have hi1 := HI.out.stays hb1
  have hr1 := HR.out.stays hb1
  have ho1 := HO.out.stays hb1
  have hlt : w.heap.size + 1 + 1 < W0.heap.size := HO.out.lt
  obtain ⟨x2, hx2⟩ : ∃ x2, (((((x1.setCell ⟨w.heap.size + 1 + 1, 0, none⟩ (.slice (some ⟨g, 0, none⟩) n n)).setCell ⟨w.heap.size + 1 + 1, 1, none⟩ (.slice (some ⟨g', 0, none⟩) n' n')).setCell ⟨w.heap.size + 1 + 1, 2, none⟩ (.int .i64 ep)).setCell ⟨w.heap.size + 1 + 1, 3, none⟩ (.int .i64 nx)).setCell ⟨w.heap.size + 1 + 1, 4, none⟩ (.slice (some ⟨gu, 0, none⟩) un un)) = x2 := ⟨_, rfl⟩
  have HE2 : Hid ((((((x1.setCell ⟨w.heap.size + 1 + 1, 0, none⟩ (.slice (some ⟨g, 0, none⟩) n n)).setCell ⟨w.heap.size + 1 + 1, 1, none⟩ (.slice (some ⟨g', 0, none⟩) n' n')).setCell ⟨w.heap.size + 1 + 1, 2, none⟩ (.int .i64 ep)).setCell ⟨w.heap.size + 1 + 1, 3, none⟩ (.int .i64 nx)).setCell ⟨w.heap.size + 1 + 1, 4, none⟩ (.slice (some ⟨gu, 0, none⟩) un un)) = x2) := hx2
  have HI2 : Hid (BoxN x2 w.heap.size 30 [.slice a n ca, .slice a' n' ca', .int .i64 ep, .int .i64 nx, .slice ua un uc, .slice ha hn hc]) := by show BoxN _ _ _ _; rw [← hx2]; exact (((((hi1.other (by omega) _).other (by omega) _).other (by omega) _).other (by omega) _).other (by omega) _)
  have HR2 : Hid (BoxN x2 (w.heap.size + 1) 38 [.slice none 0 0, .slice none 0 0, .int .i64 0, .int .i64 0, .slice none 0 0, .slice none 0 0]) := by show BoxN _ _ _ _; rw [← hx2]; exact (((((hr1.other (by omega) _).other (by omega) _).other (by omega) _).other (by omega) _).other (by omega) _)
  have HO2 : Hid (BoxN x2 (w.heap.size + 1 + 1) 38 [.slice (some ⟨g, 0, none⟩) n n, .slice (some ⟨g', 0, none⟩) n' n', .int .i64 ep, .int .i64 nx, .slice (some ⟨gu, 0, none⟩) un un, .slice none 0 0]) := by show BoxN _ _ _ _; rw [← hx2]; exact ((((ho1.set 0 _).set 1 _).set 2 _).set 3 _).set 4 _
  have HS2 : Hid (StoAt x2 W0.heap.size (some ⟨g, 0, none⟩) n n X (some ⟨g', 0, none⟩) n' n' Y (some ⟨gu, 0, none⟩) un un l') := by show StoAt _ _ _ _ _ _ _ _ _ _ _ _ _ _; rw [← hx2]; exact ((((hst.setLow hlt _).setLow hlt _).setLow hlt _).setLow hlt _).setLow hlt _
  have HB2 : Hid (Below w.heap.size w x2) := by
    show Below _ _ _
    rw [← hx2]
    exact (((((HB.out.trans (hb1.mono HB.out.size)).setCell (by dsimp only; omega) _).setCell (by dsimp only; omega) _).setCell (by dsimp only; omega) _).setCell (by dsimp only; omega) _).setCell (by dsimp only; omega) _
  have hsz2 : W0.heap.size ≤ x2.heap.size := by
    have h1 := hb1.size
    have h2 : x2.heap.size = x1.heap.size := by rw [← hx2]; simp
    omega
  have HL0 : Hid (w.heap.size + 1 + 1 < W0.heap.size) := hlt
  have HLm : Hid (l'.map UE.u = l.map UE.u ∧ ∀ e ∈ l', e.n ≤ 1048576) := ⟨hlm, hl10⟩
  obtain ⟨o0, o1, o2, o3, o4, o5⟩ := (show _ ∧ _ ∧ _ ∧ _ ∧ _ ∧ _ from ⟨BoxN.cell ho1 0 rfl, BoxN.cell ho1 1 rfl, BoxN.cell ho1 2 rfl, BoxN.cell ho1 3 rfl, BoxN.cell ho1 4 rfl, BoxN.cell ho1 5 rfl⟩)
  obtain ⟨f0, f1, f2, f3, f4, f5⟩ := (show _ ∧ _ ∧ _ ∧ _ ∧ _ ∧ _ from ⟨BoxN.frozen ho1 0, BoxN.frozen ho1 1, BoxN.frozen ho1 2, BoxN.frozen ho1 3, BoxN.frozen ho1 4, BoxN.frozen ho1 5⟩)
  have c5 := BoxN.cell hi1 5 rfl
  clear hx2 hi1 hr1 ho1 hst hlm hl10 hb1 HI HR HO HB HS c0 c1 c2 c3 c4 hlt
  have hlt2 : w.heap.size + 1 + 1 < x2.heap.size := HO2.out.lt
  go_upto_region 3 with fail
  rw [HE2.out]
  clear HE2 o0 o1 o2 o3 o4 o5 f0 f1 f2 f3 f4 f5 c5
  have c5 := BoxN.cell HI2.out 5 rfl
  go_wp2_with fail
  refine (toHeldS_own ha hn hc hs x2 (HX.out _ HB2.out).2.2.2 hhn).mono ?_
  rintro _ x3 ⟨rfl, hoh, hb3⟩
  have HIn : Hid (StoIn (some ⟨g, 0, none⟩) (some ⟨g', 0, none⟩) (some ⟨gu, 0, none⟩) l' x2.heap.size) := HS2.out.inn
  obtain ⟨gh, hgh⟩ : ∃ gh, x2.heap.size = gh := ⟨_, rfl⟩
  rw [hgh] at hoh hlt2 hsz2 HIn ⊢
  clear hgh
  have ho3 := HO2.out.stays hb3
  have hr3 := HR2.out.stays hb3
  have HB3 : Hid (Below w.heap.size w x3) := HB2.out.trans (hb3.mono HB2.out.size)
  obtain ⟨x4, hx4⟩ : ∃ x4, (x3.setCell ⟨w.heap.size + 1 + 1, 5, none⟩ (.slice (some ⟨gh, 0, none⟩) hn hn)) = x4 := ⟨_, rfl⟩
  have HE4 : Hid ((x3.setCell ⟨w.heap.size + 1 + 1, 5, none⟩ (.slice (some ⟨gh, 0, none⟩) hn hn)) = x4) := hx4
  have HO4 : Hid (BoxN x4 (w.heap.size + 1 + 1) 38 [.slice (some ⟨g, 0, none⟩) n n, .slice (some ⟨g', 0, none⟩) n' n', .int .i64 ep, .int .i64 nx, .slice (some ⟨gu, 0, none⟩) un un, .slice (some ⟨gh, 0, none⟩) hn hn]) := by show BoxN _ _ _ _; rw [← hx4]; exact ho3.set 5 _
  have HR4 : Hid (BoxN x4 (w.heap.size + 1) 38 [.slice none 0 0, .slice none 0 0, .int .i64 0, .int .i64 0, .slice none 0 0, .slice none 0 0]) := by show BoxN _ _ _ _; rw [← hx4]; exact hr3.other (by omega) _
  have HS4 : Hid (StoAt x4 W0.heap.size (some ⟨g, 0, none⟩) n n X (some ⟨g', 0, none⟩) n' n' Y (some ⟨gu, 0, none⟩) un un l') := by show StoAt _ _ _ _ _ _ _ _ _ _ _ _ _ _; rw [← hx4]; exact (HS2.out.stays hb3).setLow (by have := HL0.out; omega) _
  have HH4 : Hid (OwnH x4 gh (some ⟨gh, 0, none⟩) hn hn hs) := by show OwnH _ _ _ _ _ _; rw [← hx4]; exact hoh.setLow (by omega) _
  have HB4 : Hid (Below w.heap.size w x4) := by show Below _ _ _; rw [← hx4]; exact HB3.out.setCell (by dsimp only; omega) _
  have p5 := BoxN.cell ho3 5 rfl
  have q5 := BoxN.frozen ho3 5
  clear hx4 ho3 hr3 hoh hb3 HB3 HI2 HR2 HO2 HS2 HB2 c5
  go_upto_region 4 with fail
  rw [HE4.out]
  clear HE4 p5 q5
  obtain ⟨c0, c1, c2, c3, c4, c5⟩ := (show _ ∧ _ ∧ _ ∧ _ ∧ _ ∧ _ from ⟨BoxN.cell HO4.out 0 rfl, BoxN.cell HO4.out 1 rfl, BoxN.cell HO4.out 2 rfl, BoxN.cell HO4.out 3 rfl, BoxN.cell HO4.out 4 rfl, BoxN.cell HO4.out 5 rfl⟩)
  obtain ⟨r0, r1, r2, r3, r4, r5⟩ := (show _ ∧ _ ∧ _ ∧ _ ∧ _ ∧ _ from ⟨BoxN.cell HR4.out 0 rfl, BoxN.cell HR4.out 1 rfl, BoxN.cell HR4.out 2 rfl, BoxN.cell HR4.out 3 rfl, BoxN.cell HR4.out 4 rfl, BoxN.cell HR4.out 5 rfl⟩)
  obtain ⟨f0, f1, f2, f3, f4, f5⟩ := (show _ ∧ _ ∧ _ ∧ _ ∧ _ ∧ _ from ⟨BoxN.frozen HR4.out 0, BoxN.frozen HR4.out 1, BoxN.frozen HR4.out 2, BoxN.frozen HR4.out 3, BoxN.frozen HR4.out 4, BoxN.frozen HR4.out 5⟩)
  have hL0 := HL0.out
  go_wp2_with fail
  refine bodyPost_ret (v := .agg #[.slice (some ⟨g, 0, none⟩) n n, .slice (some ⟨g', 0, none⟩) n' n', .int .i64 ep, .int .i64 nx, .slice (some ⟨gu, 0, none⟩) un un, .slice (some ⟨gh, 0, none⟩) hn hn]) (by simp [results, Tryz.f7, go_sem, r0, r1, r2, r3, r4, r5]) rfl ?_
  refine ⟨⟨g, g', gu, l', gh, rfl, ((((((HS4.out.setLow (by omega) _).setLow (by omega) _).setLow (by omega) _).setLow (by omega) _).setLow (by omega) _).setLow (by omega) _).low (by omega), ((((((HH4.out.setLow (by omega) _).setLow (by omega) _).setLow (by omega) _).setLow (by omega) _).setLow (by omega) _).setLow (by omega) _).low (by omega), HLm.out.1, HLm.out.2, HIn.out, by omega⟩, ?_⟩
  exact ((((((HB4.out.setCell (by dsimp only; omega) _).setCell (by dsimp only; omega) _).setCell (by dsimp only; omega) _).setCell (by dsimp only; omega) _).setCell (by dsimp only; omega) _).setCell (by dsimp only; omega) _)

theorem toServer_any (a : Option Addr) (n ca : Nat) (X : List ByteArray) (a' : Option Addr) (n' ca' : Nat) (Y : List ByteArray) (ep nx : Int) (ua : Option Addr) (un uc : Nat) (l : List UE) (ha : Option Addr) (hn hc : Nat) (hs : List Hd) (w : World) (h1 : Strs w a n X) (h2 : Strs w a' n' Y) (hu : UpsI w ua un l) (hh : Helds w ha hn hs) (hsz : SzS n X n' Y un l) (hhn : hn ≤ 1048576) :
    Calls Tryz.prog 7 #[.agg #[.slice a n ca, .slice a' n' ca', .int .i64 ep, .int .i64 nx, .slice ua un uc, .slice ha hn hc]] w fun r w' => (∃ g g' gu l' gh, r = .returned (.agg #[.slice (some ⟨g, 0, none⟩) n n, .slice (some ⟨g', 0, none⟩) n' n', .int .i64 ep, .int .i64 nx, .slice (some ⟨gu, 0, none⟩) un un, .slice (some ⟨gh, 0, none⟩) hn hn]) ∧ StoAt w' w.heap.size (some ⟨g, 0, none⟩) n n X (some ⟨g', 0, none⟩) n' n' Y (some ⟨gu, 0, none⟩) un un l' ∧ OwnH w' w.heap.size (some ⟨gh, 0, none⟩) hn hn hs ∧ l'.map UE.u = l.map UE.u ∧ ∀ e ∈ l', e.n ≤ 1048576) ∧ Below w.heap.size w w' :=
  (toServer_in a n ca X a' n' ca' Y ep nx ua un uc l ha hn hc hs w h1 h2 hu hh hsz hhn).mono (fun r w' ⟨⟨g, g', gu, l', gh, h1, h2, h3, h4, h5, _⟩, hb⟩ => ⟨⟨g, g', gu, l', gh, h1, h2, h3, h4, h5⟩, hb⟩)

end Go.Proofs.YtclkfjlnhcccdaaGreatDoor

namespace Go.Proofs.YtclkfjlnhcccdaaGreatDoor
open Go.RowKit
set_option linter.unusedVariables false

set_option maxRecDepth 10000 in
set_option maxHeartbeats 1600000 in
theorem eqUp_same (x y : UE) (w : World) (hx : Seg w x.a x.n x.u.zs) (hy : Seg w y.a y.n y.u.zs) (hu : x.u = y.u) (hl : x.n ≤ 1099511627776) :
    Calls Tryz.prog 88 #[.agg #[.string x.u.id, .int .i64 x.u.want, .slice x.a x.n x.c, .bool x.u.done], .agg #[.string y.u.id, .int .i64 y.u.want, .slice y.a y.n y.c, .bool y.u.done]] w fun r w' => r = .returned (.bool true) ∧ Below w.heap.size w w' := by
  obtain ⟨u, a, n, c⟩ := x
  obtain ⟨u', b, m, d⟩ := y
  dsimp only at *
  subst hu
  obtain rfl : n = m := by rw [← hx.1, ← hy.1]
  have HX : Hid (Seg w a n u.zs) := hx
  have HY : Hid (Seg w b n u.zs) := hy
  clear hx hy
  have n1 : (u.want != u.want) = false := by simp
  have n2 : (u.id.toList != u.id.toList) = false := by simp
  have n3 : (u.done != u.done) = false := by simp
  go_enter Tryz.func88, Tryz.ntmps88
  go_wp2_with fail
  have hba : Below w.heap.size w ((w.alloc (.cells #[.string u.id, .int .i64 u.want, .slice a n c, .bool u.done] 112)).alloc (.cells #[.string u.id, .int .i64 u.want, .slice b n d, .bool u.done] 112)) := ((Below.refl _ _).alloc (Nat.le_refl _) _).alloc (by simp) _
  refine (eqByteS_same a b n c d u.zs _ (HX.out.below hba) (HY.out.below hba) hl).mono ?_
  rintro r x3 ⟨rfl, st3⟩
  have HB3 : Hid (Below w.heap.size w x3) := Still.below st3 hba
  clear hba
  obtain ⟨k, hk⟩ := st3
  subst hk
  go_wp2
  go_ret
  exact ⟨rfl, HB3.out⟩

set_option maxRecDepth 10000 in
set_option maxHeartbeats 1600000 in
theorem eqUpS_same (a : Option Addr) (n c lo : Nat) (l : List UE) (b : Option Addr) (m d lo' : Nat) (l' : List UE) (w : World) (h : UpRow w lo (.slice a n c) l) (h' : UpRow w lo' (.slice b m d) l') (hn : n = l.length) (hm : m = l'.length) (he : l.map UE.u = l'.map UE.u) (hl : n ≤ 1099511627776) (hz : ∀ e ∈ l, e.n ≤ 1099511627776) :
    Calls Tryz.prog 56 #[.slice a n c, .slice b m d] w fun e w' => e = .returned (.bool true) ∧ Below w.heap.size w w' := by
  obtain rfl : n = m := by
    have := congrArg List.length he
    rw [List.length_map, List.length_map] at this
    omega
  have HX : Hid (∀ W, Below w.heap.size w W → UpRow W lo (.slice a n c) l ∧ UpRow W lo' (.slice b n d) l') := fun W hb => ⟨h.stays hb, h'.stays hb⟩
  have HN : Hid (n = l.length) := hn
  have HM : Hid (n = l'.length) := hm
  have HE : Hid (l.map UE.u = l'.map UE.u) := he
  have HZ : Hid (∀ e ∈ l, e.n ≤ 1099511627776) := hz
  clear h h' hn hm he hz
  have hne : ((n : Int) != (n : Int)) = false := by simp
  go_enter Tryz.func56, Tryz.ntmps56
  go_wp2
  go_loopw [5] (fun i wr => ∃ k : Nat, k ≤ n ∧ i = .int .i64 k ∧ Hid (Below w.heap.size w wr)) (fun i _ => n - (intOf i).toNat)
  case atStart => exact ⟨0, Nat.zero_le _, rfl, Below.refl _ _⟩
  case round =>
    obtain ⟨k, hk, rfl, HW⟩ := hrel
    by_cases hlt : k < n
    · have hkl : k < l.length := by rw [← HN.out]; exact hlt
      have hkm : k < l'.length := by rw [← HM.out]; exact hlt
      obtain ⟨g, rfl, g0, g1, g2, g3, _⟩ := (HX.out _ HW.out).1.at HN.out hkl
      obtain ⟨q, rfl, q0, q1, q2, q3, _⟩ := (HX.out _ HW.out).2.at HM.out hkm
      have HU : Hid ((l[k]).u = (l'[k]).u) := by
        show _ = _
        have h1 := congrArg (fun z => z[k]?) HE.out
        simpa only [List.getElem?_map, List.getElem?_eq_getElem hkl, List.getElem?_eq_getElem hkm, Option.map_some, Option.some.injEq] using h1
      have HC : Hid (∀ P : Past wr, Calls Tryz.prog 88 #[.agg #[.string (l[k]).u.id, .int .i64 (l[k]).u.want, .slice (l[k]).a (l[k]).n (l[k]).c, .bool (l[k]).u.done], .agg #[.string (l'[k]).u.id, .int .i64 (l'[k]).u.want, .slice (l'[k]).a (l'[k]).n (l'[k]).c, .bool (l'[k]).u.done]] P.world fun r w' => r = .returned (.bool true) ∧ Below P.world.heap.size P.world w') := fun P => by
        have hb := HW.out.trans (P.below.mono HW.out.size)
        exact eqUp_same (l[k]) (l'[k]) P.world ((HX.out _ hb).1.2.1 _ (List.getElem_mem hkl)).seg ((HX.out _ hb).2.2.1 _ (List.getElem_mem hkm)).seg HU.out (HZ.out _ (List.getElem_mem hkl))
      have hki : (k : Int) < (n : Int) := by omega
      have hk0 : (0 : Int) ≤ (k : Int) := by omega
      have hgl := lt_of_cell g0
      have hql := lt_of_cell q0
      have x0 : ∀ P : Past wr, P.world.cell? ⟨g, k * 4, none⟩ = some (.string (l[k]).u.id) := fun P => P.cell hgl g0
      have x1 : ∀ P : Past wr, P.world.cell? ⟨g, k * 4 + 1, none⟩ = some (.int .i64 (l[k]).u.want) := fun P => P.cell hgl g1
      have x2 : ∀ P : Past wr, P.world.cell? ⟨g, k * 4 + 2, none⟩ = some (.slice (l[k]).a (l[k]).n (l[k]).c) := fun P => P.cell hgl g2
      have x3 : ∀ P : Past wr, P.world.cell? ⟨g, k * 4 + 3, none⟩ = some (.bool (l[k]).u.done) := fun P => P.cell hgl g3
      have y0 : ∀ P : Past wr, P.world.cell? ⟨q, k * 4, none⟩ = some (.string (l'[k]).u.id) := fun P => P.cell hql q0
      have y1 : ∀ P : Past wr, P.world.cell? ⟨q, k * 4 + 1, none⟩ = some (.int .i64 (l'[k]).u.want) := fun P => P.cell hql q1
      have y2 : ∀ P : Past wr, P.world.cell? ⟨q, k * 4 + 2, none⟩ = some (.slice (l'[k]).a (l'[k]).n (l'[k]).c) := fun P => P.cell hql q2
      have y3 : ∀ P : Past wr, P.world.cell? ⟨q, k * 4 + 3, none⟩ = some (.bool (l'[k]).u.done) := fun P => P.cell hql q3
      have hnp := past_some wr
      clear g0 g1 g2 g3 q0 q1 q2 q3 HU
      generalize l[k] = x at *
      generalize l'[k] = y at *
      go_wp2_with fail
      refine wp_region_past (by kernel_rfl) (by kernel_rfl) ?_
      repeat (quiet_step ((first | (go_at_call 88; with_reducible exact calls_past (HC.out _)) | fail)))
      refine wpQuiet_nil ?_
      rintro _ ⟨z, rfl⟩
      have HB3 : Hid (Below w.heap.size w z.world) := HW.out.trans (z.below.mono HW.out.size)
      go_wp2
      go_roundw
      case rel => exact ⟨k + 1, by omega, by go_num, HB3⟩
      case measure => simp [intOf]; omega
    · go_wp2
      go_ret
      exact ⟨rfl, HW.out⟩

end Go.Proofs.YtclkfjlnhcccdaaGreatDoor

namespace Go.Proofs.YtclkfjlnhcccdaaGreatDoor
open Go.RowKit
set_option linter.unusedVariables false

set_option maxRecDepth 10000 in
set_option maxHeartbeats 1600000 in
theorem eqStore_same (a b : Option Addr) (n ca cb : Nat) (X : List ByteArray) (a' b' : Option Addr) (n' ca' cb' : Nat) (Y : List ByteArray) (ep nx : Int) (ua : Option Addr) (un uc lo : Nat) (l : List UE) (va : Option Addr) (vn vc lo' : Nat) (l' : List UE) (w : World) (h1 : Strs w a n X) (h2 : Strs w b n X) (h3 : Strs w a' n' Y) (h4 : Strs w b' n' Y) (hu : UpRow w lo (.slice ua un uc) l) (hv : UpRow w lo' (.slice va vn vc) l') (hun : un = l.length) (hvn : vn = l'.length) (he : l.map UE.u = l'.map UE.u) (hn : n ≤ 1099511627776) (hn' : n' ≤ 1099511627776) (hul : un ≤ 1099511627776) (hz : ∀ e ∈ l, e.n ≤ 1099511627776) :
    Calls Tryz.prog 32 #[.agg #[.slice a n ca, .slice a' n' ca', .int .i64 ep, .int .i64 nx, .slice ua un uc], .agg #[.slice b n cb, .slice b' n' cb', .int .i64 ep, .int .i64 nx, .slice va vn vc]] w fun r w' => r = .returned (.bool true) ∧ Below w.heap.size w w' := by
  obtain ⟨w0, hw0⟩ : ∃ w0, (w.alloc (.cells #[.slice a n ca, .slice a' n' ca', .int .i64 ep, .int .i64 nx, .slice ua un uc] 35)).alloc (.cells #[.slice b n cb, .slice b' n' cb', .int .i64 ep, .int .i64 nx, .slice va vn vc] 35) = w0 := ⟨_, rfl⟩
  have HE : Hid ((w.alloc (.cells #[.slice a n ca, .slice a' n' ca', .int .i64 ep, .int .i64 nx, .slice ua un uc] 35)).alloc (.cells #[.slice b n cb, .slice b' n' cb', .int .i64 ep, .int .i64 nx, .slice va vn vc] 35) = w0) := hw0
  have HB : Hid (Below w.heap.size w w0) := by show Below _ _ _; rw [← hw0]; exact ((Below.refl _ _).alloc (Nat.le_refl _) _).alloc (by simp) _
  have HP : Hid (BoxN w0 w.heap.size 35 [.slice a n ca, .slice a' n' ca', .int .i64 ep, .int .i64 nx, .slice ua un uc]) := by show BoxN _ _ _ _; rw [← hw0]; exact (BoxN.new _ _ _).alloc _
  have HQ : Hid (BoxN w0 (w.heap.size + 1) 35 [.slice b n cb, .slice b' n' cb', .int .i64 ep, .int .i64 nx, .slice va vn vc]) := by
    show BoxN _ _ _ _
    rw [← hw0]
    have := BoxN.new (w.alloc (.cells #[.slice a n ca, .slice a' n' ca', .int .i64 ep, .int .i64 nx, .slice ua un uc] 35)) 35 [.slice b n cb, .slice b' n' cb', .int .i64 ep, .int .i64 nx, .slice va vn vc]
    rw [World.size_alloc] at this
    exact this
  have HX : Hid (∀ W, Below w0.heap.size w0 W → BoxN W w.heap.size 35 [.slice a n ca, .slice a' n' ca', .int .i64 ep, .int .i64 nx, .slice ua un uc] ∧ BoxN W (w.heap.size + 1) 35 [.slice b n cb, .slice b' n' cb', .int .i64 ep, .int .i64 nx, .slice va vn vc] ∧ Strs W a n X ∧ Strs W b n X ∧ Strs W a' n' Y ∧ Strs W b' n' Y ∧ UpRow W lo (.slice ua un uc) l ∧ UpRow W lo' (.slice va vn vc) l' ∧ Below w.heap.size w W) := fun W hb => ⟨HP.out.stays hb, HQ.out.stays hb, (h1.below HB.out).below hb, (h2.below HB.out).below hb, (h3.below HB.out).below hb, (h4.below HB.out).below hb, (hu.stays HB.out).stays hb, (hv.stays HB.out).stays hb, HB.out.trans (hb.mono HB.out.size)⟩
  have HU : Hid (un = l.length ∧ vn = l'.length ∧ l.map UE.u = l'.map UE.u ∧ ∀ e ∈ l, e.n ≤ 1099511627776) := ⟨hun, hvn, he, hz⟩
  clear hw0 HB HP HQ h1 h2 h3 h4 hu hv hun hvn he hz
  have HA0 : Hid (Below w0.heap.size w0 w0) := Below.refl _ _
  have x0 := (HX.out _ HA0.out).1.cell 0 rfl
  have x1 := (HX.out _ HA0.out).1.cell 1 rfl
  have y0 := (HX.out _ HA0.out).2.1.cell 0 rfl
  have y1 := (HX.out _ HA0.out).2.1.cell 1 rfl
  have ne1 : (ep != ep) = false := by simp
  have ne2 : (nx != nx) = false := by simp
  go_enter Tryz.func32, Tryz.ntmps32
  go_upto_region 1 with fail
  rw [HE.out]
  clear HE
  go_wp2_with fail
  refine (eqDisk_same a b n ca cb X a' b' n' ca' cb' Y w0 (HX.out _ HA0.out).2.2.1 (HX.out _ HA0.out).2.2.2.1 (HX.out _ HA0.out).2.2.2.2.1 (HX.out _ HA0.out).2.2.2.2.2.1 hn hn').mono ?_
  rintro _ W1 ⟨rfl, hb1⟩
  have HB1 : Hid (Below w0.heap.size w0 W1) := hb1
  clear hb1 x0 x1 y0 y1
  have c2 := (HX.out _ HB1.out).1.cell 2 rfl
  have c3 := (HX.out _ HB1.out).1.cell 3 rfl
  have c4 := (HX.out _ HB1.out).1.cell 4 rfl
  have d2 := (HX.out _ HB1.out).2.1.cell 2 rfl
  have d3 := (HX.out _ HB1.out).2.1.cell 3 rfl
  have d4 := (HX.out _ HB1.out).2.1.cell 4 rfl
  go_wp2_with fail
  refine (eqUpS_same ua un uc lo l va vn vc lo' l' W1 (HX.out _ HB1.out).2.2.2.2.2.2.1 (HX.out _ HB1.out).2.2.2.2.2.2.2.1 HU.out.1 HU.out.2.1 HU.out.2.2.1 hul HU.out.2.2.2).mono ?_
  rintro _ W2 ⟨rfl, hb2⟩
  have HB2 : Hid (Below w.heap.size w W2) := (HX.out _ (HB1.out.trans (hb2.mono HB1.out.size))).2.2.2.2.2.2.2.2
  clear hb2
  go_wp2_with fail
  go_ret
  exact ⟨rfl, HB2.out⟩

end Go.Proofs.YtclkfjlnhcccdaaGreatDoor

namespace Go.Proofs.YtclkfjlnhcccdaaGreatDoor
open Go.RowKit
set_option linter.unusedVariables false

set_option maxRecDepth 10000 in
theorem eqResp_same (st off : Int) (w : World) :
    Calls Tryz.prog 57 #[.agg #[.int .i64 st, .int .i64 off], .agg #[.int .i64 st, .int .i64 off]] w fun e w' => e = .returned (.bool true) ∧ Below w.heap.size w w' := by
  have h1 : (st != st) = false := by simp
  have h3 : (off != off) = false := by simp
  go_enter Tryz.func57, Tryz.ntmps57
  go_wp2
  go_ret
  exact ⟨rfl, ((Below.refl _ _).alloc (Nat.le_refl _) _).alloc (by simp) _⟩

end Go.Proofs.YtclkfjlnhcccdaaGreatDoor
