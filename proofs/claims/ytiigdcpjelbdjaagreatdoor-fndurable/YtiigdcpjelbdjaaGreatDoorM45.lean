/- What the program's dataRecs answers: the records of pieces, whose bytes lie where they were. What the program's putCode answers. What the program's PutUp answers. What the program's OpenStore answers. What the program's UpAt answers. What the program's FallDisk answers. Bytes against themselves. The test that lets greater arguments pass. -/
import Derived.Test.YtiigdcpjelbdjaaGreatDoorM44
import Derived.Test.YtiigdcpjelbdjaaGreatDoorM42
import Derived.Test.YtiigdcpjelbdjaaGreatDoorM20
import Derived.Test.YtiigdcpjelbdjaaGreatDoorM07
import Derived.Test.YtiigdcpjelbdjaaGreatDoorM22
import Derived.RangeFuncBox
import Derived.Deep.CutBlock
import Derived.Test.YtiigdcpjelbdjaaGreatDoorM43
import Derived.Test.YtiigdcpjelbdjaaGreatDoorM08
import Derived.Test.YtiigdcpjelbdjaaGreatDoorM31
import Derived.Test.YtiigdcpjelbdjaaGreatDoorM43
import Derived.Test.YtiigdcpjelbdjaaGreatDoorM27
import Derived.Test.YtiigdcpjelbdjaaGreatDoorM34
import Derived.Test.YtiigdcpjelbdjaaGreatDoorM35
import Derived.Test.YtiigdcpjelbdjaaGreatDoorM40
import Derived.Test.YtiigdcpjelbdjaaGreatDoorM40
import Derived.Test.YtiigdcpjelbdjaaGreatDoorM26
import Derived.Test.YtiigdcpjelbdjaaGreatDoorM05
import Derived.Test.YtiigdcpjelbdjaaGreatDoorM23
import Derived.Test.YtiigdcpjelbdjaaGreatDoorM04
import Derived.Test.YtiigdcpjelbdjaaGreatDoorM09
import Derived.WalkMore
import Derived.Deep.RegionHeld3
import Derived.Test.YtiigdcpjelbdjaaGreatDoorM01
import Derived.Deep.QuietTactic
namespace Go.Proofs.YtiigdcpjelbdjaaGreatDoor
open Go.RowKit Go.Shelf
set_option linter.unusedVariables false
attribute [local go_sem] Oper.semAt_some

/-- The record of a piece, in the row. -/
def pieceE (id : ByteArray) (off : Int) (zs : List Int) (b o L i : Nat) : RE := ⟨dataR id off zs i, some ⟨b, pcAt o 24 i, none⟩, pcLen 24 L i, pcLen 24 L i⟩
def pieceL (id : ByteArray) (off : Int) (zs : List Int) (b o L k : Nat) : List RE := (List.range k).map (pieceE id off zs b o L)

theorem pieceL_len (id : ByteArray) (off : Int) (zs : List Int) (b o L k : Nat) : (pieceL id off zs b o L k).length = k := by simp [pieceL]

theorem pieceL_succ (id : ByteArray) (off : Int) (zs : List Int) (b o L k : Nat) : reCells (pieceL id off zs b o L (k + 1)) = reCells (pieceL id off zs b o L k) ++ RE.cells (pieceE id off zs b o L k) := by
  rw [pieceL, List.range_succ, List.map_append, reCells_append]
  simp [pieceL, reCells]

theorem pieceL_recs (id : ByteArray) (off : Int) (zs : List Int) (b o L : Nat) : (pieceL id off zs b o L (pcs zs.length)).map RE.r = dataRs id off zs := by
  rw [pieceL, dataRs, List.map_map]
  rfl

theorem rcsI_of_row {W : World} {base g n c : Nat} {l : List RE} (h : W.ownsRow base 54 6 (.slice (some ⟨g, 0, none⟩) n c) n (reCells l)) (hn : l.length = n) (hs : ∀ e ∈ l, Seg W e.a e.n e.r.zs) : RcsI W (some ⟨g, 0, none⟩) n l := by
  refine ⟨hn, hs, .inr ⟨g, 0, rfl, (h.lt g rfl).2, fun i hi => ?_⟩⟩
  have hl := reCells_len l
  obtain ⟨h0, h1, h2, h3, h4, h5⟩ := reCells_at l i hi
  simp only [Nat.zero_add]
  refine ⟨?_, ?_, ?_, ?_, ?_, ?_⟩
  · rw [h.cellAt _ (by omega)]; exact h0
  · rw [h.cellAt _ (by omega)]; exact h1
  · rw [h.cellAt _ (by omega)]; exact h2
  · rw [h.cellAt _ (by omega)]; exact h3
  · rw [h.cellAt _ (by omega)]; exact h4
  · rw [h.cellAt _ (by omega)]; exact h5

set_option maxRecDepth 10000 in
set_option maxHeartbeats 1600000 in
theorem implDataRs_any (id : ByteArray) (off : Int) (b o L C : Nat) (zs : List Int) (w : World) (hs : Seg w (some ⟨b, o, none⟩) L zs) (hC : L ≤ C) (hL : L ≤ 400) (hL1 : 1 ≤ L) (ho : 0 ≤ off ∧ off ≤ 1000000000) :
    Calls Tryz.prog 23 #[.string id, .int .i64 off, .slice (some ⟨b, o, none⟩) L C] w fun e w' => (∃ ra c l, e = .returned (.slice ra (pcs L) c) ∧ RcsI w' ra (pcs L) l ∧ l.map RE.r = dataRs id off zs) ∧ Below w.heap.size w w' := by
  obtain ⟨i0, hi, hz0, hz1, hz2⟩ := info_parts info_rec
  have HS : Hid (Seg w (some ⟨b, o, none⟩) L zs) := hs
  have hzl : zs.length = L := hs.1
  have HZl : Hid (zs.length = L) := hzl
  obtain ⟨n, hn⟩ : ∃ n, pcs L = n := ⟨_, rfl⟩
  have hn17 : 1 ≤ n ∧ n ≤ 17 := by rw [← hn, pcs]; omega
  have HN : Hid (∀ k, k * 24 < L → (¬ (k + 1) * 24 < L → n = k + 1)) := fun k h1 h2 => by rw [← hn, pcs]; omega
  have HNl : Hid (∀ k, k * 24 < L → k < n) := fun k h => by rw [← hn, pcs]; omega
  have HNn : Hid (pcs L = n) := hn
  have HPl : Hid (∀ k, (k + 1) * 24 < L → k * 24 + pcLen 24 L k = (k + 1) * 24) := fun k h => by unfold pcLen; omega
  rw [hn]
  clear hs hn hzl
  obtain ⟨W2, hW2⟩ : ∃ W2, ((((w.alloc (.cells #[.string id] 9)).alloc (.cells #[.int .i64 off] 3)).alloc (.cells #[.slice none 0 0] 56)).alloc (.cells #[.slice (some ⟨b, o, none⟩) L C] 22)).alloc (.cells #[.int .i64 24] 3) = W2 := ⟨_, rfl⟩
  have HE : Hid (((((w.alloc (.cells #[.string id] 9)).alloc (.cells #[.int .i64 off] 3)).alloc (.cells #[.slice none 0 0] 56)).alloc (.cells #[.slice (some ⟨b, o, none⟩) L C] 22)).alloc (.cells #[.int .i64 24] 3) = W2) := hW2
  have hsz : W2.heap.size = w.heap.size + 5 := by rw [← hW2]; simp
  have bI : Boxed W2 w.heap.size 9 (.string id) := by rw [← hW2]; exact ((((Boxed.new _ _ _).alloc _).alloc _).alloc _).alloc _
  have bO : Boxed W2 (w.heap.size + 1) 3 (.int .i64 off) := by
    rw [← hW2]
    have := (((Boxed.new (w.alloc (.cells #[.string id] 9)) 3 (.int .i64 off)).alloc (.cells #[.slice none 0 0] 56)).alloc (.cells #[.slice (some ⟨b, o, none⟩) L C] 22)).alloc (.cells #[.int .i64 24] 3)
    rwa [World.size_alloc] at this
  have bL : Boxed W2 (w.heap.size + 2) 56 (.slice none 0 0) := by
    rw [← hW2]
    have := ((Boxed.new ((w.alloc (.cells #[.string id] 9)).alloc (.cells #[.int .i64 off] 3)) 56 (.slice none 0 0)).alloc (.cells #[.slice (some ⟨b, o, none⟩) L C] 22)).alloc (.cells #[.int .i64 24] 3)
    rwa [World.size_alloc, World.size_alloc] at this
  have bS : Boxed W2 (w.heap.size + 3) 22 (.slice (some ⟨b, o, none⟩) L C) := by
    rw [← hW2]
    have := (Boxed.new (((w.alloc (.cells #[.string id] 9)).alloc (.cells #[.int .i64 off] 3)).alloc (.cells #[.slice none 0 0] 56)) 22 (.slice (some ⟨b, o, none⟩) L C)).alloc (.cells #[.int .i64 24] 3)
    rwa [World.size_alloc, World.size_alloc, World.size_alloc] at this
  have bN : Boxed W2 (w.heap.size + 4) 3 (.int .i64 24) := by
    rw [← hW2]
    have := Boxed.new ((((w.alloc (.cells #[.string id] 9)).alloc (.cells #[.int .i64 off] 3)).alloc (.cells #[.slice none 0 0] 56)).alloc (.cells #[.slice (some ⟨b, o, none⟩) L C] 22)) 3 (.int .i64 24)
    rwa [World.size_alloc, World.size_alloc, World.size_alloc, World.size_alloc] at this
  have hBl : Below w.heap.size w W2 := by rw [← hW2]; exact (((((Below.refl _ _).alloc (Nat.le_refl _) _).alloc (by simp) _).alloc (by simp; omega) _).alloc (by simp; omega) _).alloc (by simp; omega) _
  have HI0 : Hid ((∃ u, Boxed W2 (w.heap.size + 2) 56 u ∧ W2.ownsRow w.heap.size 54 6 u 0 (reCells (pieceL id off zs b o L 0)) ∧ True) ∧ Boxed W2 (w.heap.size + 1) 3 (.int .i64 (off + ((0 * 24 : Nat) : Int))) ∧ Boxed W2 w.heap.size 9 (.string id) ∧ Boxed W2 (w.heap.size + 3) 22 (.slice (some ⟨b, o, none⟩) L C) ∧ Boxed W2 (w.heap.size + 4) 3 (.int .i64 24) ∧ True ∧ Below w.heap.size w W2) := by
    refine ⟨⟨_, bL, ⟨rfl, .inl ⟨rfl, rfl⟩⟩, trivial⟩, ?_, bI, bS, bN, trivial, hBl⟩
    have e : off + ((0 * 24 : Nat) : Int) = off := by simp
    rw [e]
    exact bO
  clear hW2 bI bO bL bS bN hBl
  refine (callsIn_wide (n := 4)).1 ?_
  refine callsIn_of_wp_marks Tryz.func23 rfl trivial ?_ rfl
  simp only [Tryz.ntmps23, List.size_toArray, List.length_cons, List.length_nil, Nat.reduceAdd, Nat.reduceSub, Array.replicate_succ, Array.replicate_zero, List.push_toArray, List.append_toArray, List.nil_append, List.cons_append]
  refine wpIn_wide.2 ?_
  go_wp2_with (go_at_call 45; refine (callsIn_wide.1 (chunk_any _ _ _ 24 _ 4 (by decide))).mono ?_; rintro e w5 ⟨rfl, rfl⟩)
  rw [HE.out]
  clear HE
  refine (wpIn_wide (n := 4)).1 ?_
  refine loop_turns (n := 4) rfl (by decide) (gf := 73) (lb := #[.pointer (some ⟨w.heap.size + 3, 0, none⟩), .pointer (some ⟨w.heap.size + 4, 0, none⟩)]) rfl trivial (enters_of Tryz.func73 (by kernel_rfl) rfl) (encC b o 24 L) (fun _ => rfl)
    (fun (k : Nat) W => (∃ u, Boxed W (w.heap.size + 2) 56 u ∧ W.ownsRow w.heap.size 54 6 u k (reCells (pieceL id off zs b o L k)) ∧ True) ∧ Boxed W (w.heap.size + 1) 3 (.int .i64 (off + ((k * 24 : Nat) : Int))) ∧ Boxed W w.heap.size 9 (.string id) ∧ Boxed W (w.heap.size + 3) 22 (.slice (some ⟨b, o, none⟩) L C) ∧ Boxed W (w.heap.size + 4) 3 (.int .i64 24) ∧ k * 24 < L ∧ Below w.heap.size w W)
    (fun (k : Nat) W => (∃ u, Boxed W (w.heap.size + 2) 56 u ∧ W.ownsRow w.heap.size 54 6 u (k + 1) (reCells (pieceL id off zs b o L (k + 1))) ∧ True) ∧ Boxed W (w.heap.size + 1) 3 (.int .i64 (off + ((k * 24 + pcLen 24 L k : Nat) : Int))) ∧ Boxed W w.heap.size 9 (.string id) ∧ Boxed W (w.heap.size + 3) 22 (.slice (some ⟨b, o, none⟩) L C) ∧ Boxed W (w.heap.size + 4) 3 (.int .i64 24) ∧ k * 24 < L ∧ Below w.heap.size w W)
    (fun _ _ _ => False)
    (fun (_ : Nat) W => (∃ u, Boxed W (w.heap.size + 2) 56 u ∧ W.ownsRow w.heap.size 54 6 u n (reCells (pieceL id off zs b o L n)) ∧ True) ∧ Below w.heap.size w W)
    (fun W => (∃ u, Boxed W (w.heap.size + 2) 56 u ∧ W.ownsRow w.heap.size 54 6 u 0 (reCells (pieceL id off zs b o L 0)) ∧ True) ∧ Boxed W (w.heap.size + 1) 3 (.int .i64 (off + ((0 * 24 : Nat) : Int))) ∧ Boxed W w.heap.size 9 (.string id) ∧ Boxed W (w.heap.size + 3) 22 (.slice (some ⟨b, o, none⟩) L C) ∧ Boxed W (w.heap.size + 4) 3 (.int .i64 24) ∧ True ∧ Below w.heap.size w W)
    (chunk_iter 3 _ (w.heap.size + 3) (w.heap.size + 4) b o L C 24 (by decide) (by omega) hC (by decide) (by decide) _ _ _ _ _
      (fun W h => ⟨h.2.2.2.1, h.2.2.2.2.1, fun h0 => ⟨h.1, h.2.1, h.2.2.1, h.2.2.2.1, h.2.2.2.2.1, by omega, h.2.2.2.2.2.2⟩, fun h0 => absurd (by omega) h0⟩)
      (fun k W h => ⟨h.1, h.2.1, h.2.2.1, h.2.2.2.1, h.2.2.2.2.1, h.2.2.2.2.2.1, h.2.2.2.2.2.2.drew⟩)
      (fun k W h => ⟨h.2.2.2.1, h.2.2.2.2.1⟩)
      (fun k W h => ⟨h.2.2.2.1, h.2.2.2.2.1, fun h0 => ⟨h.1, (HPl.out k h0) ▸ h.2.1, h.2.2.1, h.2.2.2.1, h.2.2.2.2.1, h0, h.2.2.2.2.2.2⟩, fun h0 => ⟨by rw [HN.out k h.2.2.2.2.2.1 h0]; exact h.1, h.2.2.2.2.2.2⟩⟩))
    (OwnFrom.and (Own.from (holdsRow_own w.heap.size (w.heap.size + 2) 56 54 6 (fun k : Nat => k) (fun k : Nat => reCells (pieceL id off zs b o L k)) (fun _ _ => True)) _) (OwnFrom.and (Own.from (boxed_own _ _ (fun k : Nat => .int .i64 (off + ((k * 24 : Nat) : Int)))) _) (OwnFrom.and (Own.from (boxed_own _ _ (fun k : Nat => .string id)) _) (OwnFrom.and (Own.from (boxed_own _ _ (fun k : Nat => .slice (some ⟨b, o, none⟩) L C)) _) (OwnFrom.and (Own.from (boxed_own _ _ (fun k : Nat => .int .i64 24)) _) (OwnFrom.and (ownFrom_pure _ (fun k : Nat => k * 24 < L)) (ownFrom_below (Nat.le_refl _) (by omega))))))))
    (OwnFrom.and (Own.from (holdsRow_own w.heap.size (w.heap.size + 2) 56 54 6 (fun k : Nat => k + 1) (fun k : Nat => reCells (pieceL id off zs b o L (k + 1))) (fun _ _ => True)) _) (OwnFrom.and (Own.from (boxed_own _ _ (fun k : Nat => .int .i64 (off + ((k * 24 + pcLen 24 L k : Nat) : Int)))) _) (OwnFrom.and (Own.from (boxed_own _ _ (fun k : Nat => .string id)) _) (OwnFrom.and (Own.from (boxed_own _ _ (fun k : Nat => .slice (some ⟨b, o, none⟩) L C)) _) (OwnFrom.and (Own.from (boxed_own _ _ (fun k : Nat => .int .i64 24)) _) (OwnFrom.and (ownFrom_pure _ (fun k : Nat => k * 24 < L)) (ownFrom_below (Nat.le_refl _) (by omega))))))))
    (fun c s W W' row hs hg hr => hs)
    (OwnFrom.and (Own.from (holdsRow_own w.heap.size (w.heap.size + 2) 56 54 6 (fun k : Nat => n) (fun k : Nat => reCells (pieceL id off zs b o L n)) (fun _ _ => True)) _) (ownFrom_below (Nat.le_refl _) (by omega)))
    (OwnFrom.and (Own.from (holdsRow_own w.heap.size (w.heap.size + 2) 56 54 6 (fun _ : Unit => 0) (fun _ : Unit => reCells (pieceL id off zs b o L 0)) (fun _ _ => True)) _) (OwnFrom.and (Own.from (boxed_own _ _ (fun _ : Unit => .int .i64 (off + ((0 * 24 : Nat) : Int)))) _) (OwnFrom.and (Own.from (boxed_own _ _ (fun _ : Unit => .string id)) _) (OwnFrom.and (Own.from (boxed_own _ _ (fun _ : Unit => .slice (some ⟨b, o, none⟩) L C)) _) (OwnFrom.and (Own.from (boxed_own _ _ (fun _ : Unit => .int .i64 24)) _) (OwnFrom.and (ownFrom_pure _ (fun _ : Unit => True)) (ownFrom_below (Nat.le_refl _) (by omega))))))))
    HI0.out ?frame ?assign ?body ?done ?stop
  case assign =>
    intro l s W K hK
    gi_wp2
    exact hK
  case body =>
    rintro l k W ⟨⟨u, hu, hrow, _⟩, hbO, hbI, hbS, hbN, hk, hB⟩
    have hkn : k < n := HNl.out k hk
    have hc := hu.cell
    have hcO := hbO.cell
    have hcI := hbI.cell
    have hszW := hB.size
    obtain ⟨A0, hA0⟩ : ∃ A0, pcAt o 24 k = A0 := ⟨_, rfl⟩
    obtain ⟨pl, hpl⟩ : ∃ pl, pcLen 24 L k = pl := ⟨_, rfl⟩
    have hpl24 : pl ≤ 24 := by rw [← hpl, pcLen]; omega
    obtain ⟨OV, hOV⟩ : ∃ OV, off + ((k * 24 : Nat) : Int) = OV := ⟨_, rfl⟩
    rw [hOV] at hcO hbO
    have HE2 : Hid (reCells (pieceL id off zs b o L k) ++ [.int .i64 0, .int .i64 0, .int .i64 2, .string id, .int .i64 OV, .slice (some ⟨b, A0, none⟩) pl pl] = reCells (pieceL id off zs b o L (k + 1))) := by
      show _ = _
      rw [pieceL_succ, ← hA0, ← hpl, ← hOV, Nat.mul_comm k 24]
      rfl
    have HN2 : Hid (∀ j u, ([.int .i64 0, .int .i64 0, .int .i64 2, .string id, .int .i64 OV, .slice (some ⟨b, A0, none⟩) pl pl] : List Value)[j]? = some u → (W.alloc (.cells #[.int .i64 0, .int .i64 0, .int .i64 2, .string id, .int .i64 OV, .slice (some ⟨b, A0, none⟩) pl pl] 54)).cell? ((⟨W.heap.size, 0, none⟩ : Addr).add j) = some u) := six_new W ⟨0, 0, 2, id, OV, []⟩ (some ⟨b, A0, none⟩) pl pl
    have HO2 : Hid (∀ u ∈ ([.int .i64 0, .int .i64 0, .int .i64 2, .string id, .int .i64 OV, .slice (some ⟨b, A0, none⟩) pl pl] : List Value), u.oneCell' = true) := six_one ⟨0, 0, 2, id, OV, []⟩ (some ⟨b, A0, none⟩) pl pl
    have hOVb : OV + (pl : Int) < 9223372036854775808 ∧ -9223372036854775808 ≤ OV + (pl : Int) := by omega
    obtain ⟨hOV1, hOV2⟩ := hOVb
    have HOV : Hid (off + ((k * 24 + pl : Nat) : Int) = OV + (pl : Int)) := by show _ = _; omega
    simp only [hA0, hpl]
    gi_wp2_with (gi_at_builtin; refine wpListIn_append_own _ rfl _ _ 56 rfl w.heap.size 54 i0 (.agg #[.int .i64 0, .int .i64 0, .int .i64 0, .string ⟨#[]⟩, .int .i64 0, .slice none 0 0]) 6 72 Tryz.underlying56 hi hz0 hz1 hz2 rfl (by decide) _ _ _ rfl (hrow.alloc _) ⟨W.heap.size, 0, none⟩ 1 1 [.int .i64 0, .int .i64 0, .int .i64 2, .string id, .int .i64 OV, .slice (some ⟨b, A0, none⟩) pl pl] rfl rfl HN2.out HO2.out (by unfold maxLen; omega) (by omega) (by simp; omega) ?_; intro v' w1 hown' hgrow _; obtain ⟨g', cap', rfl⟩ := ownsRow_succ hown'; obtain ⟨hv1, hv2, hr2, hk2, hb2⟩ := hu.appended (by decide) hrow hB.size (by omega) hown' hgrow; have hc1 := hv1.cell; have hf1 := hv1.frozen; have hO2 := ((hbO.alloc (.cells #[.int .i64 0, .int .i64 0, .int .i64 2, .string id, .int .i64 OV, .slice (some ⟨b, A0, none⟩) pl pl] 54)).kept hgrow (hbO.not_row (by decide) hrow)).other (B' := w.heap.size + 2) (by omega) (.slice (some ⟨g', 0, none⟩) (k + 1) cap'); have hcO2 := hO2.cell; have hfO2 := hO2.frozen)
    have hI2 := (((hbI.alloc (.cells #[.int .i64 0, .int .i64 0, .int .i64 2, .string id, .int .i64 OV, .slice (some ⟨b, A0, none⟩) pl pl] 54)).kept hgrow (hbI.not_row (by decide) hrow)).other (B' := w.heap.size + 2) (by omega) (.slice (some ⟨g', 0, none⟩) (k + 1) cap')).other (B' := w.heap.size + 1) (by omega) (.int .i64 (OV + (pl : Int)))
    have hS2 := (((hbS.alloc (.cells #[.int .i64 0, .int .i64 0, .int .i64 2, .string id, .int .i64 OV, .slice (some ⟨b, A0, none⟩) pl pl] 54)).kept hgrow (hbS.not_row (by decide) hrow)).other (B' := w.heap.size + 2) (by omega) (.slice (some ⟨g', 0, none⟩) (k + 1) cap')).other (B' := w.heap.size + 1) (by omega) (.int .i64 (OV + (pl : Int)))
    have hN2 := (((hbN.alloc (.cells #[.int .i64 0, .int .i64 0, .int .i64 2, .string id, .int .i64 OV, .slice (some ⟨b, A0, none⟩) pl pl] 54)).kept hgrow (hbN.not_row (by decide) hrow)).other (B' := w.heap.size + 2) (by omega) (.slice (some ⟨g', 0, none⟩) (k + 1) cap')).other (B' := w.heap.size + 1) (by omega) (.int .i64 (OV + (pl : Int)))
    rw [HE2.out] at hr2
    refine ⟨(hk2.trans (KeepsOthers.setCell _ _ _)).from _, ⟨_, hv2.other (by omega) _, hr2.kept (grownBy_setCell' _ (w.heap.size + 1) _) (.inr (hO2.not_row (by decide) hr2).symm), trivial⟩, ?_, hI2, hS2, hN2, hk, (hB.trans hb2).setCell (p := ⟨w.heap.size + 1, 0, none⟩) (by show w.heap.size ≤ w.heap.size + 1; omega) _⟩
    rw [HOV.out]
    exact hO2.set _
  case done =>
    rintro D k W hD ⟨⟨u, hu, hrow, _⟩, hB⟩ hK
    obtain ⟨P, hP⟩ : ∃ P, n = P + 1 := ⟨n - 1, by omega⟩
    rw [hP] at hrow
    obtain ⟨g, cap, rfl⟩ := ownsRow_succ hrow
    have hc := hu.cell
    have HR : Hid (W.ownsRow w.heap.size 54 6 (.slice (some ⟨g, 0, none⟩) (P + 1) cap) (P + 1) (reCells (pieceL id off zs b o L (P + 1)))) := hrow
    have HB : Hid (Below w.heap.size w W) := hB
    have HK : Hid (W.heap[D]? = some (.deferred (some []))) := hK
    have HP : Hid (pcs L = P + 1) := by show _ = _; rw [HNn.out, hP]
    have HSW : Hid (∀ W', Below w.heap.size w W' → ∀ e ∈ pieceL id off zs b o L (P + 1), Seg W' e.a e.n e.r.zs) := fun W' hb e he => by
      obtain ⟨i, hi, rfl⟩ := List.mem_map.1 he
      have hi' := List.mem_range.1 hi
      have h1 := HP.out
      have h2 : pcLen 24 L i = min 24 (L - 24 * i) := by rw [pcLen, Nat.mul_comm]
      have h3 : 24 * i + pcLen 24 L i ≤ L := by rw [h2]; unfold pcs at h1; omega
      have h4 := seg_part (HS.out.below hb) (24 * i) (pcLen 24 L i) h3
      show Seg W' (some ⟨b, pcAt o 24 i, none⟩) (pcLen 24 L i) ((zs.drop (24 * i)).take 24)
      have e1 : (zs.drop (24 * i)).take (pcLen 24 L i) = (zs.drop (24 * i)).take 24 := by
        rw [h2]
        by_cases h5 : 24 ≤ L - 24 * i
        · rw [Nat.min_eq_left h5]
        · rw [Nat.min_eq_right (by omega), List.take_of_length_le (by rw [List.length_drop, HZl.out]; omega), List.take_of_length_le (by rw [List.length_drop, HZl.out]; omega)]
      rw [e1] at h4
      have e2 : pcAt o 24 i = o + 24 * i := by rw [pcAt, Nat.mul_comm]
      rw [e2]
      exact h4
    subst hP
    clear hrow hB hK
    dsimp only
    go_wp2_with fail
    refine ⟨by simp, .inl ⟨_, _, rfl, run_takeDeferred HK.out, ?_⟩⟩
    have hbw : Below w.heap.size w (W.putObj D (.deferred none)) := HB.out.grown (grownBy_putObj' _ D _) HB.out.size (fun q e => by injection e with e; omega)
    refine ⟨_, results_tmp rfl _ _ _, ⟨some ⟨g, 0, none⟩, cap, pieceL id off zs b o L (P + 1), rfl, rcsI_of_row (ownsRow_putObj HR.out _ HK.out rfl) (pieceL_len _ _ _ _ _ _ _) (HSW.out _ hbw), ?_⟩, hbw⟩
    rw [← pieceL_recs id off zs b o L, HZl.out, HP.out]
  case stop =>
    rintro D c s W hD h
    exact h.elim

end Go.Proofs.YtiigdcpjelbdjaaGreatDoor

namespace Go.Proofs.YtiigdcpjelbdjaaGreatDoor
open Go.RowKit
set_option linter.unusedVariables false

set_option maxRecDepth 10000 in
set_option maxHeartbeats 3200000 in
theorem implPutC_any (a : Option Addr) (n ca : Nat) (X : List ByteArray) (a' : Option Addr) (n' ca' : Nat) (Y : List ByteArray) (ep nx : Int) (ua : Option Addr) (un uc lo : Nat) (l : List UE) (id : ByteArray) (off : Int) (da : Option Addr) (dl dc : Nat) (zs : List Int) (w : World) (h1 : Strs w a n X) (h2 : Strs w a' n' Y) (hn : n ≤ 1048576) (hn' : n' ≤ 1048576) (hzx : ∀ x ∈ X, x.size ≤ 1048576) (hu : UpRow w lo (.slice ua un uc) l) (hun : un = l.length) (hul : un ≤ 1048576) (hid : id.size ≤ maxLen) (hsd : Seg w da dl zs) (hdc : dl ≤ dc) (hdl : dl ≤ maxLen) (hsl : SlOk a n ca) (ht : RecT w) (he : ErrN w) :
    Calls Tryz.prog 22 #[.agg #[.slice a n ca, .slice a' n' ca', .int .i64 ep, .int .i64 nx, .slice ua un uc], .string id, .int .i64 off, .slice da dl dc] w fun e w' => e = .returned (.int .i64 (putA X Y ep nx (l.map UE.u) id off zs).c) ∧ Below w.heap.size w w' := by
  have hmm : maxLen < 9223372036854775808 := by decide
  obtain ⟨w0, hw0⟩ : ∃ w0, w.alloc (.cells #[.slice a n ca, .slice a' n' ca', .int .i64 ep, .int .i64 nx, .slice ua un uc] 29) = w0 := ⟨_, rfl⟩
  have HE : Hid (w.alloc (.cells #[.slice a n ca, .slice a' n' ca', .int .i64 ep, .int .i64 nx, .slice ua un uc] 29) = w0) := hw0
  have hB : Below w.heap.size w w0 := by rw [← hw0]; exact (Below.refl _ _).alloc (Nat.le_refl _) _
  have hQ : BoxN w0 w.heap.size 29 [.slice a n ca, .slice a' n' ca', .int .i64 ep, .int .i64 nx, .slice ua un uc] := by rw [← hw0]; exact BoxN.new _ _ _
  have HX : Hid (∀ W, Below w0.heap.size w0 W → BoxN W w.heap.size 29 [.slice a n ca, .slice a' n' ca', .int .i64 ep, .int .i64 nx, .slice ua un uc] ∧ Strs W a n X ∧ Strs W a' n' Y ∧ UpRow W lo (.slice ua un uc) l ∧ Below w.heap.size w W ∧ (RecT W ∧ ErrN W) ∧ Seg W da dl zs) := fun W hb => by
    have hw : Below w.heap.size w W := hB.trans (hb.mono hB.size)
    exact ⟨hQ.stays hb, h1.below hw, h2.below hw, hu.stays hw, hw, ⟨ht.below hw, he.below hw⟩, hsd.below hw⟩
  have HL : Hid (un = l.length ∧ (∀ x ∈ X, x.size ≤ 1048576) ∧ X.length = n ∧ zs.length = dl) := ⟨hun, hzx, h1.1, hsd.1⟩
  have HA0 : Hid (Below w0.heap.size w0 w0) := Below.refl _ _
  clear hw0 h1 h2 hu hun hzx ht he hB hQ hsd
  obtain ⟨c0, c1, c2, c3, c4⟩ := (show _ ∧ _ ∧ _ ∧ _ ∧ _ from ⟨(HX.out _ HA0.out).1.cell 0 rfl, (HX.out _ HA0.out).1.cell 1 rfl, (HX.out _ HA0.out).1.cell 2 rfl, (HX.out _ HA0.out).1.cell 3 rfl, (HX.out _ HA0.out).1.cell 4 rfl⟩)
  go_enter Tryz.func22, Tryz.ntmps22
  go_upto_region 1 with fail
  rw [HE.out]
  clear HE
  go_wp2_with fail
  refine (implUpFor_any a n ca X a' n' ca' Y ep nx ua un uc lo l id w0 (HX.out _ HA0.out).2.1 (HX.out _ HA0.out).2.2.1 hn hn' HL.out.2.1 (HX.out _ HA0.out).2.2.2.1 HL.out.1 hul hid hsl (HX.out _ HA0.out).2.2.2.2.2.1.1 (HX.out _ HA0.out).2.2.2.2.2.1.2).mono ?_
  rintro _ y1 ⟨rfl, hb1⟩
  have HC1 : Hid (Below w0.heap.size w0 y1) := hb1
  clear hb1 c0 c1 c2 c3 c4
  obtain ⟨fp, hfp⟩ : ∃ fp, forP X Y ep nx (l.map UE.u) id ua = fp := ⟨_, rfl⟩
  obtain ⟨fc, hfc⟩ : ∃ fc, forC X Y ep nx (l.map UE.u) id = fc := ⟨_, rfl⟩
  rw [hfp, hfc]
  by_cases hl1 : (dl : Int) < 1
  · have hd1 : decide ((dl : Int) < 1) = true := by simpa using hl1
    clear hfp hfc
    have HRs : Hid ((putA X Y ep nx (l.map UE.u) id off zs).c = 1) := put_form (by rw [HL.out.2.2.2]; omega)
    have HBw : Hid (Below w.heap.size w y1) := (HX.out _ HC1.out).2.2.2.2.1
    clear HX HC1
    go_wp2_with fail
    go_ret
    exact ⟨ret_int HRs.out.symm, HBw.out⟩
  have hd1 : decide ((dl : Int) < 1) = false := by simpa using hl1
  by_cases hl2 : 400 < (dl : Int)
  · have hd2 : decide (400 < (dl : Int)) = true := by simpa using hl2
    clear hfp hfc
    have HRs : Hid ((putA X Y ep nx (l.map UE.u) id off zs).c = 1) := put_form (by rw [HL.out.2.2.2]; omega)
    have HBw : Hid (Below w.heap.size w y1) := (HX.out _ HC1.out).2.2.2.2.1
    clear HX HC1
    go_wp2_with fail
    go_ret
    exact ⟨ret_int HRs.out.symm, HBw.out⟩
  have hd2 : decide (400 < (dl : Int)) = false := by simpa using hl2
  have HLn : Hid (1 ≤ zs.length ∧ zs.length ≤ 400) := by show _ ∧ _; rw [HL.out.2.2.2]; omega
  by_cases h0 : fc = 0
  case neg =>
    have hd0 : (fc != 0) = true := by simpa using h0
    clear hfp
    have HRs : Hid ((putA X Y ep nx (l.map UE.u) id off zs).c = fc) := by show _ = _; rw [← hfc]; exact put_forC HLn.out (by rw [hfc]; exact h0)
    have HBw : Hid (Below w.heap.size w y1) := (HX.out _ HC1.out).2.2.2.2.1
    clear HX HC1
    go_wp2_with fail
    go_ret
    exact ⟨ret_int HRs.out.symm, HBw.out⟩
  subst h0
  obtain ⟨hso, hid', k, hat⟩ := forC_zero hfc
  have hfs := (for_some (ua := ua) (decB_true hso) hid' hat).1
  obtain ⟨hen, hn0, hnX, hX200⟩ := hso.nums
  have hkl : k < l.length := by simpa using (atU_is hat).1
  have hguk : (l.map UE.u)[k]? = some (l[k]).u := by rw [List.getElem?_map, List.getElem?_eq_getElem hkl]; rfl
  obtain ⟨g, hg, g0, g1, g2, g3, _⟩ := (HX.out _ HC1.out).2.2.2.1.at HL.out.1 hkl
  have hfp2 : fp = some ⟨g, k * 4, none⟩ := by rw [← hfp, hfs, hg]; rfl
  have HSo : Hid (SOk X Y ep nx (l.map UE.u)) := hso
  have HCo : Hid ((putA X Y ep nx (l.map UE.u) id off zs).c = if (l[k]).u.done = true ∨ off ≠ ((l[k]).u.zs.length : Int) ∨ (l[k]).u.want < off + (zs.length : Int) then 4 else if (X.length : Int) - nx < (pcs zs.length : Int) then 5 else 0) := put_at hso hid' HLn.out hat hguk
  have hzn : (l[k]).u.zs.length = (l[k]).n := ((HX.out _ HC1.out).2.2.2.1.2.1 _ (List.getElem_mem hkl)).seg.1
  have hz48 : (l[k]).n ≤ 1099511627776 := by have := (fold_small hso.1 hso.2.2.1).2 _ (List.mem_map_of_mem (List.getElem_mem hkl)); omega
  have HWt : Hid (0 ≤ (l[k]).u.want ∧ (l[k]).u.want ≤ 1000000000) := hso.wants _ (List.mem_map_of_mem (List.getElem_mem hkl))
  have HFt : Hid (Calls Tryz.prog 44 #[.pointer (some ⟨g, k * 4, none⟩), .int .i64 off, .slice da dl dc] y1 fun e w' => e = .returned (.bool (fitB (l[k]).u off dl)) ∧ w' = y1) := implFits_any g (k * 4) (l[k]).u (l[k]).a (l[k]).n (l[k]).c off da dl dc y1 g1 g2 g3 hzn (hso.fitsU _ (List.mem_map_of_mem (List.getElem_mem hkl))) hz48 (by omega)
  subst hfp2
  clear hfp hfc hfs hso hguk g0 g1 g2 g3 hg hzn hz48
  generalize l[k] = x at *
  go_wp2_with fail
  refine HFt.out.mono ?_
  rintro _ y1 ⟨rfl, rfl⟩
  cases hfi : fitB x.u off dl with
  | false =>
    have hno : x.u.done = true ∨ off ≠ (x.u.zs.length : Int) ∨ x.u.want < off + (zs.length : Int) := fit_no (by rw [HL.out.2.2.2]; exact hfi) HWt.out
    clear hfi
    have HRs : Hid ((putA X Y ep nx (l.map UE.u) id off zs).c = 4) := by show _ = _; rw [HCo.out, if_pos hno]
    have HBw : Hid (Below w.heap.size w y1) := (HX.out _ HC1.out).2.2.2.2.1
    clear HX HC1
    go_wp2_with fail
    go_ret
    exact ⟨ret_int HRs.out.symm, HBw.out⟩
  | true =>
  have hyes : ¬ (x.u.done = true ∨ off ≠ (x.u.zs.length : Int) ∨ x.u.want < off + (zs.length : Int)) := fit_yes (by rw [HL.out.2.2.2]; exact hfi)
  have HCo2 : Hid ((putA X Y ep nx (l.map UE.u) id off zs).c = if (X.length : Int) - nx < (pcs zs.length : Int) then 5 else 0) := by show _ = _; rw [HCo.out, if_neg hyes]
  have hofb : 0 ≤ off ∧ off ≤ 1000000000 := by
    have h1 : ¬ off ≠ (x.u.zs.length : Int) := fun h => hyes (.inr (.inl h))
    have h2 : ¬ x.u.want < off + (zs.length : Int) := fun h => hyes (.inr (.inr h))
    have h3 := HWt.out
    omega
  clear hfi hyes HCo HFt
  have hdl1 : 1 ≤ dl ∧ dl ≤ 400 := by omega
  obtain ⟨db, do_, hda⟩ : ∃ db do_, da = some ⟨db, do_, none⟩ := by
    rcases (HX.out _ HC1.out).2.2.2.2.2.2.2.2 with h | ⟨db, do_, h, _⟩
    · omega
    · exact ⟨db, do_, h⟩
  subst hda
  have HBd : Hid (Below w0.heap.size w0 y1.drew) := HC1.out.drew
  have HDr : Hid (Calls Tryz.prog 23 #[.string id, .int .i64 off, .slice (some ⟨db, do_, none⟩) dl dc] y1.drew fun e w' => (∃ ra c rl, e = .returned (.slice ra (pcs dl) c) ∧ RcsI w' ra (pcs dl) rl ∧ rl.map RE.r = dataRs id off zs) ∧ Below y1.drew.heap.size y1.drew w') := implDataRs_any id off db do_ dl dc zs y1.drew (HX.out _ HBd.out).2.2.2.2.2.2 hdc hdl1.2 hdl1.1 hofb
  obtain ⟨Pn, hPn⟩ : ∃ Pn, pcs dl = Pn := ⟨_, rfl⟩
  rw [hPn] at HDr
  have HPn : Hid (pcs zs.length = Pn) := by show _ = _; rw [HL.out.2.2.2]; exact hPn
  have hP17 : Pn ≤ 17 := by rw [← hPn, pcs]; omega
  clear hPn
  obtain ⟨c0, c1, c2, c3, c4⟩ := (show _ ∧ _ ∧ _ ∧ _ ∧ _ from ⟨(HX.out _ HC1.out).1.cell 0 rfl, (HX.out _ HC1.out).1.cell 1 rfl, (HX.out _ HC1.out).1.cell 2 rfl, (HX.out _ HC1.out).1.cell 3 rfl, (HX.out _ HC1.out).1.cell 4 rfl⟩)
  go_upto_region 8 with fail
  go_region_held3 (fun W => W.cell? ⟨w.heap.size, 0, none⟩ = some (.slice a n ca) ∧ W.cell? ⟨w.heap.size, 1, none⟩ = some (.slice a' n' ca') ∧ W.cell? ⟨w.heap.size, 2, none⟩ = some (.int .i64 ep) ∧ W.cell? ⟨w.heap.size, 3, none⟩ = some (.int .i64 nx) ∧ W.cell? ⟨w.heap.size, 4, none⟩ = some (.slice ua un uc)) (first | with_reducible exact ⟨e0, e1, e2, e3, e4⟩ | with_reducible exact ⟨c0, c1, c2, c3, c4⟩ | exact ⟨c0, c1, c2, c3, c4⟩) (first
    | (go_at_call 23; refine HDr.out.mono ?_; rintro _ y2 ⟨⟨ra, rc, rl, rfl, _, _⟩, hb2⟩
       have hB2 : Below w0.heap.size w0 y2 := HBd.out.trans (hb2.mono HBd.out.size)
       have e0 := (HX.out _ hB2).1.cell 0 rfl
       have e1 := (HX.out _ hB2).1.cell 1 rfl
       have e2 := (HX.out _ hB2).1.cell 2 rfl
       have e3 := (HX.out _ hB2).1.cell 3 rfl
       have e4 := (HX.out _ hB2).1.cell 4 rfl)
    | (go_at_call 40; refine (implRoom_any a n ca a' n' ca' ep nx ua un uc (Pn : Int) y2 (by omega) (by omega)).mono ?_; rintro _ y3 ⟨rfl, hb3⟩
       have hB3 : Below w0.heap.size w0 y3 := hB2.trans (hb3.mono hB2.size)
       have e0 := (HX.out _ hB3).1.cell 0 rfl
       have e1 := (HX.out _ hB3).1.cell 1 rfl
       have e2 := (HX.out _ hB3).1.cell 2 rfl
       have e3 := (HX.out _ hB3).1.cell 3 rfl
       have e4 := (HX.out _ hB3).1.cell 4 rfl)
    | fail)
  have HC3 : Hid (Below w0.heap.size w0 y3) := hB3
  clear hb2 hb3 hB2 hB3 e0 e1 e2 e3 e4 c0 c1 c2 c3 c4 HDr HBd HC1
  by_cases hroom : (Pn : Int) ≤ (n : Int) - nx
  case neg =>
    rw [decide_eq_false hroom]
    have HRs : Hid ((putA X Y ep nx (l.map UE.u) id off zs).c = 5) := by show _ = _; rw [HCo2.out, if_pos (by rw [HPn.out, HL.out.2.2.1]; omega)]
    have HBw : Hid (Below w.heap.size w y3) := (HX.out _ HC3.out).2.2.2.2.1
    clear HX HC3
    go_wp2_with fail
    go_ret
    exact ⟨ret_int HRs.out.symm, HBw.out⟩
  rw [decide_eq_true hroom]
  have HRs : Hid ((putA X Y ep nx (l.map UE.u) id off zs).c = 0) := by show _ = _; rw [HCo2.out, if_neg (by rw [HPn.out, HL.out.2.2.1]; omega)]
  have HBw : Hid (Below w.heap.size w y3) := (HX.out _ HC3.out).2.2.2.2.1
  clear HX HC3
  go_wp2_with fail
  go_ret
  exact ⟨ret_int HRs.out.symm, HBw.out⟩

end Go.Proofs.YtiigdcpjelbdjaaGreatDoor

namespace Go.Proofs.YtiigdcpjelbdjaaGreatDoor
open Go.RowKit
set_option linter.unusedVariables false

set_option maxRecDepth 10000 in
set_option maxHeartbeats 3200000 in
theorem implPutUp_any (a : Option Addr) (n ca : Nat) (X : List ByteArray) (a' : Option Addr) (n' ca' : Nat) (Y : List ByteArray) (ep nx : Int) (ua : Option Addr) (un uc lo : Nat) (l : List UE) (id : ByteArray) (off : Int) (da : Option Addr) (dl dc : Nat) (zs : List Int) (w : World) (h1 : Strs w a n X) (h2 : Strs w a' n' Y) (hn : n ≤ 1048576) (hn' : n' ≤ 1048576) (hzx : ∀ x ∈ X, x.size ≤ 1048576) (hu : UpRow w lo (.slice ua un uc) l) (hun : un = l.length) (hul : un ≤ 1048576) (hz : ∀ e ∈ l, e.n ≤ 1099511627776) (hid : id.size ≤ maxLen) (hsd : Seg w da dl zs) (hdc : dl ≤ dc) (hdl : dl ≤ maxLen) (hsl : SlOk a n ca) (ht : RecT w) (he : ErrN w) :
    Calls Tryz.prog 8 #[.agg #[.slice a n ca, .slice a' n' ca', .int .i64 ep, .int .i64 nx, .slice ua un uc], .string id, .int .i64 off, .slice da dl dc] w fun e w' => WAns w.heap.size Y ep (putA X Y ep nx (l.map UE.u) id off zs) e w' ∧ Below w.heap.size w w' := by
  have hmm : maxLen < 9223372036854775808 := by decide
  obtain ⟨W2, hW2⟩ : ∃ W2, (w.alloc (.cells #[.slice a n ca, .slice a' n' ca', .int .i64 ep, .int .i64 nx, .slice ua un uc] 29)).alloc (.cells #[.slice none 0 0, .slice none 0 0, .int .i64 0, .int .i64 0, .slice none 0 0] 29) = W2 := ⟨_, rfl⟩
  have HE : Hid ((w.alloc (.cells #[.slice a n ca, .slice a' n' ca', .int .i64 ep, .int .i64 nx, .slice ua un uc] 29)).alloc (.cells #[.slice none 0 0, .slice none 0 0, .int .i64 0, .int .i64 0, .slice none 0 0] 29) = W2) := hW2
  have HB2 : Hid (Below w.heap.size w W2) := by show Below _ _ _; rw [← hW2]; exact ((Below.refl _ _).alloc (Nat.le_refl _) _).alloc (by simp) _
  have q1 : BoxN W2 w.heap.size 29 [.slice a n ca, .slice a' n' ca', .int .i64 ep, .int .i64 nx, .slice ua un uc] := by rw [← hW2]; exact (BoxN.new _ _ _).alloc _
  have q2 : BoxN W2 (w.heap.size + 1) 29 [.slice none 0 0, .slice none 0 0, .int .i64 0, .int .i64 0, .slice none 0 0] := by
    rw [← hW2]
    have := BoxN.new (w.alloc (.cells #[.slice a n ca, .slice a' n' ca', .int .i64 ep, .int .i64 nx, .slice ua un uc] 29)) 29 [.slice none 0 0, .slice none 0 0, .int .i64 0, .int .i64 0, .slice none 0 0]
    rwa [World.size_alloc] at this
  have HQ : Hid (∀ W, Below W2.heap.size W2 W → BoxN W w.heap.size 29 [.slice a n ca, .slice a' n' ca', .int .i64 ep, .int .i64 nx, .slice ua un uc] ∧ BoxN W (w.heap.size + 1) 29 [.slice none 0 0, .slice none 0 0, .int .i64 0, .int .i64 0, .slice none 0 0]) := fun W h => ⟨q1.stays h, q2.stays h⟩
  have HX : Hid (∀ W, Below W2.heap.size W2 W → Strs W a n X ∧ Strs W a' n' Y ∧ UpRow W lo (.slice ua un uc) l ∧ RecT W ∧ ErrN W ∧ Seg W da dl zs) := fun W h => by
    have hw := HB2.out.trans (h.mono HB2.out.size)
    exact ⟨h1.below hw, h2.below hw, hu.stays hw, ht.below hw, he.below hw, hsd.below hw⟩
  have HL : Hid (un = l.length ∧ (∀ e ∈ l, e.n ≤ 1099511627776) ∧ (∀ x ∈ X, x.size ≤ 1048576) ∧ X.length = n ∧ zs.length = dl) := ⟨hun, hz, hzx, h1.1, hsd.1⟩
  have hs2 : w.heap.size + 1 < W2.heap.size := q2.lt
  clear hW2 q1 q2 h1 h2 hu hun hz hzx ht he hsd
  have HA0 : Hid (Below W2.heap.size W2 W2) := Below.refl _ _
  obtain ⟨c0, c1, c2, c3, c4⟩ := (show _ ∧ _ ∧ _ ∧ _ ∧ _ from ⟨(HQ.out _ HA0.out).1.cell 0 rfl, (HQ.out _ HA0.out).1.cell 1 rfl, (HQ.out _ HA0.out).1.cell 2 rfl, (HQ.out _ HA0.out).1.cell 3 rfl, (HQ.out _ HA0.out).1.cell 4 rfl⟩)
  go_enter Tryz.func8, Tryz.ntmps8
  go_upto_region 1 with fail
  rw [HE.out]
  clear HE
  go_wp2_with fail
  refine (implPutC_any a n ca X a' n' ca' Y ep nx ua un uc lo l id off da dl dc zs W2 (HX.out _ HA0.out).1 (HX.out _ HA0.out).2.1 hn hn' HL.out.2.2.1 (HX.out _ HA0.out).2.2.1 HL.out.1 hul hid (HX.out _ HA0.out).2.2.2.2.2 hdc hdl hsl (HX.out _ HA0.out).2.2.2.1 (HX.out _ HA0.out).2.2.2.2.1).mono ?_
  rintro _ y1 ⟨rfl, hb1⟩
  have HC1 : Hid (Below W2.heap.size W2 y1) := hb1
  clear hb1 c0 c1 c2 c3 c4
  obtain ⟨cc, hcc⟩ : ∃ cc, (putA X Y ep nx (l.map UE.u) id off zs).c = cc := ⟨_, rfl⟩
  rw [hcc]
  obtain ⟨c0, c1, c2, c3, c4⟩ := (show _ ∧ _ ∧ _ ∧ _ ∧ _ from ⟨(HQ.out _ HC1.out).1.cell 0 rfl, (HQ.out _ HC1.out).1.cell 1 rfl, (HQ.out _ HC1.out).1.cell 2 rfl, (HQ.out _ HC1.out).1.cell 3 rfl, (HQ.out _ HC1.out).1.cell 4 rfl⟩)
  by_cases h0 : cc = 0
  case neg =>
    have HRs : Hid (putA X Y ep nx (l.map UE.u) id off zs = ⟨X, nx, l.map UE.u, cc⟩) := by
      show _ = _
      have h9 : (putA X Y ep nx (l.map UE.u) id off zs).c ≠ 0 := by rw [hcc]; exact h0
      rw [← hcc]
      exact putA_no h9
    have hd0 : (cc != 0) = true := by simpa using h0
    clear hcc h0
    go_wp2_with fail
    refine (implScopy_any a n ca X a' n' ca' Y ep nx ua un uc lo l y1 (HX.out _ HC1.out).1 (HX.out _ HC1.out).2.1 hn hn' (HX.out _ HC1.out).2.2.1 HL.out.1 hul HL.out.2.1).mono ?_
    rintro _ y2 ⟨⟨v, rfl, hv⟩, hb2⟩
    obtain ⟨b, cb, b', cb', va, vc, l', rfl, hs2', hm2⟩ := hv.get
    have HC2 : Hid (Below W2.heap.size W2 y2) := HC1.out.trans (hb2.mono HC1.out.size)
    have HSt : Hid (StoAt y2 W2.heap.size b X.length cb X b' Y.length cb' Y va (l.map UE.u).length vc l' ∧ l'.map UE.u = l.map UE.u) := ⟨hs2'.low HC1.out.size, hm2⟩
    have HBw : Hid (Below w.heap.size w y2) := HB2.out.trans (HC2.out.mono HB2.out.size)
    obtain ⟨K, hK⟩ : ∃ K, (l.map UE.u).length = K := ⟨_, rfl⟩
    rw [hK] at HSt ⊢
    obtain ⟨r0, r1, r2, r3, r4⟩ := (show _ ∧ _ ∧ _ ∧ _ ∧ _ from ⟨(HQ.out _ HC2.out).2.cell 0 rfl, (HQ.out _ HC2.out).2.cell 1 rfl, (HQ.out _ HC2.out).2.cell 2 rfl, (HQ.out _ HC2.out).2.cell 3 rfl, (HQ.out _ HC2.out).2.cell 4 rfl⟩)
    obtain ⟨f0, f1, f2, f3, f4⟩ := (show _ ∧ _ ∧ _ ∧ _ ∧ _ from ⟨(HQ.out _ HC2.out).2.frozen 0, (HQ.out _ HC2.out).2.frozen 1, (HQ.out _ HC2.out).2.frozen 2, (HQ.out _ HC2.out).2.frozen 3, (HQ.out _ HC2.out).2.frozen 4⟩)
    clear hv hs2' hm2 hb2 HQ HX HC1 HC2 hK c0 c1 c2 c3 c4
    go_wp2_with fail
    refine bodyPost_ret (v := .tuple #[.agg #[.slice b X.length cb, .slice b' Y.length cb', .int .i64 ep, .int .i64 nx, .slice va K vc], .int .i64 cc]) (by simp [results, Tryz.f8, go_sem, r0, r1, r2, r3, r4]) rfl ?_
    refine ⟨?_, ?_⟩
    · rw [WAns, HRs.out]
      exact ⟨_, rfl, b, X.length, cb, b', Y.length, cb', va, K, vc, l', rfl, (((((HSt.out.1.setLow (by omega) _).setLow (by omega) _).setLow (by omega) _).setLow (by omega) _).setLow (by omega) _).low (by omega), HSt.out.2⟩
    · exact ((((HBw.out.setCell (by dsimp only; omega) _).setCell (by dsimp only; omega) _).setCell (by dsimp only; omega) _).setCell (by dsimp only; omega) _).setCell (by dsimp only; omega) _
  subst h0
  obtain ⟨hso, hidb, hlz, k, u, hat, hus, hdn, hof, hwt, hroom, hfo, hmod⟩ := putA_yes hcc
  have hdl1 : 1 ≤ dl ∧ dl ≤ 400 := by have := HL.out.2.2.2.2; omega
  obtain ⟨us', hus'⟩ : ∃ us', putU (l.map UE.u) k u zs (pcs zs.length) = us' := ⟨_, rfl⟩
  obtain ⟨Pn, hPn⟩ : ∃ Pn, pcs dl = Pn := ⟨_, rfl⟩
  have hPz : pcs zs.length = Pn := by rw [HL.out.2.2.2.2]; exact hPn
  rw [hus'] at hfo hmod
  rw [hPz] at hmod hroom
  have hwu := hso.wants u (List.mem_of_getElem? hus)
  have hofb : 0 ≤ off ∧ off ≤ 1000000000 := by omega
  have HRs : Hid (putA X Y ep nx (l.map UE.u) id off zs = ⟨wroteX X ep nx.toNat (dataRs id off zs), nx + (Pn : Int), us', 0⟩) := hmod
  have HSo : Hid (SOk X Y ep nx (l.map UE.u)) := hso
  have HKk : Hid ((∀ r ∈ dataRs id off zs, idB r.id.data.toList = true ∧ kindB r.k r.n r.zs.length = true ∧ ∀ x ∈ r.zs, 0 ≤ x ∧ x ≤ 255) ∧ (dataRs id off zs).foldlM oneU (l.map UE.u) = some us' ∧ nx + (Pn : Int) ≤ (X.length : Int)) := ⟨dataRs_ok hidb hofb.1 (by omega) (HX.out _ HC1.out).2.2.2.2.2.2.1, hfo, hroom⟩
  have HNn : Hid (0 ≤ nx ∧ nx ≤ 200) := by show _ ∧ _; have := hso.nums; omega
  clear hcc hso hidb hlz hat hus hdn hof hwt hroom hfo hmod hus' hPz hwu
  obtain ⟨db, do_, hda⟩ : ∃ db do_, da = some ⟨db, do_, none⟩ := by
    rcases (HX.out _ HC1.out).2.2.2.2.2.2.2 with h | ⟨db, do_, h, _⟩
    · omega
    · exact ⟨db, do_, h⟩
  subst hda
  have HBd : Hid (Below W2.heap.size W2 y1.drew) := HC1.out.drew
  have HDr : Hid (Calls Tryz.prog 23 #[.string id, .int .i64 off, .slice (some ⟨db, do_, none⟩) dl dc] y1.drew fun e w' => (∃ ra c rl, e = .returned (.slice ra (pcs dl) c) ∧ RcsI w' ra (pcs dl) rl ∧ rl.map RE.r = dataRs id off zs) ∧ Below y1.drew.heap.size y1.drew w') := implDataRs_any id off db do_ dl dc zs y1.drew (HX.out _ HBd.out).2.2.2.2.2 hdc hdl1.2 hdl1.1 hofb
  rw [hPn] at HDr
  have HWr : Hid (∀ (ra : Option Addr) (rc : Nat) (rl : List RE) (y2 : World), Below W2.heap.size W2 y2 → RcsI y2 ra Pn rl → rl.map RE.r = dataRs id off zs → Calls Tryz.prog 21 #[.agg #[.slice a n ca, .slice a' n' ca', .int .i64 ep, .int .i64 nx, .slice ua un uc], .slice ra Pn rc] y2 fun e w' => (∃ v, e = .returned v ∧ AnsS y2.heap.size (wroteX X ep nx.toNat (dataRs id off zs)) Y ep (nx + (Pn : Int)) us' v w') ∧ Below y2.heap.size y2 w') := fun ra rc rl y2 hy hr hrl => by
    have h := implWritten_any a n ca X a' n' ca' Y ep nx ua un uc lo l ra Pn rc rl us' y2 (HX.out _ hy).1 (HX.out _ hy).2.1 hn hn' HL.out.2.2.1 (HX.out _ hy).2.2.1 HL.out.1 hul HL.out.2.1 (HX.out _ hy).2.2.2.1 (HX.out _ hy).2.2.2.2.1 hr HSo.out (by rw [hrl]; exact HKk.out.1) HKk.out.2.2 (by rw [hrl]; exact HKk.out.2.1)
    rw [hrl] at h
    exact h
  obtain ⟨NN, hNN⟩ : ∃ NN, (wroteX X ep nx.toNat (dataRs id off zs)).length = NN := ⟨_, rfl⟩
  obtain ⟨K, hK⟩ : ∃ K, us'.length = K := ⟨_, rfl⟩
  have HNN : Hid ((wroteX X ep nx.toNat (dataRs id off zs)).length = NN ∧ us'.length = K) := ⟨hNN, hK⟩
  have hneB : w.heap.size ≠ w.heap.size + 1 := by omega
  clear hPn hNN hK
  go_upto_region 4 with fail
  go_region_held3 (fun W => W.cell? ⟨w.heap.size, 0, none⟩ = some (.slice a n ca) ∧ W.cell? ⟨w.heap.size, 1, none⟩ = some (.slice a' n' ca') ∧ W.cell? ⟨w.heap.size, 2, none⟩ = some (.int .i64 ep) ∧ W.cell? ⟨w.heap.size, 3, none⟩ = some (.int .i64 nx) ∧ W.cell? ⟨w.heap.size, 4, none⟩ = some (.slice ua un uc)) (first | with_reducible exact ⟨e0, e1, e2, e3, e4⟩ | with_reducible exact ⟨c0, c1, c2, c3, c4⟩ | with_reducible exact ⟨cellD_kept hneB (cellD_kept hneB (cellD_kept hneB (cellD_kept hneB (cellD_kept hneB e0)))), cellD_kept hneB (cellD_kept hneB (cellD_kept hneB (cellD_kept hneB (cellD_kept hneB e1)))), cellD_kept hneB (cellD_kept hneB (cellD_kept hneB (cellD_kept hneB (cellD_kept hneB e2)))), cellD_kept hneB (cellD_kept hneB (cellD_kept hneB (cellD_kept hneB (cellD_kept hneB e3)))), cellD_kept hneB (cellD_kept hneB (cellD_kept hneB (cellD_kept hneB (cellD_kept hneB e4))))⟩ | exact ⟨c0, c1, c2, c3, c4⟩) (first
    | (go_at_call 23; refine HDr.out.mono ?_; rintro _ y2 ⟨⟨ra, rc, rl, rfl, hrr, hrl⟩, hb2⟩
       have hB2 : Below W2.heap.size W2 y2 := HBd.out.trans (hb2.mono HBd.out.size)
       have HRr : Hid (RcsI y2 ra Pn rl ∧ rl.map RE.r = dataRs id off zs) := ⟨hrr, hrl⟩
       clear hrr hrl
       have e0 := (HQ.out _ hB2).1.cell 0 rfl
       have e1 := (HQ.out _ hB2).1.cell 1 rfl
       have e2 := (HQ.out _ hB2).1.cell 2 rfl
       have e3 := (HQ.out _ hB2).1.cell 3 rfl
       have e4 := (HQ.out _ hB2).1.cell 4 rfl)
    | (go_at_call 21; refine (HWr.out ra rc rl y2 hB2 HRr.out.1 HRr.out.2).mono ?_; rintro _ y3 ⟨⟨v, rfl, hv⟩, hb3⟩
       obtain ⟨b, cb, b', cb', va, vc, l', rfl, hs3, hm3⟩ := hv.get
       rw [HNN.out.1, HNN.out.2] at hs3 ⊢
       have hB3 : Below W2.heap.size W2 y3 := hB2.trans (hb3.mono hB2.size)
       have e0 := (HQ.out _ hB3).1.cell 0 rfl
       have e1 := (HQ.out _ hB3).1.cell 1 rfl
       have e2 := (HQ.out _ hB3).1.cell 2 rfl
       have e3 := (HQ.out _ hB3).1.cell 3 rfl
       have e4 := (HQ.out _ hB3).1.cell 4 rfl
       have r0 := (HQ.out _ hB3).2.cell 0 rfl
       have r1 := (HQ.out _ hB3).2.cell 1 rfl
       have r2 := (HQ.out _ hB3).2.cell 2 rfl
       have r3 := (HQ.out _ hB3).2.cell 3 rfl
       have r4 := (HQ.out _ hB3).2.cell 4 rfl
       have f0 := (HQ.out _ hB3).2.frozen 0
       have f1 := (HQ.out _ hB3).2.frozen 1
       have f2 := (HQ.out _ hB3).2.frozen 2
       have f3 := (HQ.out _ hB3).2.frozen 3
       have f4 := (HQ.out _ hB3).2.frozen 4)
    | fail)
  have HSt : Hid (StoAt y3 W2.heap.size b NN cb (wroteX X ep nx.toNat (dataRs id off zs)) b' Y.length cb' Y va K vc l' ∧ l'.map UE.u = us') := ⟨hs3.low hB2.size, hm3⟩
  have HBw : Hid (Below w.heap.size w y3) := HB2.out.trans (hB3.mono HB2.out.size)
  clear hv hs3 hm3 hb2 hb3 hB2 hB3 HQ HX HC1 HBd HDr HWr HRr e0 e1 e2 e3 e4 c0 c1 c2 c3 c4
  go_wp2_with fail
  refine bodyPost_ret (v := .tuple #[.agg #[.slice b NN cb, .slice b' Y.length cb', .int .i64 ep, .int .i64 (nx + (Pn : Int)), .slice va K vc], .int .i64 0]) (by simp [results, Tryz.f8, go_sem, r0, r1, r2, r3, r4]) rfl ?_
  refine ⟨?_, ?_⟩
  · rw [WAns, HRs.out]
    exact ⟨_, rfl, b, NN, cb, b', Y.length, cb', va, K, vc, l', rfl, (((((HSt.out.1.setLow (by omega) _).setLow (by omega) _).setLow (by omega) _).setLow (by omega) _).setLow (by omega) _).low (by omega), HSt.out.2⟩
  · exact ((((HBw.out.setCell (by dsimp only; omega) _).setCell (by dsimp only; omega) _).setCell (by dsimp only; omega) _).setCell (by dsimp only; omega) _).setCell (by dsimp only; omega) _

end Go.Proofs.YtiigdcpjelbdjaaGreatDoor

namespace Go.Proofs.YtiigdcpjelbdjaaGreatDoor
open Go.RowKit
set_option linter.unusedVariables false

set_option maxRecDepth 10000 in
set_option maxHeartbeats 3200000 in
theorem implOpen_any (a : Option Addr) (n ca : Nat) (X : List ByteArray) (a' : Option Addr) (n' ca' : Nat) (Y : List ByteArray) (w : World) (h1 : Strs w a n X) (h2 : Strs w a' n' Y) (hn : n ≤ 1048576) (hn' : n' ≤ 1048576) (hz : ∀ x ∈ X, x.size ≤ 1048576) (ht : RecT w) (he : ErrN w) :
    Calls Tryz.prog 9 #[.agg #[.slice a n ca, .slice a' n' ca']] w fun e w' => OpenAns w.heap.size X Y e w' ∧ Below w.heap.size w w' := by
  obtain ⟨W2, hW2⟩ : ∃ W2, (w.alloc (.cells #[.slice a n ca, .slice a' n' ca'] 26)).alloc (.cells #[.slice none 0 0, .slice none 0 0, .int .i64 0, .int .i64 0, .slice none 0 0] 29) = W2 := ⟨_, rfl⟩
  have HE : Hid ((w.alloc (.cells #[.slice a n ca, .slice a' n' ca'] 26)).alloc (.cells #[.slice none 0 0, .slice none 0 0, .int .i64 0, .int .i64 0, .slice none 0 0] 29) = W2) := hW2
  have HB2 : Hid (Below w.heap.size w W2) := by show Below _ _ _; rw [← hW2]; exact ((Below.refl _ _).alloc (Nat.le_refl _) _).alloc (by simp) _
  have q1 : BoxN W2 w.heap.size 26 [.slice a n ca, .slice a' n' ca'] := by rw [← hW2]; exact (BoxN.new _ _ _).alloc _
  have q2 : BoxN W2 (w.heap.size + 1) 29 [.slice none 0 0, .slice none 0 0, .int .i64 0, .int .i64 0, .slice none 0 0] := by
    rw [← hW2]
    have := BoxN.new (w.alloc (.cells #[.slice a n ca, .slice a' n' ca'] 26)) 29 [.slice none 0 0, .slice none 0 0, .int .i64 0, .int .i64 0, .slice none 0 0]
    rwa [World.size_alloc] at this
  have HQ : Hid (∀ W, Below W2.heap.size W2 W → BoxN W w.heap.size 26 [.slice a n ca, .slice a' n' ca'] ∧ BoxN W (w.heap.size + 1) 29 [.slice none 0 0, .slice none 0 0, .int .i64 0, .int .i64 0, .slice none 0 0]) := fun W h => ⟨q1.stays h, q2.stays h⟩
  have HX : Hid (∀ W, Below W2.heap.size W2 W → Strs W a n X ∧ Strs W a' n' Y ∧ RecT W ∧ ErrN W) := fun W h => by
    have hw := HB2.out.trans (h.mono HB2.out.size)
    exact ⟨h1.below hw, h2.below hw, ht.below hw, he.below hw⟩
  have HZ : Hid (∀ x ∈ X, x.size ≤ 1048576) := hz
  have hs2 : w.heap.size + 1 < W2.heap.size := q2.lt
  clear hW2 q1 q2 h1 h2 hz ht he
  have HA0 : Hid (Below W2.heap.size W2 W2) := Below.refl _ _
  obtain ⟨c0, c1⟩ := (show _ ∧ _ from ⟨(HQ.out _ HA0.out).1.cell 0 rfl, (HQ.out _ HA0.out).1.cell 1 rfl⟩)
  go_enter Tryz.func9, Tryz.ntmps9
  go_upto_region 1 with fail
  rw [HE.out]
  clear HE
  go_wp2_with fail
  refine (implDok_any a n ca X a' n' ca' Y W2 (HX.out _ HA0.out).1 (HX.out _ HA0.out).2.1 (by omega) (by omega)).mono ?_
  rintro _ y1 ⟨rfl, hb1⟩
  have HB1 : Hid (Below W2.heap.size W2 y1) := hb1
  clear hb1 c0 c1
  cases hok : okD X Y
  · try dsimp only
    have HN : Hid (openO X Y = none) := by show _ = _; rw [openO, hok]
    have HBw : Hid (Below w.heap.size w y1) := HB2.out.trans (HB1.out.mono HB2.out.size)
    obtain ⟨r0, r1, r2, r3, r4⟩ := (show _ ∧ _ ∧ _ ∧ _ ∧ _ from ⟨(HQ.out _ HB1.out).2.cell 0 rfl, (HQ.out _ HB1.out).2.cell 1 rfl, (HQ.out _ HB1.out).2.cell 2 rfl, (HQ.out _ HB1.out).2.cell 3 rfl, (HQ.out _ HB1.out).2.cell 4 rfl⟩)
    obtain ⟨f0, f1, f2, f3, f4⟩ := (show _ ∧ _ ∧ _ ∧ _ ∧ _ from ⟨(HQ.out _ HB1.out).2.frozen 0, (HQ.out _ HB1.out).2.frozen 1, (HQ.out _ HB1.out).2.frozen 2, (HQ.out _ HB1.out).2.frozen 3, (HQ.out _ HB1.out).2.frozen 4⟩)
    clear HQ HX HB1
    go_wp2_with fail
    refine bodyPost_ret (v := .tuple #[.agg #[.slice none 0 0, .slice none 0 0, .int .i64 0, .int .i64 0, .slice none 0 0], .bool false]) (by simp [results, Tryz.f9, go_sem, r0, r1, r2, r3, r4]) rfl ?_
    refine ⟨?_, ?_⟩
    · rw [OpenAns, HN.out]
      exact ⟨_, rfl, none, 0, 0, none, 0, 0, none, 0, 0, [], rfl, ⟨⟨⟨rfl, .inl ⟨rfl, rfl⟩⟩, by simp⟩, ⟨⟨rfl, .inl ⟨rfl, rfl⟩⟩, by simp⟩, by simp, ⟨⟨rfl, .inl ⟨rfl, rfl⟩⟩, by simp, by simp⟩, rfl⟩, rfl⟩
    · exact ((((HBw.out.setCell (by dsimp only; omega) _).setCell (by dsimp only; omega) _).setCell (by dsimp only; omega) _).setCell (by dsimp only; omega) _).setCell (by dsimp only; omega) _

  have HOk : Hid (okD X Y = true) := hok
  clear hok
  obtain ⟨c0, c1⟩ := (show _ ∧ _ from ⟨(HQ.out _ HB1.out).1.cell 0 rfl, (HQ.out _ HB1.out).1.cell 1 rfl⟩)
  go_wp2_with fail
  refine (implScan_any a n ca X a' n' ca' y1 (HX.out _ HB1.out).1 (by omega) HZ.out (HX.out _ HB1.out).2.2.1).mono ?_
  rintro _ y2 ⟨⟨v2, rs, rfl, hrow, hlm⟩, hb2⟩
  have HC2 : Hid (Below W2.heap.size W2 y2) := HB1.out.trans (hb2.mono HB1.out.size)
  obtain ⟨ra, rc, rfl⟩ := hrow.shape
  obtain ⟨M, hM⟩ : ∃ M, rs.length = M := ⟨_, rfl⟩
  rw [hM] at hrow ⊢
  have HM : Hid (M = rs.length) := hM.symm
  have HLm : Hid (rs.map RE.r = scanR X) := hlm
  have HR2 : Hid (RcRow y2 y1.heap.size (.slice ra M rc) rs) := hrow
  have HSh : Hid (∀ e ∈ rs, e.n ≤ 24) := rows_short hrow hlm (scanFrom_ok X 0 0).2
  have HMl : Hid (M = (scanR X).length) := by show _ = _; rw [← hlm, List.length_map, hM]
  have hMn : M ≤ 1048576 := by
    have h1 := (scanFrom_ok X 0 0).1
    have h2 := (HX.out _ HC2.out).1.1
    have h3 := congrArg List.length hlm
    rw [List.length_map, hM] at h3
    have h4 : (scanR X).length = (scanFrom 0 0 X).length := rfl
    omega
  clear hrow hlm hM hb2 c0 c1
  go_wp2_with fail
  refine (implFold_any ra M rc y1.heap.size rs 24 y2 HR2.out HM.out (by omega) HSh.out (by omega) (by omega) (rows_ns HLm.out) (HX.out _ HC2.out).2.2.2).mono ?_
  rintro _ y3 ⟨⟨x3, l3, rfl, hrow3, hm3, h310⟩, hb3⟩
  rw [HLm.out, foldP_ok] at hm3 ⊢
  have HC3 : Hid (Below W2.heap.size W2 y3) := HC2.out.trans (hb3.mono HC2.out.size)
  obtain ⟨xa, xc, rfl⟩ := hrow3.shape
  obtain ⟨K, hK⟩ : ∃ K, l3.length = K := ⟨_, rfl⟩
  rw [hK] at hrow3 ⊢
  have hy2 : W2.heap.size ≤ y2.heap.size := HC2.out.size
  have HR3 : Hid (UpRow y3 y2.heap.size (.slice xa K xc) l3 ∧ K = l3.length) := ⟨hrow3, hK.symm⟩
  clear hb3 hrow3 hK h310 HB1 HC2 HR2
  obtain ⟨c0, c1⟩ := (show _ ∧ _ from ⟨(HQ.out _ HC3.out).1.cell 0 rfl, (HQ.out _ HC3.out).1.cell 1 rfl⟩)
  have HTb : Hid (-1 ≤ topE X ∧ topE X ≤ 10000) := topE_range X
  obtain ⟨T, hT⟩ : ∃ T, topE X = T := ⟨_, rfl⟩
  have HTe : Hid (topE X = T) := hT
  have htb : -1 ≤ T ∧ T ≤ 10000 := by rw [← hT]; exact HTb.out
  clear hT
  have htb1 : -1 ≤ T := htb.1
  have htb2 : T ≤ 10000 := htb.2
  clear htb
  cases hf : foldU (scanR X) with
  | none =>
    rw [hf] at hm3
    dsimp only [Option.isSome]
    go_wp2_with fail
    refine (implTop_any a n ca X a' n' ca' y3 (HX.out _ HC3.out).1 (by omega) HZ.out (HX.out _ HC3.out).2.2.1).mono ?_
    rintro _ y4 ⟨rfl, hb4⟩
    rw [HTe.out]
    have HC4 : Hid (Below W2.heap.size W2 y4) := HC3.out.trans (hb4.mono HC3.out.size)
    clear hb4 c0 c1 HR3 HC3
    have HN : Hid (openO X Y = none) := by show _ = _; rw [openO, HOk.out, hf]
    have HBw : Hid (Below w.heap.size w y4) := HB2.out.trans (HC4.out.mono HB2.out.size)
    obtain ⟨r0, r1, r2, r3, r4⟩ := (show _ ∧ _ ∧ _ ∧ _ ∧ _ from ⟨(HQ.out _ HC4.out).2.cell 0 rfl, (HQ.out _ HC4.out).2.cell 1 rfl, (HQ.out _ HC4.out).2.cell 2 rfl, (HQ.out _ HC4.out).2.cell 3 rfl, (HQ.out _ HC4.out).2.cell 4 rfl⟩)
    obtain ⟨f0, f1, f2, f3, f4⟩ := (show _ ∧ _ ∧ _ ∧ _ ∧ _ from ⟨(HQ.out _ HC4.out).2.frozen 0, (HQ.out _ HC4.out).2.frozen 1, (HQ.out _ HC4.out).2.frozen 2, (HQ.out _ HC4.out).2.frozen 3, (HQ.out _ HC4.out).2.frozen 4⟩)
    clear HQ HX HC4
    go_wp2_with fail
    refine bodyPost_ret (v := .tuple #[.agg #[.slice none 0 0, .slice none 0 0, .int .i64 0, .int .i64 0, .slice none 0 0], .bool false]) (by simp [results, Tryz.f9, go_sem, r0, r1, r2, r3, r4]) rfl ?_
    refine ⟨?_, ?_⟩
    · rw [OpenAns, HN.out]
      exact ⟨_, rfl, none, 0, 0, none, 0, 0, none, 0, 0, [], rfl, ⟨⟨⟨rfl, .inl ⟨rfl, rfl⟩⟩, by simp⟩, ⟨⟨rfl, .inl ⟨rfl, rfl⟩⟩, by simp⟩, by simp, ⟨⟨rfl, .inl ⟨rfl, rfl⟩⟩, by simp, by simp⟩, rfl⟩, rfl⟩
    · exact ((((HBw.out.setCell (by dsimp only; omega) _).setCell (by dsimp only; omega) _).setCell (by dsimp only; omega) _).setCell (by dsimp only; omega) _).setCell (by dsimp only; omega) _

  | some us =>
    rw [hf] at hm3
    dsimp only [Option.isSome]
    have HUs : Hid (l3.map UE.u = us) := hm3
    have HFo : Hid (foldU (scanR X) = some us) := hf
    clear hm3 hf
    go_wp2_with fail
    refine (implTop_any a n ca X a' n' ca' y3 (HX.out _ HC3.out).1 (by omega) HZ.out (HX.out _ HC3.out).2.2.1).mono ?_
    rintro _ y4 ⟨rfl, hb4⟩
    rw [HTe.out]
    have HC4 : Hid (Below W2.heap.size W2 y4) := HC3.out.trans (hb4.mono HC3.out.size)
    have HR4 : Hid (UpRow y4 y2.heap.size (.slice xa K xc) l3 ∧ K = l3.length) := ⟨HR3.out.1.stays hb4, HR3.out.2⟩
    clear hb4 c0 c1 HR3 HC3
    by_cases hbig : 10000 < T + 1
    · clear HR4
      have HN : Hid (openO X Y = none) := by show _ = _; rw [openO, HOk.out, HFo.out, HTe.out]; simp [hbig]
      have HBw : Hid (Below w.heap.size w y4) := HB2.out.trans (HC4.out.mono HB2.out.size)
      obtain ⟨r0, r1, r2, r3, r4⟩ := (show _ ∧ _ ∧ _ ∧ _ ∧ _ from ⟨(HQ.out _ HC4.out).2.cell 0 rfl, (HQ.out _ HC4.out).2.cell 1 rfl, (HQ.out _ HC4.out).2.cell 2 rfl, (HQ.out _ HC4.out).2.cell 3 rfl, (HQ.out _ HC4.out).2.cell 4 rfl⟩)
      obtain ⟨f0, f1, f2, f3, f4⟩ := (show _ ∧ _ ∧ _ ∧ _ ∧ _ from ⟨(HQ.out _ HC4.out).2.frozen 0, (HQ.out _ HC4.out).2.frozen 1, (HQ.out _ HC4.out).2.frozen 2, (HQ.out _ HC4.out).2.frozen 3, (HQ.out _ HC4.out).2.frozen 4⟩)
      clear HQ HX HC4
      go_wp2_with fail
      refine bodyPost_ret (v := .tuple #[.agg #[.slice none 0 0, .slice none 0 0, .int .i64 0, .int .i64 0, .slice none 0 0], .bool false]) (by simp [results, Tryz.f9, go_sem, r0, r1, r2, r3, r4]) rfl ?_
      refine ⟨?_, ?_⟩
      · rw [OpenAns, HN.out]
        exact ⟨_, rfl, none, 0, 0, none, 0, 0, none, 0, 0, [], rfl, ⟨⟨⟨rfl, .inl ⟨rfl, rfl⟩⟩, by simp⟩, ⟨⟨rfl, .inl ⟨rfl, rfl⟩⟩, by simp⟩, by simp, ⟨⟨rfl, .inl ⟨rfl, rfl⟩⟩, by simp, by simp⟩, rfl⟩, rfl⟩
      · exact ((((HBw.out.setCell (by dsimp only; omega) _).setCell (by dsimp only; omega) _).setCell (by dsimp only; omega) _).setCell (by dsimp only; omega) _).setCell (by dsimp only; omega) _

    have HS : Hid (openO X Y = some (T + 1, M, us)) := by show _ = _; rw [openO, HOk.out, HFo.out, HTe.out, HMl.out]; simp [hbig]
    obtain ⟨c0, c1⟩ := (show _ ∧ _ from ⟨(HQ.out _ HC4.out).1.cell 0 rfl, (HQ.out _ HC4.out).1.cell 1 rfl⟩)
    go_wp2_with fail
    refine (implDcopy_any a n ca X a' n' ca' Y y4 (HX.out _ HC4.out).1 (HX.out _ HC4.out).2.1 (by omega) (by omega)).mono ?_
    rintro _ y5 ⟨⟨v5, rfl, A, C, A', C', rfl, ow, ow', hap⟩, hb5⟩
    have HBw : Hid (Below w.heap.size w y5) := by
      have h1 := HC4.out.trans (hb5.mono HC4.out.size)
      exact HB2.out.trans (h1.mono HB2.out.size)
    have hy4 : W2.heap.size ≤ y4.heap.size := HC4.out.size
    have HS5 : Hid (StoAt y5 (w.heap.size + 2) A X.length C X A' Y.length C' Y xa K xc l3) := ⟨ow.low (by omega), ow'.low (by omega), hap, (HR4.out.1.stays hb5).low (by omega), HR4.out.2⟩
    have hq5 := (HQ.out _ (HC4.out.trans (hb5.mono HC4.out.size))).2
    obtain ⟨r0, r1, r2, r3, r4⟩ := (show _ ∧ _ ∧ _ ∧ _ ∧ _ from ⟨hq5.cell 0 rfl, hq5.cell 1 rfl, hq5.cell 2 rfl, hq5.cell 3 rfl, hq5.cell 4 rfl⟩)
    obtain ⟨f0, f1, f2, f3, f4⟩ := (show _ ∧ _ ∧ _ ∧ _ ∧ _ from ⟨hq5.frozen 0, hq5.frozen 1, hq5.frozen 2, hq5.frozen 3, hq5.frozen 4⟩)
    clear ow ow' hap hb5 hq5 HQ HX HC4 HR4 c0 c1
    go_wp2_with fail
    refine bodyPost_ret (v := .tuple #[.agg #[.slice A X.length C, .slice A' Y.length C', .int .i64 (T + 1), .int .i64 (M : Int), .slice xa K xc], .bool true]) (by simp [results, Tryz.f9, go_sem, r0, r1, r2, r3, r4]) rfl ?_
    refine ⟨?_, ?_⟩
    · rw [OpenAns, HS.out]
      exact ⟨_, rfl, A, X.length, C, A', Y.length, C', xa, K, xc, l3, rfl, (((((HS5.out.setLow (by omega) _).setLow (by omega) _).setLow (by omega) _).setLow (by omega) _).setLow (by omega) _).low (by omega), HUs.out⟩
    · exact ((((HBw.out.setCell (by dsimp only; omega) _).setCell (by dsimp only; omega) _).setCell (by dsimp only; omega) _).setCell (by dsimp only; omega) _).setCell (by dsimp only; omega) _

end Go.Proofs.YtiigdcpjelbdjaaGreatDoor

namespace Go.Proofs.YtiigdcpjelbdjaaGreatDoor
open Go.RowKit
set_option linter.unusedVariables false

set_option maxRecDepth 10000 in
set_option maxHeartbeats 1600000 in
theorem implUpAt_any (a : Option Addr) (n ca : Nat) (a' : Option Addr) (n' ca' : Nat) (ep nx : Int) (ua : Option Addr) (un uc lo : Nat) (l : List UE) (id : ByteArray) (w : World) (hu : UpRow w lo (.slice ua un uc) l) (hun : un = l.length) (hul : un ≤ 1099511627776) (hz : ∀ e ∈ l, e.n ≤ 1099511627776) :
    Calls Tryz.prog 13 #[.agg #[.slice a n ca, .slice a' n' ca', .int .i64 ep, .int .i64 nx, .slice ua un uc], .string id] w fun e w' => AnsU w.heap.size (l.map UE.u) id e w' ∧ Below w.heap.size w w' := by
  obtain ⟨w0, hw0⟩ : ∃ w0, (w.alloc (.cells #[.slice a n ca, .slice a' n' ca', .int .i64 ep, .int .i64 nx, .slice ua un uc] 29)).alloc (.cells #[.string ⟨#[]⟩, .int .i64 0, .slice none 0 0, .bool false] 42) = w0 := ⟨_, rfl⟩
  have HE : Hid ((w.alloc (.cells #[.slice a n ca, .slice a' n' ca', .int .i64 ep, .int .i64 nx, .slice ua un uc] 29)).alloc (.cells #[.string ⟨#[]⟩, .int .i64 0, .slice none 0 0, .bool false] 42) = w0) := hw0
  have HB : Hid (Below w.heap.size w w0) := by show Below _ _ _; rw [← hw0]; exact ((Below.refl _ _).alloc (Nat.le_refl _) _).alloc (by simp) _
  have HQ : Hid (BoxN w0 w.heap.size 29 [.slice a n ca, .slice a' n' ca', .int .i64 ep, .int .i64 nx, .slice ua un uc]) := by show BoxN _ _ _ _; rw [← hw0]; exact (BoxN.new _ _ _).alloc _
  have HR : Hid (BoxN w0 (w.heap.size + 1) 42 [.string ⟨#[]⟩, .int .i64 0, .slice none 0 0, .bool false]) := by
    show BoxN _ _ _ _
    rw [← hw0]
    have := BoxN.new (w.alloc (.cells #[.slice a n ca, .slice a' n' ca', .int .i64 ep, .int .i64 nx, .slice ua un uc] 29)) 42 [.string ⟨#[]⟩, .int .i64 0, .slice none 0 0, .bool false]
    rw [World.size_alloc] at this
    exact this
  have HU : Hid (∀ W, Below w0.heap.size w0 W → UpRow W lo (.slice ua un uc) l) := fun W hb => (hu.stays HB.out).stays hb
  have HN : Hid (un = l.length) := hun
  have HZ : Hid (∀ e ∈ l, e.n ≤ 1099511627776) := hz
  have hwl : w.heap.size + 1 < w0.heap.size := HR.out.lt
  clear hw0 hu hun hz
  obtain ⟨c0, c1, c2, c3, c4⟩ := (show _ ∧ _ ∧ _ ∧ _ ∧ _ from ⟨HQ.out.cell 0 rfl, HQ.out.cell 1 rfl, HQ.out.cell 2 rfl, HQ.out.cell 3 rfl, HQ.out.cell 4 rfl⟩)
  have HC : Hid (Calls Tryz.prog 32 #[.agg #[.slice a n ca, .slice a' n' ca', .int .i64 ep, .int .i64 nx, .slice ua un uc], .string id] w0 fun e w' => e = .returned (.pointer (reachUO ua (atU (l.map UE.u) id))) ∧ Below w0.heap.size w0 w') := implUpIn_any a n ca a' n' ca' ep nx ua un uc lo l id w0 (HU.out _ (Below.refl _ _)) HN.out hul
  cases hk : atU (l.map UE.u) id with
  | none =>
    rw [hk, reachUO_none] at HC
    have HG : Hid (gotU (l.map UE.u) id = ⟨⟨#[]⟩, 0, [], false⟩ ∧ atU (l.map UE.u) id = none) := ⟨gotU_none hk, hk⟩
    clear hk
    go_enter Tryz.func13, Tryz.ntmps13
    go_upto_region 1 with fail
    rw [HE.out]
    clear HE
    go_wp2_with fail
    refine HC.out.mono ?_
    rintro _ w1 ⟨rfl, hb1⟩
    have hr := HR.out.stays hb1
    have HB1 : Hid (Below w.heap.size w w1) := HB.out.trans (hb1.mono HB.out.size)
    have a0 := hr.cell 0 rfl
    have a1 := hr.cell 1 rfl
    have a2 := hr.cell 2 rfl
    have a3 := hr.cell 3 rfl
    have f0 := hr.frozen 0
    have f1 := hr.frozen 1
    have f2 := hr.frozen 2
    have f3 := hr.frozen 3
    clear hr hb1
    go_wp2_with fail
    refine bodyPost_ret (v := .tuple #[.agg #[.string ⟨#[]⟩, .int .i64 0, .slice none 0 0, .bool false], .bool false]) (by simp [results, Tryz.f13, go_sem, a0, a1, a2, a3]) rfl ?_
    refine ⟨⟨none, 0, ?_, ?_⟩, ?_⟩
    · rw [HG.out.1, HG.out.2]; rfl
    · rw [HG.out.1]; exact owns_nil _ _
    · exact (((HB1.out.setCell (by dsimp only; omega) _).setCell (by dsimp only; omega) _).setCell (by dsimp only; omega) _).setCell (by dsimp only; omega) _
  | some k =>
    have hkl : k < l.length := by simpa using (atU_is hk).1
    have HG : Hid (gotU (l.map UE.u) id = (l[k]).u ∧ atU (l.map UE.u) id = some k) := ⟨gotU_some hk hkl, hk⟩
    obtain ⟨g, hg, _⟩ := (HU.out _ (Below.refl _ _)).at HN.out hkl
    subst hg
    rw [hk] at HC
    have HC2 : Hid (Calls Tryz.prog 32 #[.agg #[.slice a n ca, .slice a' n' ca', .int .i64 ep, .int .i64 nx, .slice (some ⟨g, 0, none⟩) un uc], .string id] w0 fun e w' => e = .returned (.pointer (some ⟨g, k * 4, none⟩)) ∧ Below w0.heap.size w0 w') := HC.out
    clear hk HC
    go_enter Tryz.func13, Tryz.ntmps13
    go_upto_region 1 with fail
    rw [HE.out]
    clear HE
    go_wp2_with fail
    refine HC2.out.mono ?_
    rintro _ w1 ⟨rfl, hb1⟩
    have HB1 : Hid (Below w.heap.size w w1) := HB.out.trans (hb1.mono HB.out.size)
    have HR1 : Hid (BoxN w1 (w.heap.size + 1) 42 [.string ⟨#[]⟩, .int .i64 0, .slice none 0 0, .bool false]) := HR.out.stays hb1
    obtain ⟨g', hg, g0, g1, g2, g3, _⟩ := (HU.out _ hb1).at HN.out hkl
    injection hg with hg
    injection hg with hg
    subst hg
    have HOx : Hid (Seg w1 (l[k]).a (l[k]).n (l[k]).u.zs) := ((HU.out _ hb1).2.1 _ (List.getElem_mem hkl)).seg
    have hzk : (l[k]).n ≤ 1099511627776 := HZ.out _ (List.getElem_mem hkl)
    have hw1 : w.heap.size + 1 < w1.heap.size := HR1.out.lt
    clear hb1 c0 c1 c2 c3 c4 HC2
    generalize l[k] = x at *
    go_wp2_with fail
    refine (implCopyUp_any x w1 HOx.out hzk).mono ?_
    rintro _ w2 ⟨⟨A, C, rfl, ho2⟩, hb2⟩
    have hr := HR1.out.stays hb2
    have HB2 : Hid (Below w.heap.size w w2) := HB1.out.trans (hb2.mono HB1.out.size)
    have HO2 : Hid (Owns w2 w1.heap.size A x.n C x.u.zs) := ho2
    have hLn : x.u.zs.length = x.n := HOx.out.1
    have a0 := hr.cell 0 rfl
    have a1 := hr.cell 1 rfl
    have a2 := hr.cell 2 rfl
    have a3 := hr.cell 3 rfl
    have f0 := hr.frozen 0
    have f1 := hr.frozen 1
    have f2 := hr.frozen 2
    have f3 := hr.frozen 3
    have hA2 : A.map (·.block) ≠ some (w.heap.size + 1) := fun e => by have := (ho2.lt _ e).1; omega
    clear hr ho2 hb2 g0 g1 g2 g3
    go_wp2_with fail
    refine bodyPost_ret (v := .tuple #[.agg #[.string x.u.id, .int .i64 x.u.want, .slice A x.n C, .bool x.u.done], .bool true]) (by simp [results, Tryz.f13, go_sem, a0, a1, a2, a3]) rfl ?_
    refine ⟨⟨A, C, ?_, ?_⟩, ?_⟩
    · rw [HG.out.1, HG.out.2, hLn]; rfl
    · rw [HG.out.1, hLn]
      exact (owns_set (owns_set (owns_set (owns_set HO2.out hA2) hA2) hA2) hA2).low (by omega)
    · exact (((HB2.out.setCell (by dsimp only; omega) _).setCell (by dsimp only; omega) _).setCell (by dsimp only; omega) _).setCell (by dsimp only; omega) _

end Go.Proofs.YtiigdcpjelbdjaaGreatDoor

namespace Go.Proofs.YtiigdcpjelbdjaaGreatDoor
open Go.RowKit
set_option linter.unusedVariables false

theorem blkOf_sG (a : Option Addr) (n c : Nat) : blkOf (.slice a n c) = a.map (·.block) := by cases a <;> rfl

set_option maxRecDepth 10000 in
set_option maxHeartbeats 3200000 in
theorem implFall_any (a : Option Addr) (n ca : Nat) (xs : List ByteArray) (a' : Option Addr) (n' ca' : Nat) (ys : List ByteArray) (ka : Option Addr) (m kc : Nat) (ks : List Bool) (w : World) (h1 : Strs w a n xs) (h2 : Strs w a' n' ys) (h3 : Bools w ka m ks) (hn : n ≤ 2097152) (hn' : n' ≤ 2097152) (hm : m ≤ 1099511627776) :
    Calls Tryz.prog 10 #[.agg #[.slice a n ca, .slice a' n' ca'], .slice ka m kc] w fun e w' => (∃ v, e = .returned v ∧ AnsD w.heap.size (fallX xs ys ks) (fallY xs ys ks) v w') ∧ Below w.heap.size w w' := by
  have HK : Hid (∀ W, Below w.heap.size w W → Bools W ka m ks) := fun W h => h3.below h
  have HKl : Hid (ks.length = m) := h3.1
  clear h3
  have HX : Hid (∀ W, Below w.heap.size w W → Strs W a n xs ∧ Strs W a' n' ys) := fun W h => ⟨h1.below h, h2.below h⟩
  have HLn : Hid (xs.length = n ∧ ys.length = n') := ⟨h1.1, h2.1⟩
  obtain ⟨W2, hW2⟩ : ∃ W2, (w.alloc (.cells #[.slice a n ca, .slice a' n' ca'] 26)).alloc (.cells #[.slice none 0 0, .slice none 0 0] 26) = W2 := ⟨_, rfl⟩
  have HE : Hid ((w.alloc (.cells #[.slice a n ca, .slice a' n' ca'] 26)).alloc (.cells #[.slice none 0 0, .slice none 0 0] 26) = W2) := hW2
  have HB2 : Hid (Below w.heap.size w W2) := by show Below _ _ _; rw [← hW2]; exact ((Below.refl _ _).alloc (Nat.le_refl _) _).alloc (by simp) _
  have HZ2 : Hid (W2.heap.size = w.heap.size + 2) := by show _ = _; rw [← hW2]; simp
  have HQ1 : Hid (Box2R W2 w.heap.size 26 (.slice a n ca) (.slice a' n' ca')) := by show Box2R _ _ _ _ _; rw [← hW2]; exact (Box2R.new _ _ _ _).alloc _
  have HQ2 : Hid (Box2R W2 (w.heap.size + 1) 26 (.slice none 0 0) (.slice none 0 0)) := by
    show Box2R _ _ _ _ _
    rw [← hW2]
    have := Box2R.new (w.alloc (.cells #[.slice a n ca, .slice a' n' ca'] 26)) 26 (.slice none 0 0) (.slice none 0 0)
    rwa [World.size_alloc] at this
  clear hW2 h1 h2
  go_enter Tryz.func10, Tryz.ntmps10
  go_wp2_with fail
  go_step3
  rw [HE.out]
  clear HE
  obtain ⟨c0, c1⟩ := HQ1.out.cells
  go_wp2_with fail
  refine (implDcopy_any a n ca xs a' n' ca' ys _ (HX.out _ HB2.out).1 (HX.out _ HB2.out).2 hn hn').mono ?_
  rintro e x3 ⟨⟨v, rfl, A, C, A', C', rfl, o1, o2, hap⟩, hb3⟩
  rw [HLn.out.1] at o1 ⊢
  rw [HLn.out.2] at o2 ⊢
  have HD : Hid (DOut w (x3.alloc (.cells #[.slice A n C, .slice A' n' C'] 26)) (.slice a n ca) (.slice a' n' ca') x3.heap.size (.slice A n C) (.slice A' n' C') n n' xs ys) := DOut.new HQ1.out HQ2.out HZ2.out HB2.out hb3 o1 o2 (fun q e e2 => by rw [blkOf_sG] at e e2; exact hap q e e2)
  clear o1 o2 hap hb3 HQ1 HQ2 HB2 HZ2 c0 c1
  go_upto_region 2 with fail
  obtain ⟨W3, hW3⟩ : ∃ W3, x3.alloc (.cells #[.slice A n C, .slice A' n' C'] 26) = W3 := ⟨_, rfl⟩
  rw [hW3] at HD ⊢
  clear hW3
  generalize x3.heap.size = o at *
  obtain ⟨c0, c1⟩ := HD.out.1.cells
  go_wp2_with fail
  refine (implDok_any a n ca xs a' n' ca' ys _ (HX.out _ HD.out.2.2.2.2.2.2.2.2).1 (HX.out _ HD.out.2.2.2.2.2.2.2.2).2 (by omega) (by omega)).mono ?_
  rintro e x4 ⟨rfl, hb4⟩
  have HDx : Hid (DOut w x4 (.slice a n ca) (.slice a' n' ca') o (.slice A n C) (.slice A' n' C') n n' xs ys) := HD.out.stays hb4
  clear hb4 HD c0 c1
  cases hok : okD xs ys
  · have HPX : Hid (fallX xs ys ks = xs) := by show _ = _; rw [fallX, hok]; rfl
    have HPY : Hid (fallY xs ys ks = ys) := by show _ = _; rw [fallY, hok]; rfl
    clear hok
    obtain ⟨c0, c1⟩ := HDx.out.2.2.1.cells
    obtain ⟨r0, r1⟩ := HDx.out.2.1.cells
    have f0 := HDx.out.2.1.frozen 0
    have f1 := HDx.out.2.1.frozen 1
    have HR := (show Hid _ from HDx.out.done)
    clear HDx
    go_wp2_with fail
    rw [Exit.noGoto_ret]
    refine bodyPost_ret (v := .agg #[.slice A n C, .slice A' n' C']) (by simp [results, Tryz.f10, go_sem, r0, r1]) rfl ?_
    exact ⟨⟨_, rfl, by rw [HPX.out, HPY.out]; exact HR.out.1⟩, HR.out.2⟩
  obtain rfl : n = n' := by
    have h := (okD_iff.1 hok).1
    have := HLn.out
    omega
  have HPX : Hid (fallX xs ys ks = fallL xs ys ks) := by show _ = _; rw [fallX, hok]; rfl
  have HPY : Hid (fallY xs ys ks = fallL xs ys ks) := by show _ = _; rw [fallY, hok]; rfl
  have HFl : Hid ((fallL xs ys ks).length = xs.length ∧ (fallL xs ys ks).length = ys.length) := ⟨fallL_len _ _ _, (fallL_len _ _ _).trans (okD_iff.1 hok).1⟩
  have HFa : Hid (∀ (k : Nat) (x y : ByteArray), xs[k]? = some x → ys[k]? = some y → (fallL xs ys ks)[k]? = some (if ks.getD k false then x else y)) := fun k x y h1 h2 => fallL_at h1 h2
  clear hok
  generalize fallL xs ys ks = F at *
  obtain ⟨c0, c1⟩ := HDx.out.1.cells
  go_wp2_with fail
  go_step3
  go_wp2_with fail
  clear c0 c1
  go_loopw [17] (fun i wr => ∃ k : Nat, k ≤ n ∧ i = .int .i64 (k : Int) ∧ Hid (DOut w wr (.slice a n ca) (.slice a' n ca') o (.slice A n C) (.slice A' n C') n n (fallTo F xs k) ys)) (fun i _ => n - (intOf i).toNat)
  case atStart => exact ⟨0, Nat.zero_le _, rfl, by rw [fallTo_zero]; exact HDx⟩
  case round =>
    clear HDx
    obtain ⟨k, hk, rfl, HDk⟩ := hrel
    by_cases hlt : k < n
    · obtain ⟨g, rfl⟩ : ∃ g, A = some ⟨g, 0, none⟩ := by
        rcases HDk.out.2.2.2.1.1.2 with ⟨_, h0⟩ | ⟨g, cap', cur, he, _⟩
        · omega
        · injection he with e1 _ _
          exact ⟨g, e1⟩
      have hbel := HDk.out.2.2.2.2.2.2.2.2
      obtain ⟨x, hx⟩ : ∃ x, xs[k]? = some x := ⟨_, List.getElem?_eq_getElem (by have := HLn.out; omega)⟩
      obtain ⟨yb, yo, y, rfl, _, hy, hcy⟩ := (HX.out _ hbel).2.at hlt
      have hym : y.size ≤ maxLen := (HX.out _ hbel).2.2.1 y (List.mem_of_getElem? hy)
      have HFk0 := (show Hid _ from HFa.out k x y hx hy)
      have HXk : Hid (xs[k]? = some x) := hx
      clear hx hy
      have hki : (k : Int) < (n : Int) := by omega
      have hk0 : (0 : Int) ≤ (k : Int) := by omega
      have HP0 : Hid (F[k]? = some y → DOut w (wr.setCell ⟨g, k, none⟩ (.string y)) (.slice a n ca) (.slice (some ⟨yb, yo, none⟩) n ca') o (.slice (some ⟨g, 0, none⟩) n C) (.slice A' n C') n n (fallTo F xs (k + 1)) ys) := by
        intro hF
        have h := HDk.out.put0 (j := k) y hym
        rw [fallTo_set F xs k y HFl.out.1 (by have := HLn.out; omega) hF] at h
        exact h
      have fz : wr.frozen? ⟨g, k, none⟩ = false := HDk.out.2.2.2.1.1.frozenAt _
      obtain ⟨u0, hu0⟩ : ∃ u, wr.cell? ⟨g, k, none⟩ = some u := by
        have hcl : (scells (fallTo F xs k)).length = n := by rw [scells_len, fallTo_len F xs k HFl.out.1 (by have := HLn.out; omega), HLn.out.1]
        rw [HDk.out.2.2.2.1.1.cellAt _ (by omega)]
        exact ⟨_, List.getElem?_eq_getElem (by omega)⟩
      obtain ⟨c0, c1⟩ := HDk.out.2.2.1.cells
      by_cases hkm : k < m
      case neg =>
        have HFk : Hid (F[k]? = some y) := by
          have h := HFk0.out
          have e : ks[k]? = none := List.getElem?_eq_none (by have := HKl.out; omega)
          rw [List.getD_eq_getElem?_getD, e] at h
          exact h
        have hkmi : ¬ (k : Int) < (m : Int) := by omega
        have HD2 := (show Hid _ from HP0.out HFk.out)
        clear HFk0 hbel HP0 HDk HXk HFk
        go_wp2_with fail
        go_roundw
        case rel => exact ⟨k + 1, by omega, by go_num, HD2⟩
        case measure => simp [intOf]; omega
      obtain ⟨kb, ko, b, rfl, _, hkb, hcb⟩ := (HK.out _ hbel).at hkm
      have hkmi : (k : Int) < (m : Int) := by omega
      have HFk1 : Hid (F[k]? = some (if b then x else y)) := by
        have h := HFk0.out
        rw [List.getD_eq_getElem?_getD, hkb] at h
        exact h
      clear HFk0 hbel hkb
      cases b
      · have HD2 := (show Hid _ from HP0.out HFk1.out)
        clear HFk1 HP0 HDk HXk
        go_wp2_with fail
        go_roundw
        case rel => exact ⟨k + 1, by omega, by go_num, HD2⟩
        case measure => simp [intOf]; omega
      · have HD2 : Hid (DOut w wr (.slice a n ca) (.slice (some ⟨yb, yo, none⟩) n ca') o (.slice (some ⟨g, 0, none⟩) n C) (.slice A' n C') n n (fallTo F xs (k + 1)) ys) := by
          have h := HDk.out
          rw [fallTo_same F xs k x HFl.out.1 HXk.out HFk1.out] at h
          exact h
        clear HFk1 HP0 HDk HXk
        go_wp2_with fail
        go_roundw
        case rel => exact ⟨k + 1, by omega, by go_num, HD2⟩
        case measure => simp [intOf]; omega
    · obtain rfl : k = n := by omega
      have HDx : Hid (DOut w wr (.slice a k ca) (.slice a' k ca') o (.slice A k C) (.slice A' k C') k k F ys) := by
        have h := HDk.out
        have hl := HLn.out
        rw [show fallTo F xs k = F from by rw [← hl.1]; exact fallTo_all F xs HFl.out.1] at h
        exact h
      clear HDk
      obtain ⟨c0, c1⟩ := HDx.out.2.2.1.cells
      go_wp2_with fail
      refine (implFlush_any A k C F A' k C' _ HDx.out.2.2.2.1.strs (by omega)).mono ?_
      rintro e x7 ⟨⟨v, rfl, B, D, B', D', rfl, o1, o2, hap⟩, hb7⟩
      have hFn : F.length = k := HFl.out.1.trans HLn.out.1
      rw [hFn] at o1 o2 ⊢
      have hbx := HDx.out.2.1.stays hb7
      obtain ⟨r0, r1⟩ := hbx.cells
      have f0 := hbx.frozen 0
      have f1 := hbx.frozen 1
      have HR : Hid (AnsD w.heap.size F F (.agg #[.slice B k D, .slice B' k D']) ((x7.setCell ⟨w.heap.size + 1, 0, none⟩ (.slice B k D)).setCell ⟨w.heap.size + 1, 1, none⟩ (.slice B' k D')) ∧ Below w.heap.size w ((x7.setCell ⟨w.heap.size + 1, 0, none⟩ (.slice B k D)).setCell ⟨w.heap.size + 1, 1, none⟩ (.slice B' k D'))) := by
        have hlt := HDx.out.2.1.lt
        have hbel := HDx.out.2.2.2.2.2.2.2.2
        have n1 : blkOf (.slice B k D) ≠ some (w.heap.size + 1) := fun e => by have := (o1.lt _ e).1; omega
        have n2 : blkOf (.slice B' k D') ≠ some (w.heap.size + 1) := fun e => by have := (o2.lt _ e).1; omega
        have hbw := hbel.trans (hb7.mono hbel.size)
        exact ⟨AnsD.mk' hFn hFn (((o1.setCell n1 _).setCell n1 _).low (by omega)) (((o2.setCell n2 _).setCell n2 _).low (by omega)) hap, (hbw.setCell (by dsimp only; omega) _).setCell (by dsimp only; omega) _⟩
      clear HDx c0 c1 o1 o2 hap hb7 hbx
      go_wp2_with fail
      rw [Exit.noGoto_ret]
      refine bodyPost_ret (v := .agg #[.slice B k D, .slice B' k D']) (by simp [results, Tryz.f10, go_sem, r0, r1]) rfl ?_
      exact ⟨⟨_, rfl, by rw [HPX.out, HPY.out]; exact HR.out.1⟩, HR.out.2⟩

end Go.Proofs.YtiigdcpjelbdjaaGreatDoor

namespace Go.Proofs.YtiigdcpjelbdjaaGreatDoor
open Go.RowKit
set_option linter.unusedVariables false

set_option maxHeartbeats 400000 in
theorem sameB_same (a b : Option Addr) (len ca cb : Nat) (xs : List Int) (w : World) (hx : Seg w a len xs) (hy : Seg w b len xs) (hla : len ≤ 1099511627776) :
    Calls Tryz.prog 14 #[.slice a len ca, .slice b len cb] w fun e w' => e = .returned (.bool true) ∧ ∃ n, w' = w.drewN n := by
  have HX : Hid (Seg w a len xs) := hx
  have HY : Hid (Seg w b len xs) := hy
  clear hx hy
  have hne : ((len : Int) != (len : Int)) = false := by simp
  go_enter Tryz.func14, Tryz.ntmps14
  go_wp2
  go_loopw [5] (fun i wr => ∃ k : Nat, k ≤ len ∧ i = .int .i64 k ∧ Hid (∃ n, wr = w.drewN n)) (fun i _ => len - (intOf i).toNat)
  case atStart => exact ⟨0, Nat.zero_le _, rfl, ⟨0, rfl⟩⟩
  case round =>
    obtain ⟨k, hk, rfl, HW⟩ := hrel
    by_cases hlt : k < len
    · obtain ⟨ba, oa, rfl, hba, hca⟩ : ∃ b off, a = some ⟨b, off, none⟩ ∧ b < w.heap.size ∧ ∀ i, i < len → w.cell? ⟨b, off + i, none⟩ = some (.int .u8 (xs.getD i 0)) := by
        rcases HX.out.2.2 with h | h
        · omega
        · exact h
      obtain ⟨bb, ob, rfl, hbb, hcb⟩ : ∃ b' off, b = some ⟨b', off, none⟩ ∧ b' < w.heap.size ∧ ∀ i, i < len → w.cell? ⟨b', off + i, none⟩ = some (.int .u8 (xs.getD i 0)) := by
        rcases HY.out.2.2 with h | h
        · omega
        · exact h
      have ha : wr.cell? ⟨ba, oa + k, none⟩ = some (.int .u8 (xs.getD k 0)) := by obtain ⟨n, rfl⟩ := HW; exact hca k hlt
      have hb : wr.cell? ⟨bb, ob + k, none⟩ = some (.int .u8 (xs.getD k 0)) := by obtain ⟨n, rfl⟩ := HW; exact hcb k hlt
      clear hca hcb
      have hki : (k : Int) < (len : Int) := by omega
      have hk0 : (0 : Int) ≤ (k : Int) := by omega
      go_wp2
      go_quiet (fail)
      go_wp2
      go_roundw
      case rel =>
        refine ⟨k + 1, by omega, by go_num, ?_⟩
        obtain ⟨n, rfl⟩ := HW.out
        exact ⟨_, World.drewN_drewN _ _ _⟩
      case measure => simp [intOf]; omega
    · go_wp2
      go_ret
      exact ⟨rfl, HW.out⟩

end Go.Proofs.YtiigdcpjelbdjaaGreatDoor

namespace Go.Proofs.YtiigdcpjelbdjaaGreatDoor
open Go.RowKit
set_option linter.unusedVariables false

set_option maxHeartbeats 400000 in
theorem big_any (a : Option Addr) (len cap : Nat) (w : World) (hl : len ≤ maxLen) :
    Calls Tryz.prog 4 #[.slice a len cap] w fun e w' => e = .returned (.bool (decide ((1048576 : Int) < (len : Int)))) ∧ w' = w := by
  go_enter Tryz.func4, Tryz.ntmps4
  go_wp2
  go_ret
  exact ⟨rfl, rfl⟩

end Go.Proofs.YtiigdcpjelbdjaaGreatDoor
