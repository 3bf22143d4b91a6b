/- What the program's dataRecs answers: the records of pieces, whose bytes lie where they were. What the program's putCode answers. What the program's PutUp answers. What the program's DoneUp answers, case by case. No program in it. What the program's doneCode answers. -/
import Derived.Test.YtjaihnmhojabfaaGreatDoorK03
import Derived.Test.YtjaihnmhojabfaaGreatDoorM43
import Derived.Test.YtjaihnmhojabfaaGreatDoorM20
import Derived.Test.YtjaihnmhojabfaaGreatDoorM07
import Derived.Test.YtjaihnmhojabfaaGreatDoorM22
import Derived.RangeFuncBox
import Derived.Deep.CutBlock
import Derived.Test.YtjaihnmhojabfaaGreatDoorM44
import Derived.Test.YtjaihnmhojabfaaGreatDoorM42
import Derived.Test.YtjaihnmhojabfaaGreatDoorM08
import Derived.Test.YtjaihnmhojabfaaGreatDoorM30
import Derived.Test.YtjaihnmhojabfaaGreatDoorK01
import Derived.Test.YtjaihnmhojabfaaGreatDoorM38
namespace Go.Proofs.YtjaihnmhojabfaaGreatDoor
open Go.RowKit Go.Shelf
set_option linter.unusedVariables false
attribute [local go_sem] Oper.semAt_some

/-- The record of a piece, in the row. -/
def pieceE (id : ByteArray) (off : Int) (zs : List Int) (b o L i : Nat) : RE := ⟨dataR id off zs i, some ⟨b, pcAt o 24 i, none⟩, pcLen 24 L i, pcLen 24 L i⟩
def pieceL (id : ByteArray) (off : Int) (zs : List Int) (b o L k : Nat) : List RE := (List.range k).map (pieceE id off zs b o L)

theorem pieceL_len (id : ByteArray) (off : Int) (zs : List Int) (b o L k : Nat) : (pieceL id off zs b o L k).length = k := by simp [pieceL]

theorem pieceL_succ (id : ByteArray) (off : Int) (zs : List Int) (b o L k : Nat) : reCells (pieceL id off zs b o L (k + 1)) = reCells (pieceL id off zs b o L k) ++ RE.cells (pieceE id off zs b o L k) := by
  rw [pieceL, List.range_succ, List.map_append, reCells_append]
  simp [pieceL, reCells]

theorem pieceL_recs (id : ByteArray) (off : Int) (zs : List Int) (b o L : Nat) : (pieceL id off zs b o L (pcs zs.length)).map RE.r = dataRs id off zs := by
  rw [pieceL, dataRs, List.map_map]
  rfl

theorem rcsI_of_row {W : World} {base g n c : Nat} {l : List RE} (h : W.ownsRow base 69 6 (.slice (some ⟨g, 0, none⟩) n c) n (reCells l)) (hn : l.length = n) (hs : ∀ e ∈ l, Seg W e.a e.n e.r.zs) : RcsI W (some ⟨g, 0, none⟩) n l := by
  refine ⟨hn, hs, .inr ⟨g, 0, rfl, (h.lt g rfl).2, fun i hi => ?_⟩⟩
  have hl := reCells_len l
  obtain ⟨h0, h1, h2, h3, h4, h5⟩ := reCells_at l i hi
  simp only [Nat.zero_add]
  refine ⟨?_, ?_, ?_, ?_, ?_, ?_⟩
  · rw [h.cellAt _ (by omega)]; exact h0
  · rw [h.cellAt _ (by omega)]; exact h1
  · rw [h.cellAt _ (by omega)]; exact h2
  · rw [h.cellAt _ (by omega)]; exact h3
  · rw [h.cellAt _ (by omega)]; exact h4
  · rw [h.cellAt _ (by omega)]; exact h5

set_option maxRecDepth 10000 in
set_option maxHeartbeats 1600000 in
theorem implDataRs_any (id : ByteArray) (off : Int) (b o L C : Nat) (zs : List Int) (w : World) (hs : Seg w (some ⟨b, o, none⟩) L zs) (hC : L ≤ C) (hL : L ≤ 400) (hL1 : 1 ≤ L) (ho : 0 ≤ off ∧ off ≤ 1000000000) :
    Calls Tryz.prog 56 #[.string id, .int .i64 off, .slice (some ⟨b, o, none⟩) L C] w fun e w' => (∃ ra c l, e = .returned (.slice ra (pcs L) c) ∧ RcsI w' ra (pcs L) l ∧ l.map RE.r = dataRs id off zs) ∧ Below w.heap.size w w' := by
  obtain ⟨i0, hi, hz0, hz1, hz2⟩ := info_parts info_rec
  have HS : Hid (Seg w (some ⟨b, o, none⟩) L zs) := hs
  have hzl : zs.length = L := hs.1
  have HZl : Hid (zs.length = L) := hzl
  obtain ⟨n, hn⟩ : ∃ n, pcs L = n := ⟨_, rfl⟩
  have hn17 : 1 ≤ n ∧ n ≤ 17 := by rw [← hn, pcs]; omega
  have HN : Hid (∀ k, k * 24 < L → (¬ (k + 1) * 24 < L → n = k + 1)) := fun k h1 h2 => by rw [← hn, pcs]; omega
  have HNl : Hid (∀ k, k * 24 < L → k < n) := fun k h => by rw [← hn, pcs]; omega
  have HNn : Hid (pcs L = n) := hn
  have HPl : Hid (∀ k, (k + 1) * 24 < L → k * 24 + pcLen 24 L k = (k + 1) * 24) := fun k h => by unfold pcLen; omega
  rw [hn]
  clear hs hn hzl
  obtain ⟨W2, hW2⟩ : ∃ W2, ((((w.alloc (.cells #[.string id] 9)).alloc (.cells #[.int .i64 off] 3)).alloc (.cells #[.slice none 0 0] 53)).alloc (.cells #[.slice (some ⟨b, o, none⟩) L C] 22)).alloc (.cells #[.int .i64 24] 3) = W2 := ⟨_, rfl⟩
  have HE : Hid (((((w.alloc (.cells #[.string id] 9)).alloc (.cells #[.int .i64 off] 3)).alloc (.cells #[.slice none 0 0] 53)).alloc (.cells #[.slice (some ⟨b, o, none⟩) L C] 22)).alloc (.cells #[.int .i64 24] 3) = W2) := hW2
  have hsz : W2.heap.size = w.heap.size + 5 := by rw [← hW2]; simp
  have bI : Boxed W2 w.heap.size 9 (.string id) := by rw [← hW2]; exact ((((Boxed.new _ _ _).alloc _).alloc _).alloc _).alloc _
  have bO : Boxed W2 (w.heap.size + 1) 3 (.int .i64 off) := by
    rw [← hW2]
    have := (((Boxed.new (w.alloc (.cells #[.string id] 9)) 3 (.int .i64 off)).alloc (.cells #[.slice none 0 0] 53)).alloc (.cells #[.slice (some ⟨b, o, none⟩) L C] 22)).alloc (.cells #[.int .i64 24] 3)
    rwa [World.size_alloc] at this
  have bL : Boxed W2 (w.heap.size + 2) 53 (.slice none 0 0) := by
    rw [← hW2]
    have := ((Boxed.new ((w.alloc (.cells #[.string id] 9)).alloc (.cells #[.int .i64 off] 3)) 53 (.slice none 0 0)).alloc (.cells #[.slice (some ⟨b, o, none⟩) L C] 22)).alloc (.cells #[.int .i64 24] 3)
    rwa [World.size_alloc, World.size_alloc] at this
  have bS : Boxed W2 (w.heap.size + 3) 22 (.slice (some ⟨b, o, none⟩) L C) := by
    rw [← hW2]
    have := (Boxed.new (((w.alloc (.cells #[.string id] 9)).alloc (.cells #[.int .i64 off] 3)).alloc (.cells #[.slice none 0 0] 53)) 22 (.slice (some ⟨b, o, none⟩) L C)).alloc (.cells #[.int .i64 24] 3)
    rwa [World.size_alloc, World.size_alloc, World.size_alloc] at this
  have bN : Boxed W2 (w.heap.size + 4) 3 (.int .i64 24) := by
    rw [← hW2]
    have := Boxed.new ((((w.alloc (.cells #[.string id] 9)).alloc (.cells #[.int .i64 off] 3)).alloc (.cells #[.slice none 0 0] 53)).alloc (.cells #[.slice (some ⟨b, o, none⟩) L C] 22)) 3 (.int .i64 24)
    rwa [World.size_alloc, World.size_alloc, World.size_alloc, World.size_alloc] at this
  have hBl : Below w.heap.size w W2 := by rw [← hW2]; exact (((((Below.refl _ _).alloc (Nat.le_refl _) _).alloc (by simp) _).alloc (by simp; omega) _).alloc (by simp; omega) _).alloc (by simp; omega) _
  have HI0 : Hid ((∃ u, Boxed W2 (w.heap.size + 2) 53 u ∧ W2.ownsRow w.heap.size 69 6 u 0 (reCells (pieceL id off zs b o L 0)) ∧ True) ∧ Boxed W2 (w.heap.size + 1) 3 (.int .i64 (off + ((0 * 24 : Nat) : Int))) ∧ Boxed W2 w.heap.size 9 (.string id) ∧ Boxed W2 (w.heap.size + 3) 22 (.slice (some ⟨b, o, none⟩) L C) ∧ Boxed W2 (w.heap.size + 4) 3 (.int .i64 24) ∧ True ∧ Below w.heap.size w W2) := by
    refine ⟨⟨_, bL, ⟨rfl, .inl ⟨rfl, rfl⟩⟩, trivial⟩, ?_, bI, bS, bN, trivial, hBl⟩
    have e : off + ((0 * 24 : Nat) : Int) = off := by simp
    rw [e]
    exact bO
  clear hW2 bI bO bL bS bN hBl
  refine (callsIn_wide (n := 4)).1 ?_
  refine callsIn_of_wp_marks Tryz.func56 rfl trivial ?_ rfl
  simp only [Tryz.ntmps56, List.size_toArray, List.length_cons, List.length_nil, Nat.reduceAdd, Nat.reduceSub, Array.replicate_succ, Array.replicate_zero, List.push_toArray, List.append_toArray, List.nil_append, List.cons_append]
  refine wpIn_wide.2 ?_
  go_wp2_with (go_at_call 94; refine (callsIn_wide.1 (chunk_any _ _ _ 24 _ 4 (by decide))).mono ?_; rintro e w5 ⟨rfl, rfl⟩)
  rw [HE.out]
  clear HE
  refine (wpIn_wide (n := 4)).1 ?_
  refine loop_turns (n := 4) rfl (by decide) (gf := 117) (lb := #[.pointer (some ⟨w.heap.size + 3, 0, none⟩), .pointer (some ⟨w.heap.size + 4, 0, none⟩)]) rfl trivial (enters_of Tryz.func117 (by kernel_rfl) rfl) (encC b o 24 L) (fun _ => rfl)
    (fun (k : Nat) W => (∃ u, Boxed W (w.heap.size + 2) 53 u ∧ W.ownsRow w.heap.size 69 6 u k (reCells (pieceL id off zs b o L k)) ∧ True) ∧ Boxed W (w.heap.size + 1) 3 (.int .i64 (off + ((k * 24 : Nat) : Int))) ∧ Boxed W w.heap.size 9 (.string id) ∧ Boxed W (w.heap.size + 3) 22 (.slice (some ⟨b, o, none⟩) L C) ∧ Boxed W (w.heap.size + 4) 3 (.int .i64 24) ∧ k * 24 < L ∧ Below w.heap.size w W)
    (fun (k : Nat) W => (∃ u, Boxed W (w.heap.size + 2) 53 u ∧ W.ownsRow w.heap.size 69 6 u (k + 1) (reCells (pieceL id off zs b o L (k + 1))) ∧ True) ∧ Boxed W (w.heap.size + 1) 3 (.int .i64 (off + ((k * 24 + pcLen 24 L k : Nat) : Int))) ∧ Boxed W w.heap.size 9 (.string id) ∧ Boxed W (w.heap.size + 3) 22 (.slice (some ⟨b, o, none⟩) L C) ∧ Boxed W (w.heap.size + 4) 3 (.int .i64 24) ∧ k * 24 < L ∧ Below w.heap.size w W)
    (fun _ _ _ => False)
    (fun (_ : Nat) W => (∃ u, Boxed W (w.heap.size + 2) 53 u ∧ W.ownsRow w.heap.size 69 6 u n (reCells (pieceL id off zs b o L n)) ∧ True) ∧ Below w.heap.size w W)
    (fun W => (∃ u, Boxed W (w.heap.size + 2) 53 u ∧ W.ownsRow w.heap.size 69 6 u 0 (reCells (pieceL id off zs b o L 0)) ∧ True) ∧ Boxed W (w.heap.size + 1) 3 (.int .i64 (off + ((0 * 24 : Nat) : Int))) ∧ Boxed W w.heap.size 9 (.string id) ∧ Boxed W (w.heap.size + 3) 22 (.slice (some ⟨b, o, none⟩) L C) ∧ Boxed W (w.heap.size + 4) 3 (.int .i64 24) ∧ True ∧ Below w.heap.size w W)
    (chunk_iter 3 _ (w.heap.size + 3) (w.heap.size + 4) b o L C 24 (by decide) (by omega) hC (by decide) (by decide) _ _ _ _ _
      (fun W h => ⟨h.2.2.2.1, h.2.2.2.2.1, fun h0 => ⟨h.1, h.2.1, h.2.2.1, h.2.2.2.1, h.2.2.2.2.1, by omega, h.2.2.2.2.2.2⟩, fun h0 => absurd (by omega) h0⟩)
      (fun k W h => ⟨h.1, h.2.1, h.2.2.1, h.2.2.2.1, h.2.2.2.2.1, h.2.2.2.2.2.1, h.2.2.2.2.2.2.drew⟩)
      (fun k W h => ⟨h.2.2.2.1, h.2.2.2.2.1⟩)
      (fun k W h => ⟨h.2.2.2.1, h.2.2.2.2.1, fun h0 => ⟨h.1, (HPl.out k h0) ▸ h.2.1, h.2.2.1, h.2.2.2.1, h.2.2.2.2.1, h0, h.2.2.2.2.2.2⟩, fun h0 => ⟨by rw [HN.out k h.2.2.2.2.2.1 h0]; exact h.1, h.2.2.2.2.2.2⟩⟩))
    (OwnFrom.and (Own.from (holdsRow_own w.heap.size (w.heap.size + 2) 53 69 6 (fun k : Nat => k) (fun k : Nat => reCells (pieceL id off zs b o L k)) (fun _ _ => True)) _) (OwnFrom.and (Own.from (boxed_own _ _ (fun k : Nat => .int .i64 (off + ((k * 24 : Nat) : Int)))) _) (OwnFrom.and (Own.from (boxed_own _ _ (fun k : Nat => .string id)) _) (OwnFrom.and (Own.from (boxed_own _ _ (fun k : Nat => .slice (some ⟨b, o, none⟩) L C)) _) (OwnFrom.and (Own.from (boxed_own _ _ (fun k : Nat => .int .i64 24)) _) (OwnFrom.and (ownFrom_pure _ (fun k : Nat => k * 24 < L)) (ownFrom_below (Nat.le_refl _) (by omega))))))))
    (OwnFrom.and (Own.from (holdsRow_own w.heap.size (w.heap.size + 2) 53 69 6 (fun k : Nat => k + 1) (fun k : Nat => reCells (pieceL id off zs b o L (k + 1))) (fun _ _ => True)) _) (OwnFrom.and (Own.from (boxed_own _ _ (fun k : Nat => .int .i64 (off + ((k * 24 + pcLen 24 L k : Nat) : Int)))) _) (OwnFrom.and (Own.from (boxed_own _ _ (fun k : Nat => .string id)) _) (OwnFrom.and (Own.from (boxed_own _ _ (fun k : Nat => .slice (some ⟨b, o, none⟩) L C)) _) (OwnFrom.and (Own.from (boxed_own _ _ (fun k : Nat => .int .i64 24)) _) (OwnFrom.and (ownFrom_pure _ (fun k : Nat => k * 24 < L)) (ownFrom_below (Nat.le_refl _) (by omega))))))))
    (fun c s W W' row hs hg hr => hs)
    (OwnFrom.and (Own.from (holdsRow_own w.heap.size (w.heap.size + 2) 53 69 6 (fun k : Nat => n) (fun k : Nat => reCells (pieceL id off zs b o L n)) (fun _ _ => True)) _) (ownFrom_below (Nat.le_refl _) (by omega)))
    (OwnFrom.and (Own.from (holdsRow_own w.heap.size (w.heap.size + 2) 53 69 6 (fun _ : Unit => 0) (fun _ : Unit => reCells (pieceL id off zs b o L 0)) (fun _ _ => True)) _) (OwnFrom.and (Own.from (boxed_own _ _ (fun _ : Unit => .int .i64 (off + ((0 * 24 : Nat) : Int)))) _) (OwnFrom.and (Own.from (boxed_own _ _ (fun _ : Unit => .string id)) _) (OwnFrom.and (Own.from (boxed_own _ _ (fun _ : Unit => .slice (some ⟨b, o, none⟩) L C)) _) (OwnFrom.and (Own.from (boxed_own _ _ (fun _ : Unit => .int .i64 24)) _) (OwnFrom.and (ownFrom_pure _ (fun _ : Unit => True)) (ownFrom_below (Nat.le_refl _) (by omega))))))))
    HI0.out ?frame ?assign ?body ?done ?stop
  case assign =>
    intro l s W K hK
    gi_wp2
    exact hK
  case body =>
    rintro l k W ⟨⟨u, hu, hrow, _⟩, hbO, hbI, hbS, hbN, hk, hB⟩
    have hkn : k < n := HNl.out k hk
    have hc := hu.cell
    have hcO := hbO.cell
    have hcI := hbI.cell
    have hszW := hB.size
    obtain ⟨A0, hA0⟩ : ∃ A0, pcAt o 24 k = A0 := ⟨_, rfl⟩
    obtain ⟨pl, hpl⟩ : ∃ pl, pcLen 24 L k = pl := ⟨_, rfl⟩
    have hpl24 : pl ≤ 24 := by rw [← hpl, pcLen]; omega
    obtain ⟨OV, hOV⟩ : ∃ OV, off + ((k * 24 : Nat) : Int) = OV := ⟨_, rfl⟩
    rw [hOV] at hcO hbO
    have HE2 : Hid (reCells (pieceL id off zs b o L k) ++ [.int .i64 0, .int .i64 0, .int .i64 2, .string id, .int .i64 OV, .slice (some ⟨b, A0, none⟩) pl pl] = reCells (pieceL id off zs b o L (k + 1))) := by
      show _ = _
      rw [pieceL_succ, ← hA0, ← hpl, ← hOV, Nat.mul_comm k 24]
      rfl
    have HN2 : Hid (∀ j u, ([.int .i64 0, .int .i64 0, .int .i64 2, .string id, .int .i64 OV, .slice (some ⟨b, A0, none⟩) pl pl] : List Value)[j]? = some u → (W.alloc (.cells #[.int .i64 0, .int .i64 0, .int .i64 2, .string id, .int .i64 OV, .slice (some ⟨b, A0, none⟩) pl pl] 69)).cell? ((⟨W.heap.size, 0, none⟩ : Addr).add j) = some u) := six_new W ⟨0, 0, 2, id, OV, []⟩ (some ⟨b, A0, none⟩) pl pl
    have HO2 : Hid (∀ u ∈ ([.int .i64 0, .int .i64 0, .int .i64 2, .string id, .int .i64 OV, .slice (some ⟨b, A0, none⟩) pl pl] : List Value), u.oneCell' = true) := six_one ⟨0, 0, 2, id, OV, []⟩ (some ⟨b, A0, none⟩) pl pl
    have hOVb : OV + (pl : Int) < 9223372036854775808 ∧ -9223372036854775808 ≤ OV + (pl : Int) := by omega
    obtain ⟨hOV1, hOV2⟩ := hOVb
    have HOV : Hid (off + ((k * 24 + pl : Nat) : Int) = OV + (pl : Int)) := by show _ = _; omega
    simp only [hA0, hpl]
    gi_wp2_with (gi_at_builtin; refine wpListIn_append_own _ rfl _ _ 53 rfl w.heap.size 69 i0 (.agg #[.int .i64 0, .int .i64 0, .int .i64 0, .string ⟨#[]⟩, .int .i64 0, .slice none 0 0]) 6 72 Tryz.underlying53 hi hz0 hz1 hz2 rfl (by decide) _ _ _ rfl (hrow.alloc _) ⟨W.heap.size, 0, none⟩ 1 1 [.int .i64 0, .int .i64 0, .int .i64 2, .string id, .int .i64 OV, .slice (some ⟨b, A0, none⟩) pl pl] rfl rfl HN2.out HO2.out (by unfold maxLen; omega) (by omega) (by simp; omega) ?_; intro v' w1 hown' hgrow _; obtain ⟨g', cap', rfl⟩ := ownsRow_succ hown'; obtain ⟨hv1, hv2, hr2, hk2, hb2⟩ := hu.appended (by decide) hrow hB.size (by omega) hown' hgrow; have hc1 := hv1.cell; have hf1 := hv1.frozen; have hO2 := ((hbO.alloc (.cells #[.int .i64 0, .int .i64 0, .int .i64 2, .string id, .int .i64 OV, .slice (some ⟨b, A0, none⟩) pl pl] 69)).kept hgrow (hbO.not_row (by decide) hrow)).other (B' := w.heap.size + 2) (by omega) (.slice (some ⟨g', 0, none⟩) (k + 1) cap'); have hcO2 := hO2.cell; have hfO2 := hO2.frozen)
    have hI2 := (((hbI.alloc (.cells #[.int .i64 0, .int .i64 0, .int .i64 2, .string id, .int .i64 OV, .slice (some ⟨b, A0, none⟩) pl pl] 69)).kept hgrow (hbI.not_row (by decide) hrow)).other (B' := w.heap.size + 2) (by omega) (.slice (some ⟨g', 0, none⟩) (k + 1) cap')).other (B' := w.heap.size + 1) (by omega) (.int .i64 (OV + (pl : Int)))
    have hS2 := (((hbS.alloc (.cells #[.int .i64 0, .int .i64 0, .int .i64 2, .string id, .int .i64 OV, .slice (some ⟨b, A0, none⟩) pl pl] 69)).kept hgrow (hbS.not_row (by decide) hrow)).other (B' := w.heap.size + 2) (by omega) (.slice (some ⟨g', 0, none⟩) (k + 1) cap')).other (B' := w.heap.size + 1) (by omega) (.int .i64 (OV + (pl : Int)))
    have hN2 := (((hbN.alloc (.cells #[.int .i64 0, .int .i64 0, .int .i64 2, .string id, .int .i64 OV, .slice (some ⟨b, A0, none⟩) pl pl] 69)).kept hgrow (hbN.not_row (by decide) hrow)).other (B' := w.heap.size + 2) (by omega) (.slice (some ⟨g', 0, none⟩) (k + 1) cap')).other (B' := w.heap.size + 1) (by omega) (.int .i64 (OV + (pl : Int)))
    rw [HE2.out] at hr2
    refine ⟨(hk2.trans (KeepsOthers.setCell _ _ _)).from _, ⟨_, hv2.other (by omega) _, hr2.kept (grownBy_setCell' _ (w.heap.size + 1) _) (.inr (hO2.not_row (by decide) hr2).symm), trivial⟩, ?_, hI2, hS2, hN2, hk, (hB.trans hb2).setCell (p := ⟨w.heap.size + 1, 0, none⟩) (by show w.heap.size ≤ w.heap.size + 1; omega) _⟩
    rw [HOV.out]
    exact hO2.set _
  case done =>
    rintro D k W hD ⟨⟨u, hu, hrow, _⟩, hB⟩ hK
    obtain ⟨P, hP⟩ : ∃ P, n = P + 1 := ⟨n - 1, by omega⟩
    rw [hP] at hrow
    obtain ⟨g, cap, rfl⟩ := ownsRow_succ hrow
    have hc := hu.cell
    have HR : Hid (W.ownsRow w.heap.size 69 6 (.slice (some ⟨g, 0, none⟩) (P + 1) cap) (P + 1) (reCells (pieceL id off zs b o L (P + 1)))) := hrow
    have HB : Hid (Below w.heap.size w W) := hB
    have HK : Hid (W.heap[D]? = some (.deferred (some []))) := hK
    have HP : Hid (pcs L = P + 1) := by show _ = _; rw [HNn.out, hP]
    have HSW : Hid (∀ W', Below w.heap.size w W' → ∀ e ∈ pieceL id off zs b o L (P + 1), Seg W' e.a e.n e.r.zs) := fun W' hb e he => by
      obtain ⟨i, hi, rfl⟩ := List.mem_map.1 he
      have hi' := List.mem_range.1 hi
      have h1 := HP.out
      have h2 : pcLen 24 L i = min 24 (L - 24 * i) := by rw [pcLen, Nat.mul_comm]
      have h3 : 24 * i + pcLen 24 L i ≤ L := by rw [h2]; unfold pcs at h1; omega
      have h4 := seg_part (HS.out.below hb) (24 * i) (pcLen 24 L i) h3
      show Seg W' (some ⟨b, pcAt o 24 i, none⟩) (pcLen 24 L i) ((zs.drop (24 * i)).take 24)
      have e1 : (zs.drop (24 * i)).take (pcLen 24 L i) = (zs.drop (24 * i)).take 24 := by
        rw [h2]
        by_cases h5 : 24 ≤ L - 24 * i
        · rw [Nat.min_eq_left h5]
        · rw [Nat.min_eq_right (by omega), List.take_of_length_le (by rw [List.length_drop, HZl.out]; omega), List.take_of_length_le (by rw [List.length_drop, HZl.out]; omega)]
      rw [e1] at h4
      have e2 : pcAt o 24 i = o + 24 * i := by rw [pcAt, Nat.mul_comm]
      rw [e2]
      exact h4
    subst hP
    clear hrow hB hK
    dsimp only
    go_wp2_with fail
    refine ⟨by simp, .inl ⟨_, _, rfl, run_takeDeferred HK.out, ?_⟩⟩
    have hbw : Below w.heap.size w (W.putObj D (.deferred none)) := HB.out.grown (grownBy_putObj' _ D _) HB.out.size (fun q e => by injection e with e; omega)
    refine ⟨_, results_tmp rfl _ _ _, ⟨some ⟨g, 0, none⟩, cap, pieceL id off zs b o L (P + 1), rfl, rcsI_of_row (ownsRow_putObj HR.out _ HK.out rfl) (pieceL_len _ _ _ _ _ _ _) (HSW.out _ hbw), ?_⟩, hbw⟩
    rw [← pieceL_recs id off zs b o L, HZl.out, HP.out]
  case stop =>
    rintro D c s W hD h
    exact h.elim

end Go.Proofs.YtjaihnmhojabfaaGreatDoor

namespace Go.Proofs.YtjaihnmhojabfaaGreatDoor
open Go.RowKit
set_option linter.unusedVariables false

set_option maxRecDepth 10000 in
set_option maxHeartbeats 3200000 in
theorem implPutC_any (a : Option Addr) (n ca : Nat) (X : List ByteArray) (a' : Option Addr) (n' ca' : Nat) (Y : List ByteArray) (ep nx : Int) (ua : Option Addr) (un uc lo : Nat) (l : List UE) (id : ByteArray) (off : Int) (da : Option Addr) (dl dc : Nat) (zs : List Int) (w : World) (h1 : Strs w a n X) (h2 : Strs w a' n' Y) (hn : n ≤ 1048576) (hn' : n' ≤ 1048576) (hzx : ∀ x ∈ X, x.size ≤ 1048576) (hu : UpRow w lo (.slice ua un uc) l) (hun : un = l.length) (hul : un ≤ 1048576) (hid : id.size ≤ maxLen) (hsd : Seg w da dl zs) (hdc : dl ≤ dc) (hdl : dl ≤ maxLen) (hsl : SlOk a n ca) (ht : RecT w) (he : ErrN w) :
    Calls Tryz.prog 55 #[.agg #[.slice a n ca, .slice a' n' ca', .int .i64 ep, .int .i64 nx, .slice ua un uc], .string id, .int .i64 off, .slice da dl dc] w fun e w' => e = .returned (.int .i64 (putA X Y ep nx (l.map UE.u) id off zs).c) ∧ Below w.heap.size w w' := by
  have hmm : maxLen < 9223372036854775808 := by decide
  obtain ⟨w0, hw0⟩ : ∃ w0, w.alloc (.cells #[.slice a n ca, .slice a' n' ca', .int .i64 ep, .int .i64 nx, .slice ua un uc] 29) = w0 := ⟨_, rfl⟩
  have HE : Hid (w.alloc (.cells #[.slice a n ca, .slice a' n' ca', .int .i64 ep, .int .i64 nx, .slice ua un uc] 29) = w0) := hw0
  have hB : Below w.heap.size w w0 := by rw [← hw0]; exact (Below.refl _ _).alloc (Nat.le_refl _) _
  have hQ : BoxN w0 w.heap.size 29 [.slice a n ca, .slice a' n' ca', .int .i64 ep, .int .i64 nx, .slice ua un uc] := by rw [← hw0]; exact BoxN.new _ _ _
  have HX : Hid (∀ W, Below w0.heap.size w0 W → BoxN W w.heap.size 29 [.slice a n ca, .slice a' n' ca', .int .i64 ep, .int .i64 nx, .slice ua un uc] ∧ Strs W a n X ∧ Strs W a' n' Y ∧ UpRow W lo (.slice ua un uc) l ∧ Below w.heap.size w W ∧ (RecT W ∧ ErrN W) ∧ Seg W da dl zs) := fun W hb => by
    have hw : Below w.heap.size w W := hB.trans (hb.mono hB.size)
    exact ⟨hQ.stays hb, h1.below hw, h2.below hw, hu.stays hw, hw, ⟨ht.below hw, he.below hw⟩, hsd.below hw⟩
  have HL : Hid (un = l.length ∧ (∀ x ∈ X, x.size ≤ 1048576) ∧ X.length = n ∧ zs.length = dl) := ⟨hun, hzx, h1.1, hsd.1⟩
  have HA0 : Hid (Below w0.heap.size w0 w0) := Below.refl _ _
  clear hw0 h1 h2 hu hun hzx ht he hB hQ hsd
  obtain ⟨c0, c1, c2, c3, c4⟩ := (show _ ∧ _ ∧ _ ∧ _ ∧ _ from ⟨(HX.out _ HA0.out).1.cell 0 rfl, (HX.out _ HA0.out).1.cell 1 rfl, (HX.out _ HA0.out).1.cell 2 rfl, (HX.out _ HA0.out).1.cell 3 rfl, (HX.out _ HA0.out).1.cell 4 rfl⟩)
  go_enter Tryz.func55, Tryz.ntmps55
  go_upto_region 1 with fail
  rw [HE.out]
  clear HE
  go_wp2_with fail
  refine (implUpFor_any a n ca X a' n' ca' Y ep nx ua un uc lo l id w0 (HX.out _ HA0.out).2.1 (HX.out _ HA0.out).2.2.1 hn hn' HL.out.2.1 (HX.out _ HA0.out).2.2.2.1 HL.out.1 hul hid hsl (HX.out _ HA0.out).2.2.2.2.2.1.1 (HX.out _ HA0.out).2.2.2.2.2.1.2).mono ?_
  rintro _ y1 ⟨rfl, hb1⟩
  have HC1 : Hid (Below w0.heap.size w0 y1) := hb1
  clear hb1 c0 c1 c2 c3 c4
  obtain ⟨fp, hfp⟩ : ∃ fp, forP X Y ep nx (l.map UE.u) id ua = fp := ⟨_, rfl⟩
  obtain ⟨fc, hfc⟩ : ∃ fc, forC X Y ep nx (l.map UE.u) id = fc := ⟨_, rfl⟩
  rw [hfp, hfc]
  by_cases hl1 : (dl : Int) < 1
  · have hd1 : decide ((dl : Int) < 1) = true := by simpa using hl1
    clear hfp hfc
    have HRs : Hid ((putA X Y ep nx (l.map UE.u) id off zs).c = 1) := put_form (by rw [HL.out.2.2.2]; omega)
    have HBw : Hid (Below w.heap.size w y1) := (HX.out _ HC1.out).2.2.2.2.1
    clear HX HC1
    go_wp2_with fail
    go_ret
    exact ⟨ret_int HRs.out.symm, HBw.out⟩
  have hd1 : decide ((dl : Int) < 1) = false := by simpa using hl1
  by_cases hl2 : 400 < (dl : Int)
  · have hd2 : decide (400 < (dl : Int)) = true := by simpa using hl2
    clear hfp hfc
    have HRs : Hid ((putA X Y ep nx (l.map UE.u) id off zs).c = 1) := put_form (by rw [HL.out.2.2.2]; omega)
    have HBw : Hid (Below w.heap.size w y1) := (HX.out _ HC1.out).2.2.2.2.1
    clear HX HC1
    go_wp2_with fail
    go_ret
    exact ⟨ret_int HRs.out.symm, HBw.out⟩
  have hd2 : decide (400 < (dl : Int)) = false := by simpa using hl2
  have HLn : Hid (1 ≤ zs.length ∧ zs.length ≤ 400) := by show _ ∧ _; rw [HL.out.2.2.2]; omega
  by_cases h0 : fc = 0
  case neg =>
    have hd0 : (fc != 0) = true := by simpa using h0
    clear hfp
    have HRs : Hid ((putA X Y ep nx (l.map UE.u) id off zs).c = fc) := by show _ = _; rw [← hfc]; exact put_forC HLn.out (by rw [hfc]; exact h0)
    have HBw : Hid (Below w.heap.size w y1) := (HX.out _ HC1.out).2.2.2.2.1
    clear HX HC1
    go_wp2_with fail
    go_ret
    exact ⟨ret_int HRs.out.symm, HBw.out⟩
  subst h0
  obtain ⟨hso, hid', k, hat⟩ := forC_zero hfc
  have hfs := (for_some (ua := ua) (decB_true hso) hid' hat).1
  obtain ⟨hen, hn0, hnX, hX200⟩ := hso.nums
  have hkl : k < l.length := by simpa using (atU_is hat).1
  have hguk : (l.map UE.u)[k]? = some (l[k]).u := by rw [List.getElem?_map, List.getElem?_eq_getElem hkl]; rfl
  obtain ⟨g, hg, g0, g1, g2, g3, _⟩ := (HX.out _ HC1.out).2.2.2.1.at HL.out.1 hkl
  have hfp2 : fp = some ⟨g, k * 4, none⟩ := by rw [← hfp, hfs, hg]; rfl
  have HSo : Hid (SOk X Y ep nx (l.map UE.u)) := hso
  have HCo : Hid ((putA X Y ep nx (l.map UE.u) id off zs).c = if (l[k]).u.done = true ∨ off ≠ ((l[k]).u.zs.length : Int) ∨ (l[k]).u.want < off + (zs.length : Int) then 4 else if (X.length : Int) - nx < (pcs zs.length : Int) then 5 else 0) := put_at hso hid' HLn.out hat hguk
  have hzn : (l[k]).u.zs.length = (l[k]).n := ((HX.out _ HC1.out).2.2.2.1.2.1 _ (List.getElem_mem hkl)).seg.1
  have hz48 : (l[k]).n ≤ 1099511627776 := by have := (fold_small hso.1 hso.2.2.1).2 _ (List.mem_map_of_mem (List.getElem_mem hkl)); omega
  have HWt : Hid (0 ≤ (l[k]).u.want ∧ (l[k]).u.want ≤ 1000000000) := hso.wants _ (List.mem_map_of_mem (List.getElem_mem hkl))
  have HFt : Hid (Calls Tryz.prog 93 #[.pointer (some ⟨g, k * 4, none⟩), .int .i64 off, .slice da dl dc] y1 fun e w' => e = .returned (.bool (fitB (l[k]).u off dl)) ∧ w' = y1) := implFits_any g (k * 4) (l[k]).u (l[k]).a (l[k]).n (l[k]).c off da dl dc y1 g1 g2 g3 hzn (hso.fitsU _ (List.mem_map_of_mem (List.getElem_mem hkl))) hz48 (by omega)
  subst hfp2
  clear hfp hfc hfs hso hguk g0 g1 g2 g3 hg hzn hz48
  generalize l[k] = x at *
  go_wp2_with fail
  refine HFt.out.mono ?_
  rintro _ y1 ⟨rfl, rfl⟩
  cases hfi : fitB x.u off dl with
  | false =>
    have hno : x.u.done = true ∨ off ≠ (x.u.zs.length : Int) ∨ x.u.want < off + (zs.length : Int) := fit_no (by rw [HL.out.2.2.2]; exact hfi) HWt.out
    clear hfi
    have HRs : Hid ((putA X Y ep nx (l.map UE.u) id off zs).c = 4) := by show _ = _; rw [HCo.out, if_pos hno]
    have HBw : Hid (Below w.heap.size w y1) := (HX.out _ HC1.out).2.2.2.2.1
    clear HX HC1
    go_wp2_with fail
    go_ret
    exact ⟨ret_int HRs.out.symm, HBw.out⟩
  | true =>
  have hyes : ¬ (x.u.done = true ∨ off ≠ (x.u.zs.length : Int) ∨ x.u.want < off + (zs.length : Int)) := fit_yes (by rw [HL.out.2.2.2]; exact hfi)
  have HCo2 : Hid ((putA X Y ep nx (l.map UE.u) id off zs).c = if (X.length : Int) - nx < (pcs zs.length : Int) then 5 else 0) := by show _ = _; rw [HCo.out, if_neg hyes]
  have hofb : 0 ≤ off ∧ off ≤ 1000000000 := by
    have h1 : ¬ off ≠ (x.u.zs.length : Int) := fun h => hyes (.inr (.inl h))
    have h2 : ¬ x.u.want < off + (zs.length : Int) := fun h => hyes (.inr (.inr h))
    have h3 := HWt.out
    omega
  clear hfi hyes HCo HFt
  have hdl1 : 1 ≤ dl ∧ dl ≤ 400 := by omega
  obtain ⟨db, do_, hda⟩ : ∃ db do_, da = some ⟨db, do_, none⟩ := by
    rcases (HX.out _ HC1.out).2.2.2.2.2.2.2.2 with h | ⟨db, do_, h, _⟩
    · omega
    · exact ⟨db, do_, h⟩
  subst hda
  have HBd : Hid (Below w0.heap.size w0 y1.drew) := HC1.out.drew
  have HDr : Hid (Calls Tryz.prog 56 #[.string id, .int .i64 off, .slice (some ⟨db, do_, none⟩) dl dc] y1.drew fun e w' => (∃ ra c rl, e = .returned (.slice ra (pcs dl) c) ∧ RcsI w' ra (pcs dl) rl ∧ rl.map RE.r = dataRs id off zs) ∧ Below y1.drew.heap.size y1.drew w') := implDataRs_any id off db do_ dl dc zs y1.drew (HX.out _ HBd.out).2.2.2.2.2.2 hdc hdl1.2 hdl1.1 hofb
  obtain ⟨Pn, hPn⟩ : ∃ Pn, pcs dl = Pn := ⟨_, rfl⟩
  rw [hPn] at HDr
  have HPn : Hid (pcs zs.length = Pn) := by show _ = _; rw [HL.out.2.2.2]; exact hPn
  have hP17 : Pn ≤ 17 := by rw [← hPn, pcs]; omega
  clear hPn
  obtain ⟨c0, c1, c2, c3, c4⟩ := (show _ ∧ _ ∧ _ ∧ _ ∧ _ from ⟨(HX.out _ HC1.out).1.cell 0 rfl, (HX.out _ HC1.out).1.cell 1 rfl, (HX.out _ HC1.out).1.cell 2 rfl, (HX.out _ HC1.out).1.cell 3 rfl, (HX.out _ HC1.out).1.cell 4 rfl⟩)
  go_upto_region 8 with fail
  go_region_held3 (fun W => W.cell? ⟨w.heap.size, 0, none⟩ = some (.slice a n ca) ∧ W.cell? ⟨w.heap.size, 1, none⟩ = some (.slice a' n' ca') ∧ W.cell? ⟨w.heap.size, 2, none⟩ = some (.int .i64 ep) ∧ W.cell? ⟨w.heap.size, 3, none⟩ = some (.int .i64 nx) ∧ W.cell? ⟨w.heap.size, 4, none⟩ = some (.slice ua un uc)) (first | with_reducible exact ⟨e0, e1, e2, e3, e4⟩ | with_reducible exact ⟨c0, c1, c2, c3, c4⟩ | exact ⟨c0, c1, c2, c3, c4⟩) (first
    | (go_at_call 56; refine HDr.out.mono ?_; rintro _ y2 ⟨⟨ra, rc, rl, rfl, _, _⟩, hb2⟩
       have hB2 : Below w0.heap.size w0 y2 := HBd.out.trans (hb2.mono HBd.out.size)
       have e0 := (HX.out _ hB2).1.cell 0 rfl
       have e1 := (HX.out _ hB2).1.cell 1 rfl
       have e2 := (HX.out _ hB2).1.cell 2 rfl
       have e3 := (HX.out _ hB2).1.cell 3 rfl
       have e4 := (HX.out _ hB2).1.cell 4 rfl)
    | (go_at_call 76; refine (implRoom_any a n ca a' n' ca' ep nx ua un uc (Pn : Int) y2 (by omega) (by omega)).mono ?_; rintro _ y3 ⟨rfl, hb3⟩
       have hB3 : Below w0.heap.size w0 y3 := hB2.trans (hb3.mono hB2.size)
       have e0 := (HX.out _ hB3).1.cell 0 rfl
       have e1 := (HX.out _ hB3).1.cell 1 rfl
       have e2 := (HX.out _ hB3).1.cell 2 rfl
       have e3 := (HX.out _ hB3).1.cell 3 rfl
       have e4 := (HX.out _ hB3).1.cell 4 rfl)
    | fail)
  have HC3 : Hid (Below w0.heap.size w0 y3) := hB3
  clear hb2 hb3 hB2 hB3 e0 e1 e2 e3 e4 c0 c1 c2 c3 c4 HDr HBd HC1
  by_cases hroom : (Pn : Int) ≤ (n : Int) - nx
  case neg =>
    rw [decide_eq_false hroom]
    have HRs : Hid ((putA X Y ep nx (l.map UE.u) id off zs).c = 5) := by show _ = _; rw [HCo2.out, if_pos (by rw [HPn.out, HL.out.2.2.1]; omega)]
    have HBw : Hid (Below w.heap.size w y3) := (HX.out _ HC3.out).2.2.2.2.1
    clear HX HC3
    go_wp2_with fail
    go_ret
    exact ⟨ret_int HRs.out.symm, HBw.out⟩
  rw [decide_eq_true hroom]
  have HRs : Hid ((putA X Y ep nx (l.map UE.u) id off zs).c = 0) := by show _ = _; rw [HCo2.out, if_neg (by rw [HPn.out, HL.out.2.2.1]; omega)]
  have HBw : Hid (Below w.heap.size w y3) := (HX.out _ HC3.out).2.2.2.2.1
  clear HX HC3
  go_wp2_with fail
  go_ret
  exact ⟨ret_int HRs.out.symm, HBw.out⟩

end Go.Proofs.YtjaihnmhojabfaaGreatDoor

namespace Go.Proofs.YtjaihnmhojabfaaGreatDoor
open Go.RowKit
set_option linter.unusedVariables false

set_option maxRecDepth 10000 in
set_option maxHeartbeats 3200000 in
theorem implPutUp_any (a : Option Addr) (n ca : Nat) (X : List ByteArray) (a' : Option Addr) (n' ca' : Nat) (Y : List ByteArray) (ep nx : Int) (ua : Option Addr) (un uc lo : Nat) (l : List UE) (id : ByteArray) (off : Int) (da : Option Addr) (dl dc : Nat) (zs : List Int) (w : World) (h1 : Strs w a n X) (h2 : Strs w a' n' Y) (hn : n ≤ 1048576) (hn' : n' ≤ 1048576) (hzx : ∀ x ∈ X, x.size ≤ 1048576) (hu : UpRow w lo (.slice ua un uc) l) (hun : un = l.length) (hul : un ≤ 1048576) (hz : ∀ e ∈ l, e.n ≤ 1099511627776) (hid : id.size ≤ maxLen) (hsd : Seg w da dl zs) (hdc : dl ≤ dc) (hdl : dl ≤ maxLen) (hsl : SlOk a n ca) (ht : RecT w) (he : ErrN w) :
    Calls Tryz.prog 15 #[.agg #[.slice a n ca, .slice a' n' ca', .int .i64 ep, .int .i64 nx, .slice ua un uc], .string id, .int .i64 off, .slice da dl dc] w fun e w' => WAns w.heap.size Y ep (putA X Y ep nx (l.map UE.u) id off zs) e w' ∧ Below w.heap.size w w' := by
  have hmm : maxLen < 9223372036854775808 := by decide
  obtain ⟨W2, hW2⟩ : ∃ W2, (w.alloc (.cells #[.slice a n ca, .slice a' n' ca', .int .i64 ep, .int .i64 nx, .slice ua un uc] 29)).alloc (.cells #[.slice none 0 0, .slice none 0 0, .int .i64 0, .int .i64 0, .slice none 0 0] 29) = W2 := ⟨_, rfl⟩
  have HE : Hid ((w.alloc (.cells #[.slice a n ca, .slice a' n' ca', .int .i64 ep, .int .i64 nx, .slice ua un uc] 29)).alloc (.cells #[.slice none 0 0, .slice none 0 0, .int .i64 0, .int .i64 0, .slice none 0 0] 29) = W2) := hW2
  have HB2 : Hid (Below w.heap.size w W2) := by show Below _ _ _; rw [← hW2]; exact ((Below.refl _ _).alloc (Nat.le_refl _) _).alloc (by simp) _
  have q1 : BoxN W2 w.heap.size 29 [.slice a n ca, .slice a' n' ca', .int .i64 ep, .int .i64 nx, .slice ua un uc] := by rw [← hW2]; exact (BoxN.new _ _ _).alloc _
  have q2 : BoxN W2 (w.heap.size + 1) 29 [.slice none 0 0, .slice none 0 0, .int .i64 0, .int .i64 0, .slice none 0 0] := by
    rw [← hW2]
    have := BoxN.new (w.alloc (.cells #[.slice a n ca, .slice a' n' ca', .int .i64 ep, .int .i64 nx, .slice ua un uc] 29)) 29 [.slice none 0 0, .slice none 0 0, .int .i64 0, .int .i64 0, .slice none 0 0]
    rwa [World.size_alloc] at this
  have HQ : Hid (∀ W, Below W2.heap.size W2 W → BoxN W w.heap.size 29 [.slice a n ca, .slice a' n' ca', .int .i64 ep, .int .i64 nx, .slice ua un uc] ∧ BoxN W (w.heap.size + 1) 29 [.slice none 0 0, .slice none 0 0, .int .i64 0, .int .i64 0, .slice none 0 0]) := fun W h => ⟨q1.stays h, q2.stays h⟩
  have HX : Hid (∀ W, Below W2.heap.size W2 W → Strs W a n X ∧ Strs W a' n' Y ∧ UpRow W lo (.slice ua un uc) l ∧ RecT W ∧ ErrN W ∧ Seg W da dl zs) := fun W h => by
    have hw := HB2.out.trans (h.mono HB2.out.size)
    exact ⟨h1.below hw, h2.below hw, hu.stays hw, ht.below hw, he.below hw, hsd.below hw⟩
  have HL : Hid (un = l.length ∧ (∀ e ∈ l, e.n ≤ 1099511627776) ∧ (∀ x ∈ X, x.size ≤ 1048576) ∧ X.length = n ∧ zs.length = dl) := ⟨hun, hz, hzx, h1.1, hsd.1⟩
  have hs2 : w.heap.size + 1 < W2.heap.size := q2.lt
  clear hW2 q1 q2 h1 h2 hu hun hz hzx ht he hsd
  have HA0 : Hid (Below W2.heap.size W2 W2) := Below.refl _ _
  obtain ⟨c0, c1, c2, c3, c4⟩ := (show _ ∧ _ ∧ _ ∧ _ ∧ _ from ⟨(HQ.out _ HA0.out).1.cell 0 rfl, (HQ.out _ HA0.out).1.cell 1 rfl, (HQ.out _ HA0.out).1.cell 2 rfl, (HQ.out _ HA0.out).1.cell 3 rfl, (HQ.out _ HA0.out).1.cell 4 rfl⟩)
  go_enter Tryz.func15, Tryz.ntmps15
  go_upto_region 1 with fail
  rw [HE.out]
  clear HE
  go_wp2_with fail
  refine (implPutC_any a n ca X a' n' ca' Y ep nx ua un uc lo l id off da dl dc zs W2 (HX.out _ HA0.out).1 (HX.out _ HA0.out).2.1 hn hn' HL.out.2.2.1 (HX.out _ HA0.out).2.2.1 HL.out.1 hul hid (HX.out _ HA0.out).2.2.2.2.2 hdc hdl hsl (HX.out _ HA0.out).2.2.2.1 (HX.out _ HA0.out).2.2.2.2.1).mono ?_
  rintro _ y1 ⟨rfl, hb1⟩
  have HC1 : Hid (Below W2.heap.size W2 y1) := hb1
  clear hb1 c0 c1 c2 c3 c4
  obtain ⟨cc, hcc⟩ : ∃ cc, (putA X Y ep nx (l.map UE.u) id off zs).c = cc := ⟨_, rfl⟩
  rw [hcc]
  obtain ⟨c0, c1, c2, c3, c4⟩ := (show _ ∧ _ ∧ _ ∧ _ ∧ _ from ⟨(HQ.out _ HC1.out).1.cell 0 rfl, (HQ.out _ HC1.out).1.cell 1 rfl, (HQ.out _ HC1.out).1.cell 2 rfl, (HQ.out _ HC1.out).1.cell 3 rfl, (HQ.out _ HC1.out).1.cell 4 rfl⟩)
  by_cases h0 : cc = 0
  case neg =>
    have HRs : Hid (putA X Y ep nx (l.map UE.u) id off zs = ⟨X, nx, l.map UE.u, cc⟩) := by
      show _ = _
      have h9 : (putA X Y ep nx (l.map UE.u) id off zs).c ≠ 0 := by rw [hcc]; exact h0
      rw [← hcc]
      exact putA_no h9
    have hd0 : (cc != 0) = true := by simpa using h0
    clear hcc h0
    go_wp2_with fail
    refine (implScopy_any a n ca X a' n' ca' Y ep nx ua un uc lo l y1 (HX.out _ HC1.out).1 (HX.out _ HC1.out).2.1 hn hn' (HX.out _ HC1.out).2.2.1 HL.out.1 hul HL.out.2.1).mono ?_
    rintro _ y2 ⟨⟨v, rfl, hv⟩, hb2⟩
    obtain ⟨b, cb, b', cb', va, vc, l', rfl, hs2', hm2⟩ := hv.get
    have HC2 : Hid (Below W2.heap.size W2 y2) := HC1.out.trans (hb2.mono HC1.out.size)
    have HSt : Hid (StoAt y2 W2.heap.size b X.length cb X b' Y.length cb' Y va (l.map UE.u).length vc l' ∧ l'.map UE.u = l.map UE.u) := ⟨hs2'.low HC1.out.size, hm2⟩
    have HBw : Hid (Below w.heap.size w y2) := HB2.out.trans (HC2.out.mono HB2.out.size)
    obtain ⟨K, hK⟩ : ∃ K, (l.map UE.u).length = K := ⟨_, rfl⟩
    rw [hK] at HSt ⊢
    obtain ⟨r0, r1, r2, r3, r4⟩ := (show _ ∧ _ ∧ _ ∧ _ ∧ _ from ⟨(HQ.out _ HC2.out).2.cell 0 rfl, (HQ.out _ HC2.out).2.cell 1 rfl, (HQ.out _ HC2.out).2.cell 2 rfl, (HQ.out _ HC2.out).2.cell 3 rfl, (HQ.out _ HC2.out).2.cell 4 rfl⟩)
    obtain ⟨f0, f1, f2, f3, f4⟩ := (show _ ∧ _ ∧ _ ∧ _ ∧ _ from ⟨(HQ.out _ HC2.out).2.frozen 0, (HQ.out _ HC2.out).2.frozen 1, (HQ.out _ HC2.out).2.frozen 2, (HQ.out _ HC2.out).2.frozen 3, (HQ.out _ HC2.out).2.frozen 4⟩)
    clear hv hs2' hm2 hb2 HQ HX HC1 HC2 hK c0 c1 c2 c3 c4
    go_wp2_with fail
    refine bodyPost_ret (v := .tuple #[.agg #[.slice b X.length cb, .slice b' Y.length cb', .int .i64 ep, .int .i64 nx, .slice va K vc], .int .i64 cc]) (by simp [results, Tryz.f15, go_sem, r0, r1, r2, r3, r4]) rfl ?_
    refine ⟨?_, ?_⟩
    · rw [WAns, HRs.out]
      exact ⟨_, rfl, b, X.length, cb, b', Y.length, cb', va, K, vc, l', rfl, (((((HSt.out.1.setLow (by omega) _).setLow (by omega) _).setLow (by omega) _).setLow (by omega) _).setLow (by omega) _).low (by omega), HSt.out.2⟩
    · exact ((((HBw.out.setCell (by dsimp only; omega) _).setCell (by dsimp only; omega) _).setCell (by dsimp only; omega) _).setCell (by dsimp only; omega) _).setCell (by dsimp only; omega) _
  subst h0
  obtain ⟨hso, hidb, hlz, k, u, hat, hus, hdn, hof, hwt, hroom, hfo, hmod⟩ := putA_yes hcc
  have hdl1 : 1 ≤ dl ∧ dl ≤ 400 := by have := HL.out.2.2.2.2; omega
  obtain ⟨us', hus'⟩ : ∃ us', putU (l.map UE.u) k u zs (pcs zs.length) = us' := ⟨_, rfl⟩
  obtain ⟨Pn, hPn⟩ : ∃ Pn, pcs dl = Pn := ⟨_, rfl⟩
  have hPz : pcs zs.length = Pn := by rw [HL.out.2.2.2.2]; exact hPn
  rw [hus'] at hfo hmod
  rw [hPz] at hmod hroom
  have hwu := hso.wants u (List.mem_of_getElem? hus)
  have hofb : 0 ≤ off ∧ off ≤ 1000000000 := by omega
  have HRs : Hid (putA X Y ep nx (l.map UE.u) id off zs = ⟨wroteX X ep nx.toNat (dataRs id off zs), nx + (Pn : Int), us', 0⟩) := hmod
  have HSo : Hid (SOk X Y ep nx (l.map UE.u)) := hso
  have HKk : Hid ((∀ r ∈ dataRs id off zs, idB r.id.data.toList = true ∧ kindB r.k r.n r.zs.length = true ∧ ∀ x ∈ r.zs, 0 ≤ x ∧ x ≤ 255) ∧ (dataRs id off zs).foldlM oneU (l.map UE.u) = some us' ∧ nx + (Pn : Int) ≤ (X.length : Int)) := ⟨dataRs_ok hidb hofb.1 (by omega) (HX.out _ HC1.out).2.2.2.2.2.2.1, hfo, hroom⟩
  have HNn : Hid (0 ≤ nx ∧ nx ≤ 200) := by show _ ∧ _; have := hso.nums; omega
  clear hcc hso hidb hlz hat hus hdn hof hwt hroom hfo hmod hus' hPz hwu
  obtain ⟨db, do_, hda⟩ : ∃ db do_, da = some ⟨db, do_, none⟩ := by
    rcases (HX.out _ HC1.out).2.2.2.2.2.2.2 with h | ⟨db, do_, h, _⟩
    · omega
    · exact ⟨db, do_, h⟩
  subst hda
  have HBd : Hid (Below W2.heap.size W2 y1.drew) := HC1.out.drew
  have HDr : Hid (Calls Tryz.prog 56 #[.string id, .int .i64 off, .slice (some ⟨db, do_, none⟩) dl dc] y1.drew fun e w' => (∃ ra c rl, e = .returned (.slice ra (pcs dl) c) ∧ RcsI w' ra (pcs dl) rl ∧ rl.map RE.r = dataRs id off zs) ∧ Below y1.drew.heap.size y1.drew w') := implDataRs_any id off db do_ dl dc zs y1.drew (HX.out _ HBd.out).2.2.2.2.2 hdc hdl1.2 hdl1.1 hofb
  rw [hPn] at HDr
  have HWr : Hid (∀ (ra : Option Addr) (rc : Nat) (rl : List RE) (y2 : World), Below W2.heap.size W2 y2 → RcsI y2 ra Pn rl → rl.map RE.r = dataRs id off zs → Calls Tryz.prog 38 #[.agg #[.slice a n ca, .slice a' n' ca', .int .i64 ep, .int .i64 nx, .slice ua un uc], .slice ra Pn rc] y2 fun e w' => (∃ v, e = .returned v ∧ AnsS y2.heap.size (wroteX X ep nx.toNat (dataRs id off zs)) Y ep (nx + (Pn : Int)) us' v w') ∧ Below y2.heap.size y2 w') := fun ra rc rl y2 hy hr hrl => by
    have h := implWritten_any a n ca X a' n' ca' Y ep nx ua un uc lo l ra Pn rc rl us' y2 (HX.out _ hy).1 (HX.out _ hy).2.1 hn hn' HL.out.2.2.1 (HX.out _ hy).2.2.1 HL.out.1 hul HL.out.2.1 (HX.out _ hy).2.2.2.1 (HX.out _ hy).2.2.2.2.1 hr HSo.out (by rw [hrl]; exact HKk.out.1) HKk.out.2.2 (by rw [hrl]; exact HKk.out.2.1)
    rw [hrl] at h
    exact h
  obtain ⟨NN, hNN⟩ : ∃ NN, (wroteX X ep nx.toNat (dataRs id off zs)).length = NN := ⟨_, rfl⟩
  obtain ⟨K, hK⟩ : ∃ K, us'.length = K := ⟨_, rfl⟩
  have HNN : Hid ((wroteX X ep nx.toNat (dataRs id off zs)).length = NN ∧ us'.length = K) := ⟨hNN, hK⟩
  have hneB : w.heap.size ≠ w.heap.size + 1 := by omega
  clear hPn hNN hK
  go_upto_region 4 with fail
  go_region_held3 (fun W => W.cell? ⟨w.heap.size, 0, none⟩ = some (.slice a n ca) ∧ W.cell? ⟨w.heap.size, 1, none⟩ = some (.slice a' n' ca') ∧ W.cell? ⟨w.heap.size, 2, none⟩ = some (.int .i64 ep) ∧ W.cell? ⟨w.heap.size, 3, none⟩ = some (.int .i64 nx) ∧ W.cell? ⟨w.heap.size, 4, none⟩ = some (.slice ua un uc)) (first | with_reducible exact ⟨e0, e1, e2, e3, e4⟩ | with_reducible exact ⟨c0, c1, c2, c3, c4⟩ | with_reducible exact ⟨cellD_kept hneB (cellD_kept hneB (cellD_kept hneB (cellD_kept hneB (cellD_kept hneB e0)))), cellD_kept hneB (cellD_kept hneB (cellD_kept hneB (cellD_kept hneB (cellD_kept hneB e1)))), cellD_kept hneB (cellD_kept hneB (cellD_kept hneB (cellD_kept hneB (cellD_kept hneB e2)))), cellD_kept hneB (cellD_kept hneB (cellD_kept hneB (cellD_kept hneB (cellD_kept hneB e3)))), cellD_kept hneB (cellD_kept hneB (cellD_kept hneB (cellD_kept hneB (cellD_kept hneB e4))))⟩ | exact ⟨c0, c1, c2, c3, c4⟩) (first
    | (go_at_call 56; refine HDr.out.mono ?_; rintro _ y2 ⟨⟨ra, rc, rl, rfl, hrr, hrl⟩, hb2⟩
       have hB2 : Below W2.heap.size W2 y2 := HBd.out.trans (hb2.mono HBd.out.size)
       have HRr : Hid (RcsI y2 ra Pn rl ∧ rl.map RE.r = dataRs id off zs) := ⟨hrr, hrl⟩
       clear hrr hrl
       have e0 := (HQ.out _ hB2).1.cell 0 rfl
       have e1 := (HQ.out _ hB2).1.cell 1 rfl
       have e2 := (HQ.out _ hB2).1.cell 2 rfl
       have e3 := (HQ.out _ hB2).1.cell 3 rfl
       have e4 := (HQ.out _ hB2).1.cell 4 rfl)
    | (go_at_call 38; refine (HWr.out ra rc rl y2 hB2 HRr.out.1 HRr.out.2).mono ?_; rintro _ y3 ⟨⟨v, rfl, hv⟩, hb3⟩
       obtain ⟨b, cb, b', cb', va, vc, l', rfl, hs3, hm3⟩ := hv.get
       rw [HNN.out.1, HNN.out.2] at hs3 ⊢
       have hB3 : Below W2.heap.size W2 y3 := hB2.trans (hb3.mono hB2.size)
       have e0 := (HQ.out _ hB3).1.cell 0 rfl
       have e1 := (HQ.out _ hB3).1.cell 1 rfl
       have e2 := (HQ.out _ hB3).1.cell 2 rfl
       have e3 := (HQ.out _ hB3).1.cell 3 rfl
       have e4 := (HQ.out _ hB3).1.cell 4 rfl
       have r0 := (HQ.out _ hB3).2.cell 0 rfl
       have r1 := (HQ.out _ hB3).2.cell 1 rfl
       have r2 := (HQ.out _ hB3).2.cell 2 rfl
       have r3 := (HQ.out _ hB3).2.cell 3 rfl
       have r4 := (HQ.out _ hB3).2.cell 4 rfl
       have f0 := (HQ.out _ hB3).2.frozen 0
       have f1 := (HQ.out _ hB3).2.frozen 1
       have f2 := (HQ.out _ hB3).2.frozen 2
       have f3 := (HQ.out _ hB3).2.frozen 3
       have f4 := (HQ.out _ hB3).2.frozen 4)
    | fail)
  have HSt : Hid (StoAt y3 W2.heap.size b NN cb (wroteX X ep nx.toNat (dataRs id off zs)) b' Y.length cb' Y va K vc l' ∧ l'.map UE.u = us') := ⟨hs3.low hB2.size, hm3⟩
  have HBw : Hid (Below w.heap.size w y3) := HB2.out.trans (hB3.mono HB2.out.size)
  clear hv hs3 hm3 hb2 hb3 hB2 hB3 HQ HX HC1 HBd HDr HWr HRr e0 e1 e2 e3 e4 c0 c1 c2 c3 c4
  go_wp2_with fail
  refine bodyPost_ret (v := .tuple #[.agg #[.slice b NN cb, .slice b' Y.length cb', .int .i64 ep, .int .i64 (nx + (Pn : Int)), .slice va K vc], .int .i64 0]) (by simp [results, Tryz.f15, go_sem, r0, r1, r2, r3, r4]) rfl ?_
  refine ⟨?_, ?_⟩
  · rw [WAns, HRs.out]
    exact ⟨_, rfl, b, NN, cb, b', Y.length, cb', va, K, vc, l', rfl, (((((HSt.out.1.setLow (by omega) _).setLow (by omega) _).setLow (by omega) _).setLow (by omega) _).setLow (by omega) _).low (by omega), HSt.out.2⟩
  · exact ((((HBw.out.setCell (by dsimp only; omega) _).setCell (by dsimp only; omega) _).setCell (by dsimp only; omega) _).setCell (by dsimp only; omega) _).setCell (by dsimp only; omega) _

end Go.Proofs.YtjaihnmhojabfaaGreatDoor

namespace Go.Proofs.YtjaihnmhojabfaaGreatDoor
open Go.RowKit
set_option linter.unusedVariables false

section
variable {X Y : List ByteArray} {ep nx : Int} {us : List U} {id : ByteArray} {sum : Int}

theorem doneI_forC (h : forC X Y ep nx us id ≠ 0) : (doneI X Y ep nx us id sum).c = forC X Y ep nx us id := by
  rw [forC] at h ⊢
  rw [doneI]
  split
  · rename_i h1
    rw [if_pos h1] at h
    cases ha : atU us id with
    | none => rw [if_pos rfl]
    | some k => rw [ha, if_neg (by simp)] at h; exact absurd rfl h
  · rfl

theorem doneI_at {k : Nat} {u : U} (hso : SOk X Y ep nx us) (hid : idB id.data.toList = true) (hk : atU us id = some k) (hu : us[k]? = some u) :
    doneI X Y ep nx us id sum = if (u.zs.length : Int) < u.want then ⟨X, nx, us, 4⟩ else if u.done = false ∧ ¬ nx < (X.length : Int) then ⟨X, nx, us, 5⟩ else if sum ≠ crcI u.zs then ⟨X, nx, us, 6⟩ else if u.done = true then ⟨X, nx, us, 0⟩ else wroteA X ep nx us [doneR id] := by
  rw [doneI, if_pos ⟨decB_true hso, hid⟩, hk]
  dsimp only
  rw [hu]

theorem doneI_no (h : (doneI X Y ep nx us id sum).c ≠ 0) : doneI X Y ep nx us id sum = ⟨X, nx, us, (doneI X Y ep nx us id sum).c⟩ := by
  unfold doneI at h ⊢
  split
  · rename_i h1
    rw [if_pos h1] at h
    cases ha : atU us id with
    | none => rfl
    | some k =>
      rw [ha] at h
      dsimp only at h ⊢
      cases hu : us[k]? with
      | none => rfl
      | some u =>
        rw [hu] at h
        dsimp only at h ⊢
        split
        · rfl
        · rename_i h2
          rw [if_neg h2] at h
          split
          · rfl
          · rename_i h3
            rw [if_neg h3] at h
            split
            · rfl
            · rename_i h4
              rw [if_neg h4] at h
              split
              · rfl
              · rename_i h5
                rw [if_neg h5] at h
                exact absurd rfl h
  · rfl

/-- What is known where it is done. -/
theorem doneI_yes (h : (doneI X Y ep nx us id sum).c = 0) : SOk X Y ep nx us ∧ idB id.data.toList = true ∧ ∃ k u, atU us id = some k ∧ us[k]? = some u ∧
    ((u.done = true ∧ doneI X Y ep nx us id sum = ⟨X, nx, us, 0⟩) ∨ (u.done = false ∧ nx + 1 ≤ (X.length : Int) ∧ [doneR id].foldlM oneU us = some (us.set k { u with done := true }) ∧ doneI X Y ep nx us id sum = ⟨wroteX X ep nx.toNat [doneR id], nx + 1, us.set k { u with done := true }, 0⟩)) := by
  by_cases h1 : decB (SOk X Y ep nx us) = true ∧ idB id.data.toList = true
  · have hso := decB_of h1.1
    cases ha : atU us id with
    | none =>
      rw [doneI, if_pos h1, ha] at h
      cases h
    | some k =>
      obtain ⟨hkl, _⟩ := atU_is ha
      have hu : us[k]? = some us[k] := List.getElem?_eq_getElem hkl
      have e := doneI_at (sum := sum) hso h1.2 ha hu
      rw [e] at h
      refine ⟨hso, h1.2, k, us[k], rfl, hu, ?_⟩
      rw [e]
      split at h
      · cases h
      · rename_i h2
        rw [if_neg h2]
        split at h
        · cases h
        · rename_i h3
          rw [if_neg h3]
          split at h
          · cases h
          · rename_i h4
            rw [if_neg h4]
            by_cases hd : us[k].done = true
            · left
              exact ⟨hd, by rw [if_pos hd]⟩
            · right
              rw [if_neg hd]
              have hd' : us[k].done = false := by simpa using hd
              have hroom : nx < (X.length : Int) := by
                by_cases hr : nx < (X.length : Int)
                · exact hr
                · exact absurd ⟨hd', hr⟩ h3
              have hfit := hso.fits _ (List.mem_of_getElem? hu)
              have hw : (us[k].zs.length : Int) = us[k].want := by have := hfit.1; omega
              have hf : [doneR id].foldlM oneU us = some (us.set k { us[k] with done := true }) := by rw [List.foldlM_cons, done_fits ha hu hd' hw]; rfl
              refine ⟨hd', by omega, hf, ?_⟩
              rw [wroteA, hf]
              rfl
  · rw [doneI, if_neg h1] at h
    cases h
end

end Go.Proofs.YtjaihnmhojabfaaGreatDoor

namespace Go.Proofs.YtjaihnmhojabfaaGreatDoor
open Go.RowKit
set_option linter.unusedVariables false

set_option maxRecDepth 10000 in
set_option maxHeartbeats 3200000 in
theorem implDoneC_any (a : Option Addr) (n ca : Nat) (X : List ByteArray) (a' : Option Addr) (n' ca' : Nat) (Y : List ByteArray) (ep nx : Int) (ua : Option Addr) (un uc lo : Nat) (l : List UE) (id : ByteArray) (sum : Int) (w : World) (h1 : Strs w a n X) (h2 : Strs w a' n' Y) (hn : n ≤ 1048576) (hn' : n' ≤ 1048576) (hzx : ∀ x ∈ X, x.size ≤ 1048576) (hu : UpRow w lo (.slice ua un uc) l) (hun : un = l.length) (hul : un ≤ 1048576) (hid : id.size ≤ maxLen) (hsl : SlOk a n ca) (ht : RecT w) (he : ErrN w) :
    Calls Tryz.prog 57 #[.agg #[.slice a n ca, .slice a' n' ca', .int .i64 ep, .int .i64 nx, .slice ua un uc], .string id, .int .i64 sum] w fun e w' => e = .returned (.int .i64 (doneI X Y ep nx (l.map UE.u) id sum).c) ∧ Below w.heap.size w w' := by
  have hmm : maxLen < 9223372036854775808 := by decide
  obtain ⟨w0, hw0⟩ : ∃ w0, w.alloc (.cells #[.slice a n ca, .slice a' n' ca', .int .i64 ep, .int .i64 nx, .slice ua un uc] 29) = w0 := ⟨_, rfl⟩
  have HE : Hid (w.alloc (.cells #[.slice a n ca, .slice a' n' ca', .int .i64 ep, .int .i64 nx, .slice ua un uc] 29) = w0) := hw0
  have hB : Below w.heap.size w w0 := by rw [← hw0]; exact (Below.refl _ _).alloc (Nat.le_refl _) _
  have hQ : BoxN w0 w.heap.size 29 [.slice a n ca, .slice a' n' ca', .int .i64 ep, .int .i64 nx, .slice ua un uc] := by rw [← hw0]; exact BoxN.new _ _ _
  have HX : Hid (∀ W, Below w0.heap.size w0 W → BoxN W w.heap.size 29 [.slice a n ca, .slice a' n' ca', .int .i64 ep, .int .i64 nx, .slice ua un uc] ∧ Strs W a n X ∧ Strs W a' n' Y ∧ UpRow W lo (.slice ua un uc) l ∧ Below w.heap.size w W ∧ (RecT W ∧ ErrN W)) := fun W hb => by
    have hw : Below w.heap.size w W := hB.trans (hb.mono hB.size)
    exact ⟨hQ.stays hb, h1.below hw, h2.below hw, hu.stays hw, hw, ⟨ht.below hw, he.below hw⟩⟩
  have HL : Hid (un = l.length ∧ (∀ x ∈ X, x.size ≤ 1048576) ∧ X.length = n) := ⟨hun, hzx, h1.1⟩
  have HA0 : Hid (Below w0.heap.size w0 w0) := Below.refl _ _
  clear hw0 h1 h2 hu hun hzx ht he hB  hQ
  obtain ⟨c0, c1, c2, c3, c4⟩ := (show _ ∧ _ ∧ _ ∧ _ ∧ _ from ⟨(HX.out _ HA0.out).1.cell 0 rfl, (HX.out _ HA0.out).1.cell 1 rfl, (HX.out _ HA0.out).1.cell 2 rfl, (HX.out _ HA0.out).1.cell 3 rfl, (HX.out _ HA0.out).1.cell 4 rfl⟩)
  go_enter Tryz.func57, Tryz.ntmps57
  go_upto_region 1 with fail
  rw [HE.out]
  clear HE
  go_wp2_with fail
  refine (implUpFor_any a n ca X a' n' ca' Y ep nx ua un uc lo l id w0 (HX.out _ HA0.out).2.1 (HX.out _ HA0.out).2.2.1 hn hn' HL.out.2.1 (HX.out _ HA0.out).2.2.2.1 HL.out.1 hul hid hsl (HX.out _ HA0.out).2.2.2.2.2.1 (HX.out _ HA0.out).2.2.2.2.2.2).mono ?_
  rintro _ y1 ⟨rfl, hb1⟩
  have HC1 : Hid (Below w0.heap.size w0 y1) := hb1
  clear hb1 c0 c1 c2 c3 c4
  obtain ⟨fp, hfp⟩ : ∃ fp, forP X Y ep nx (l.map UE.u) id ua = fp := ⟨_, rfl⟩
  obtain ⟨fc, hfc⟩ : ∃ fc, forC X Y ep nx (l.map UE.u) id = fc := ⟨_, rfl⟩
  rw [hfp, hfc]
  by_cases h0 : fc = 0
  case neg =>
    have hd0 : (fc == 0) = false := by simpa using h0
    clear hfp
    have HRs : Hid ((doneI X Y ep nx (l.map UE.u) id sum).c = fc) := by show _ = _; rw [← hfc]; exact doneI_forC (by rw [hfc]; exact h0)
    have HBw : Hid (Below w.heap.size w y1) := (HX.out _ HC1.out).2.2.2.2.1
    clear HX HC1
    go_wp2_with fail
    go_ret
    exact ⟨ret_int HRs.out.symm, HBw.out⟩
  subst h0
  obtain ⟨hso, hid', k, hat⟩ := forC_zero hfc
  have hfs := (for_some (ua := ua) (decB_true hso) hid' hat).1
  obtain ⟨hen, hn0, hnX, hX200⟩ := hso.nums
  have hkl : k < l.length := by simpa using (atU_is hat).1
  have hguk : (l.map UE.u)[k]? = some (l[k]).u := by rw [List.getElem?_map, List.getElem?_eq_getElem hkl]; rfl
  obtain ⟨g, hg, g0, g1, g2, g3, _⟩ := (HX.out _ HC1.out).2.2.2.1.at HL.out.1 hkl
  have hfp2 : fp = some ⟨g, k * 4, none⟩ := by rw [← hfp, hfs, hg]; rfl
  have HCo : Hid (doneI X Y ep nx (l.map UE.u) id sum = if ((l[k]).u.zs.length : Int) < (l[k]).u.want then ⟨X, nx, l.map UE.u, 4⟩ else if (l[k]).u.done = false ∧ ¬ nx < (X.length : Int) then ⟨X, nx, l.map UE.u, 5⟩ else if sum ≠ crcI (l[k]).u.zs then ⟨X, nx, l.map UE.u, 6⟩ else if (l[k]).u.done = true then ⟨X, nx, l.map UE.u, 0⟩ else wroteA X ep nx (l.map UE.u) [doneR id]) := doneI_at hso hid' hat hguk
  have hzn : (l[k]).u.zs.length = (l[k]).n := ((HX.out _ HC1.out).2.2.2.1.2.1 _ (List.getElem_mem hkl)).seg.1
  have HSg : Hid (∀ W, Below w0.heap.size w0 W → Seg W (l[k]).a (l[k]).n (l[k]).u.zs ∧ W.cell? ⟨g, k * 4 + 1, none⟩ = some (.int .i64 (l[k]).u.want) ∧ W.cell? ⟨g, k * 4 + 2, none⟩ = some (.slice (l[k]).a (l[k]).n (l[k]).c) ∧ W.cell? ⟨g, k * 4 + 3, none⟩ = some (.bool (l[k]).u.done)) := fun W h => by
    obtain ⟨g', hg', q0, q1, q2, q3, _⟩ := (HX.out _ h).2.2.2.1.at HL.out.1 hkl
    rw [hg] at hg'
    injection hg' with hg'
    injection hg' with hg'
    subst hg'
    exact ⟨((HX.out _ h).2.2.2.1.2.1 _ (List.getElem_mem hkl)).seg, q1, q2, q3⟩
  have hz48 : (l[k]).n ≤ 4800 := by have := (fold_small hso.1 hso.2.2.1).2 _ (List.mem_map_of_mem (List.getElem_mem hkl)); omega
  subst hfp2
  clear hfp hfc hfs hso hguk g0 g1 g2 g3 hg
  generalize l[k] = x at *
  have HZn : Hid (x.u.zs.length = x.n) := hzn
  clear hzn
  rw [HZn.out] at HCo
  obtain ⟨_, c1, c2, c3⟩ := HSg.out _ HC1.out
  have HCq : Hid (∀ k : Nat, Below w0.heap.size w0 (y1.drewN k)) := fun k => below_drewN HC1.out k
  go_upto_region 4 with fail
  go_quiet (fail)
  obtain ⟨y2, hy2⟩ : ∃ y2, y1.drewN nq = y2 := ⟨_, rfl⟩
  have HC2 : Hid (Below w0.heap.size w0 y2) := by show Below _ _ _; rw [← hy2]; exact HCq.out nq
  rw [hy2]
  clear hy2 HC1 HCq c1 c2 c3
  obtain ⟨_, c1, c2, c3⟩ := HSg.out _ HC2.out
  by_cases hless : (x.n : Int) < x.u.want
  · have hd1 : decide ((x.n : Int) < x.u.want) = true := by simpa using hless
    have HRs : Hid ((doneI X Y ep nx (l.map UE.u) id sum).c = 4) := by show _ = _; rw [HCo.out, if_pos hless]
    clear HSg
    have HBw : Hid (Below w.heap.size w y2) := (HX.out _ HC2.out).2.2.2.2.1
    clear HX HC2
    go_wp2_with fail
    go_ret
    exact ⟨ret_int HRs.out.symm, HBw.out⟩
  have HCo2 := (show Hid _ from HCo.out.trans (if_neg hless))
  have hd1 : decide ((x.n : Int) < x.u.want) = false := by simpa using hless
  clear HCo
  obtain ⟨r0, r1, r2, r3, r4⟩ := (show _ ∧ _ ∧ _ ∧ _ ∧ _ from ⟨(HX.out _ HC2.out).1.cell 0 rfl, (HX.out _ HC2.out).1.cell 1 rfl, (HX.out _ HC2.out).1.cell 2 rfl, (HX.out _ HC2.out).1.cell 3 rfl, (HX.out _ HC2.out).1.cell 4 rfl⟩)
  cases hdn : x.u.done with
  | false =>
    rw [hdn] at c3
    go_wp2_with fail
    refine (implRoom_any a n ca a' n' ca' ep nx ua un uc 1 y2 (by omega) (by omega)).mono ?_
    rintro _ y3 ⟨rfl, hb2⟩
    have HC3 : Hid (Below w0.heap.size w0 y3) := HC2.out.trans (hb2.mono HC2.out.size)
    clear hb2 HC2 c1 c2 c3 r0 r1 r2 r3 r4
    by_cases hroom : (1 : Int) ≤ (n : Int) - nx
    case neg =>
      rw [decide_eq_false hroom]
      have HRs : Hid ((doneI X Y ep nx (l.map UE.u) id sum).c = 5) := by show _ = _; rw [HCo2.out, if_pos ⟨hdn, by rw [HL.out.2.2]; omega⟩]
      clear HSg
      have HBw : Hid (Below w.heap.size w y3) := (HX.out _ HC3.out).2.2.2.2.1
      clear HX HC3
      go_wp2_with fail
      go_ret
      exact ⟨ret_int HRs.out.symm, HBw.out⟩
    rw [decide_eq_true hroom]
    have HCo3 := (show Hid _ from HCo2.out.trans (if_neg (fun h => by have h2 := h.2; rw [HL.out.2.2] at h2; omega)))
    clear HCo2
    obtain ⟨_, c1, c2, c3⟩ := HSg.out _ HC3.out
    have HCr : Hid (Calls Tryz.prog 19 #[.slice x.a x.n x.c] y3 fun e w' => e = .returned (.int .i64 (crcI x.u.zs)) ∧ w' = y3) := implCrc_any x.a x.n x.c x.u.zs y3 (HSg.out _ HC3.out).1 (by omega)
    obtain ⟨cr, hcr⟩ : ∃ cr, crcI x.u.zs = cr := ⟨_, rfl⟩
    rw [hcr] at HCr HCo3
    clear hcr
    rw [hdn] at c3
    go_wp2_with fail
    refine HCr.out.mono ?_
    rintro _ y3 ⟨rfl, rfl⟩
    clear HCr
    by_cases hsm : sum = cr
    · have hd2 : (sum != cr) = false := by simpa using hsm
      have HRs : Hid ((doneI X Y ep nx (l.map UE.u) id sum).c = 0) := by show _ = _; rw [HCo3.out, if_neg (fun h => h hsm), if_neg (by rw [hdn]; simp), wroteA]
      clear HSg HCo3
      have HBw : Hid (Below w.heap.size w y3) := (HX.out _ HC3.out).2.2.2.2.1
      clear HX HC3
      go_wp2_with fail
      go_ret
      exact ⟨ret_int HRs.out.symm, HBw.out⟩
    · have hd2 : (sum != cr) = true := by simpa using hsm
      have HRs : Hid ((doneI X Y ep nx (l.map UE.u) id sum).c = 6) := by show _ = _; rw [HCo3.out, if_pos hsm]
      clear HSg HCo3
      have HBw : Hid (Below w.heap.size w y3) := (HX.out _ HC3.out).2.2.2.2.1
      clear HX HC3
      go_wp2_with fail
      go_ret
      exact ⟨ret_int HRs.out.symm, HBw.out⟩
  | true =>
    rw [hdn] at c3
    have HCo3 := (show Hid _ from HCo2.out.trans (if_neg (fun h => by have h1 := h.1; rw [hdn] at h1; cases h1)))
    clear HCo2
    have HCr : Hid (Calls Tryz.prog 19 #[.slice x.a x.n x.c] y2 fun e w' => e = .returned (.int .i64 (crcI x.u.zs)) ∧ w' = y2) := implCrc_any x.a x.n x.c x.u.zs y2 (HSg.out _ HC2.out).1 (by omega)
    obtain ⟨cr, hcr⟩ : ∃ cr, crcI x.u.zs = cr := ⟨_, rfl⟩
    rw [hcr] at HCr HCo3
    clear hcr
    go_wp2_with fail
    refine HCr.out.mono ?_
    rintro _ y2 ⟨rfl, rfl⟩
    clear HCr
    by_cases hsm : sum = cr
    · have hd2 : (sum != cr) = false := by simpa using hsm
      have HRs : Hid ((doneI X Y ep nx (l.map UE.u) id sum).c = 0) := by show _ = _; rw [HCo3.out, if_neg (fun h => h hsm), if_pos hdn]
      clear HSg HCo3
      have HBw : Hid (Below w.heap.size w y2) := (HX.out _ HC2.out).2.2.2.2.1
      clear HX HC2
      go_wp2_with fail
      go_ret
      exact ⟨ret_int HRs.out.symm, HBw.out⟩
    · have hd2 : (sum != cr) = true := by simpa using hsm
      have HRs : Hid ((doneI X Y ep nx (l.map UE.u) id sum).c = 6) := by show _ = _; rw [HCo3.out, if_pos hsm]
      clear HSg HCo3
      have HBw : Hid (Below w.heap.size w y2) := (HX.out _ HC2.out).2.2.2.2.1
      clear HX HC2
      go_wp2_with fail
      go_ret
      exact ⟨ret_int HRs.out.symm, HBw.out⟩

end Go.Proofs.YtjaihnmhojabfaaGreatDoor
