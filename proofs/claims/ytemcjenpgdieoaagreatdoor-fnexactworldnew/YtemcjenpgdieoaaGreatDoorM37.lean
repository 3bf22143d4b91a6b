/- A variable that holds a world in the making: its rows grow by one. No statement of the program but its table of types. What the functions that the laws call do to the world: the copy of bytes. Each for slices of at most 2^40 bytes. What the laws' own functions do with a client: the size, the copy, the comparison. Rows of clients held against themselves. The marks laid into a row of clients. The marks of a row of clients, asked for. Marks laid on a row of truths. -/
import Derived.Test.YtemcjenpgdieoaaGreatDoorM36
import Derived.Test.YtemcjenpgdieoaaGreatDoorM06
import Derived.Deep.QuietTactic
import Derived.BigQuiet
import Derived.Test.YtemcjenpgdieoaaGreatDoorM03
import Derived.Deep.CutBlock
import Derived.Test.YtemcjenpgdieoaaGreatDoorM10
import Derived.Test.YtemcjenpgdieoaaGreatDoorM07
import Derived.Test.YtemcjenpgdieoaaGreatDoorM09
namespace Go.Proofs.YtemcjenpgdieoaaGreatDoor
open Go.RowKit
set_option linter.unusedVariables false

theorem replicate_snoc {α : Type} (k : Nat) (x : α) : List.replicate k x ++ [x] = List.replicate (k + 1) x := by rw [List.replicate_succ']

theorem shape_ofB {w : World} {base n size : Nat} {e : TypeId} {v : Value} {xs : List Value} (h : w.ownsRow base e size v n xs) : ∃ a cap, v = .slice a n cap := by
  rcases h.2 with ⟨rfl, h0⟩ | ⟨g, cap, cur, rfl, _⟩
  · rw [h0]; exact ⟨_, _, rfl⟩
  · exact ⟨_, _, rfl⟩

structure WdL (W : World) (base bw rb M : Nat) (sa : Option Addr) (sc : Nat) (sa' : Option Addr) (sc' : Nat) (su : Option Addr) (suc : Nat) (ca : Option Addr) (cn cc : Nat) (ba : Option Addr) (bn bc : Nat) (za : Option Addr) (zn zc : Nat) (l : List CE) : Prop where
  box : BoxN W bw 38 [.slice sa M sc, .slice sa' M sc', .int .i64 0, .int .i64 0, .slice su 0 suc, .slice none 0 0, .slice ca cn cc, .slice ba bn bc, .slice none 0 0, .slice none 0 0, .slice za zn zc]
  res : BoxN W rb 38 [.slice none 0 0, .slice none 0 0, .int .i64 0, .int .i64 0, .slice none 0 0, .slice none 0 0, .slice none 0 0, .slice none 0 0, .slice none 0 0, .slice none 0 0, .slice none 0 0]
  ne : bw ≠ rb
  sto : StoAt W base sa M sc (List.replicate M ⟨#[]⟩) sa' M sc' (List.replicate M ⟨#[]⟩) su 0 suc []
  cls : ClRow W base (.slice ca cn cc) l
  len : cn = l.length
  busy : W.ownsRow base 4 1 (.slice ba bn bc) bn (bcells (List.replicate bn false))
  best : W.ownsRow base 3 1 (.slice za zn zc) zn (icells (List.replicate zn (-1)))

/-- Eleven cells of a variable are written. -/
theorem kept_eleven {W : World} {b : Nat} {t t' : TypeId} {vs : List Value} (h : BoxN W b t vs) (ht : t ≠ t') (v0 v1 v2 v3 v4 v5 v6 v7 v8 v9 v10 : Value) : KeptE t' W (((((((((((W.setCell ⟨b, 0, none⟩ v0).setCell ⟨b, 1, none⟩ v1).setCell ⟨b, 2, none⟩ v2).setCell ⟨b, 3, none⟩ v3).setCell ⟨b, 4, none⟩ v4).setCell ⟨b, 5, none⟩ v5).setCell ⟨b, 6, none⟩ v6).setCell ⟨b, 7, none⟩ v7).setCell ⟨b, 8, none⟩ v8).setCell ⟨b, 9, none⟩ v9).setCell ⟨b, 10, none⟩ v10) :=
  ((((((((((keptE_box v0 h ht).trans (keptE_box v1 (h.set 0 v0) ht)).trans (keptE_box v2 ((h.set 0 v0).set 1 v1) ht)).trans (keptE_box v3 (((h.set 0 v0).set 1 v1).set 2 v2) ht)).trans (keptE_box v4 ((((h.set 0 v0).set 1 v1).set 2 v2).set 3 v3) ht)).trans (keptE_box v5 (((((h.set 0 v0).set 1 v1).set 2 v2).set 3 v3).set 4 v4) ht)).trans (keptE_box v6 ((((((h.set 0 v0).set 1 v1).set 2 v2).set 3 v3).set 4 v4).set 5 v5) ht)).trans (keptE_box v7 (((((((h.set 0 v0).set 1 v1).set 2 v2).set 3 v3).set 4 v4).set 5 v5).set 6 v6) ht)).trans (keptE_box v8 ((((((((h.set 0 v0).set 1 v1).set 2 v2).set 3 v3).set 4 v4).set 5 v5).set 6 v6).set 7 v7) ht)).trans (keptE_box v9 (((((((((h.set 0 v0).set 1 v1).set 2 v2).set 3 v3).set 4 v4).set 5 v5).set 6 v6).set 7 v7).set 8 v8) ht)).trans (keptE_box v10 ((((((((((h.set 0 v0).set 1 v1).set 2 v2).set 3 v3).set 4 v4).set 5 v5).set 6 v6).set 7 v7).set 8 v8).set 9 v9) ht)

section
variable {W W' : World} {base bw rb M : Nat} {sa : Option Addr} {sc : Nat} {sa' : Option Addr} {sc' : Nat} {su : Option Addr} {suc : Nat} {ca : Option Addr} {cn cc : Nat} {ba : Option Addr} {bn bc : Nat} {za : Option Addr} {zn zc : Nat} {l : List CE}

theorem WdL.stays (h : WdL W base bw rb M sa sc sa' sc' su suc ca cn cc ba bn bc za zn zc l) (hb : Below W.heap.size W W') : WdL W' base bw rb M sa sc sa' sc' su suc ca cn cc ba bn bc za zn zc l :=
  ⟨h.box.stays hb, h.res.stays hb, h.ne, h.sto.stays hb, h.cls.stays hb, h.len, own_below h.busy hb, own_below h.best hb⟩

/-- The variable's slot is written. -/
theorem WdL.slot (h : WdL W base bw rb M sa sc sa' sc' su suc ca cn cc ba bn bc za zn zc l) (i : Nat) (v : Value) : StoAt (W.setCell ⟨bw, i, none⟩ v) base sa M sc (List.replicate M ⟨#[]⟩) sa' M sc' (List.replicate M ⟨#[]⟩) su 0 suc [] ∧ ClRow (W.setCell ⟨bw, i, none⟩ v) base (.slice ca cn cc) l ∧ (W.setCell ⟨bw, i, none⟩ v).ownsRow base 4 1 (.slice ba bn bc) bn (bcells (List.replicate bn false)) ∧ (W.setCell ⟨bw, i, none⟩ v).ownsRow base 3 1 (.slice za zn zc) zn (icells (List.replicate zn (-1))) ∧ BoxN (W.setCell ⟨bw, i, none⟩ v) rb 38 [.slice none 0 0, .slice none 0 0, .int .i64 0, .int .i64 0, .slice none 0 0, .slice none 0 0, .slice none 0 0, .slice none 0 0, .slice none 0 0, .slice none 0 0, .slice none 0 0] :=
  ⟨h.sto.keptE (keptE_box v h.box (by decide)) (keptE_box v h.box (by decide)) (keptE_box v h.box (by decide)), h.cls.keptE (keptE_box v h.box (by decide)) (keptE_box v h.box (by decide)), ownsRow_keptE h.busy (keptE_box v h.box (by decide)), ownsRow_keptE h.best (keptE_box v h.box (by decide)), h.res.other (Ne.symm h.ne) v⟩

theorem box_keptE {W W' : World} {b : Nat} {t : TypeId} {vs : List Value} (h : BoxN W b t vs) (k : KeptE t W W') : BoxN W' b t vs := k _ _ _ h

/-- One client more. -/
theorem WdL.client {o : Obj} {B : Nat} {e : CE} {a2 : Option Addr} {c2 : Nat} (h : WdL W base bw rb M sa sc sa' sc' su suc ca cn cc ba bn bc za zn zc l) (he : Owns W B e.a e.n e.c e.u.zs) (hB : base ≤ B) (hl : ∀ x ∈ l, ∀ q, x.a.map (·.block) = some q → q < B) (ho : W'.ownsRow base 51 4 (.slice a2 (cn + 1) c2) (cn + 1) (ceCells l ++ CE.cells e)) (hg : (W.alloc o).grownBy W' (Value.slice ca cn cc).ownBlock) :
    WdL (W'.setCell ⟨bw, 6, none⟩ (.slice a2 (cn + 1) c2)) base bw rb M sa sc sa' sc' su suc a2 (cn + 1) c2 ba bn bc za zn zc (l ++ [e]) := by
  have hk : ∀ t, t ≠ 51 → KeptE t W W' := fun t ht => keptE_app (v := .slice ca cn cc) h.cls.1 hg (Ne.symm ht)
  have hc : ClRow W' base (.slice a2 (cn + 1) c2) (l ++ [e]) := h.cls.snoc he hB hl (by rw [← h.len]; exact ho) hg
  have hbx : BoxN W' bw 38 [.slice sa M sc, .slice sa' M sc', .int .i64 0, .int .i64 0, .slice su 0 suc, .slice none 0 0, .slice ca cn cc, .slice ba bn bc, .slice none 0 0, .slice none 0 0, .slice za zn zc] := box_keptE h.box (hk _ (by decide))
  refine ⟨hbx.set 6 _, (box_keptE h.res (hk _ (by decide))).other (Ne.symm h.ne) _, h.ne, ?_, ?_, by rw [h.len]; simp, ?_, ?_⟩
  · exact (h.sto.keptE (hk _ (by decide)) (hk _ (by decide)) (hk _ (by decide))).keptE (keptE_box _ hbx (by decide)) (keptE_box _ hbx (by decide)) (keptE_box _ hbx (by decide))
  · exact hc.keptE (keptE_box _ hbx (by decide)) (keptE_box _ hbx (by decide))
  · exact ownsRow_keptE (ownsRow_keptE h.busy (hk _ (by decide))) (keptE_box _ hbx (by decide))
  · exact ownsRow_keptE (ownsRow_keptE h.best (hk _ (by decide))) (keptE_box _ hbx (by decide))

/-- One more that is not busy. -/
theorem WdL.more {o : Obj} {a2 : Option Addr} {c2 : Nat} (h : WdL W base bw rb M sa sc sa' sc' su suc ca cn cc ba bn bc za zn zc l) (ho : W'.ownsRow base 4 1 (.slice a2 (bn + 1) c2) (bn + 1) (bcells (List.replicate bn false) ++ [.bool false])) (hg : (W.alloc o).grownBy W' (Value.slice ba bn bc).ownBlock) :
    WdL (W'.setCell ⟨bw, 7, none⟩ (.slice a2 (bn + 1) c2)) base bw rb M sa sc sa' sc' su suc ca cn cc a2 (bn + 1) c2 za zn zc l := by
  have hk : ∀ t, t ≠ 4 → KeptE t W W' := fun t ht => keptE_app (v := .slice ba bn bc) h.busy hg (Ne.symm ht)
  have hbx : BoxN W' bw 38 [.slice sa M sc, .slice sa' M sc', .int .i64 0, .int .i64 0, .slice su 0 suc, .slice none 0 0, .slice ca cn cc, .slice ba bn bc, .slice none 0 0, .slice none 0 0, .slice za zn zc] := box_keptE h.box (hk _ (by decide))
  have ho2 : W'.ownsRow base 4 1 (.slice a2 (bn + 1) c2) (bn + 1) (bcells (List.replicate (bn + 1) false)) := by
    rw [← replicate_snoc, bcells_append]
    exact ho
  refine ⟨hbx.set 7 _, (box_keptE h.res (hk _ (by decide))).other (Ne.symm h.ne) _, h.ne, ?_, ?_, h.len, ?_, ?_⟩
  · exact (h.sto.keptE (hk _ (by decide)) (hk _ (by decide)) (hk _ (by decide))).keptE (keptE_box _ hbx (by decide)) (keptE_box _ hbx (by decide)) (keptE_box _ hbx (by decide))
  · exact (h.cls.keptE (hk _ (by decide)) (hk _ (by decide))).keptE (keptE_box _ hbx (by decide)) (keptE_box _ hbx (by decide))
  · exact ownsRow_keptE ho2 (keptE_box _ hbx (by decide))
  · exact ownsRow_keptE (ownsRow_keptE h.best (hk _ (by decide))) (keptE_box _ hbx (by decide))

/-- One more to whom nothing was told. -/
theorem WdL.told {o : Obj} {a2 : Option Addr} {c2 : Nat} (h : WdL W base bw rb M sa sc sa' sc' su suc ca cn cc ba bn bc za zn zc l) (ho : W'.ownsRow base 3 1 (.slice a2 (zn + 1) c2) (zn + 1) (icells (List.replicate zn (-1)) ++ [.int .i64 (-1)])) (hg : (W.alloc o).grownBy W' (Value.slice za zn zc).ownBlock) :
    WdL (W'.setCell ⟨bw, 10, none⟩ (.slice a2 (zn + 1) c2)) base bw rb M sa sc sa' sc' su suc ca cn cc ba bn bc a2 (zn + 1) c2 l := by
  have hk : ∀ t, t ≠ 3 → KeptE t W W' := fun t ht => keptE_app (v := .slice za zn zc) h.best hg (Ne.symm ht)
  have hbx : BoxN W' bw 38 [.slice sa M sc, .slice sa' M sc', .int .i64 0, .int .i64 0, .slice su 0 suc, .slice none 0 0, .slice ca cn cc, .slice ba bn bc, .slice none 0 0, .slice none 0 0, .slice za zn zc] := box_keptE h.box (hk _ (by decide))
  have ho2 : W'.ownsRow base 3 1 (.slice a2 (zn + 1) c2) (zn + 1) (icells (List.replicate (zn + 1) (-1))) := by
    have e : icells (List.replicate (zn + 1) (-1)) = icells (List.replicate zn (-1)) ++ [.int .i64 (-1)] := by rw [← replicate_snoc]; simp [icells]
    rw [e]
    exact ho
  refine ⟨hbx.set 10 _, (box_keptE h.res (hk _ (by decide))).other (Ne.symm h.ne) _, h.ne, ?_, ?_, h.len, ?_, ?_⟩
  · exact (h.sto.keptE (hk _ (by decide)) (hk _ (by decide)) (hk _ (by decide))).keptE (keptE_box _ hbx (by decide)) (keptE_box _ hbx (by decide)) (keptE_box _ hbx (by decide))
  · exact (h.cls.keptE (hk _ (by decide)) (hk _ (by decide))).keptE (keptE_box _ hbx (by decide)) (keptE_box _ hbx (by decide))
  · exact ownsRow_keptE (ownsRow_keptE h.busy (hk _ (by decide))) (keptE_box _ hbx (by decide))
  · exact ownsRow_keptE ho2 (keptE_box _ hbx (by decide))
end

end Go.Proofs.YtemcjenpgdieoaaGreatDoor

namespace Go.Proofs.YtemcjenpgdieoaaGreatDoor
open Go.RowKit
set_option linter.unusedVariables false

set_option maxHeartbeats 400000 in
theorem toByteS_any (a : Option Addr) (len cap : Nat) (zs : List Int) (w : World) (hs : Seg w a len zs) (hl : len ≤ 1099511627776) :
    Calls Tryz.prog 48 #[.slice a len cap] w fun e w' => e = .returned (.slice (some ⟨w.heap.size, 0, none⟩) len len) ∧
      w'.ownsRow w.heap.size 5 1 (.slice (some ⟨w.heap.size, 0, none⟩) len len) len (zs.map (Value.int .u8)) ∧ Below w.heap.size w w' := by
  obtain ⟨i0, hi, hz0, hz1, hz2⟩ := info_parts Tryz.info5
  have hzs : zs.length = len := hs.1
  have HS : Hid (Seg w a len zs) := hs
  clear hs
  go_enter Tryz.func48, Tryz.ntmps48
  go_wp2_with (at_make; refine wpList_make_full _ rfl _ _ 47 rfl w.heap.size 5 i0 (.int .u8 0) 1 Tryz.underlying47 hi hz0 hz1 _ _ _ _ len rfl rfl rfl rfl (by rw [hz2]; omega) (by unfold maxLen; omega) (Nat.le_refl _) ?_; intro w1 hown hgrow)
  have hrow : w1.ownsRow w.heap.size 5 1 (.slice (some ⟨w.heap.size, 0, none⟩) len len) len ((zs.take 0 ++ List.replicate (len - 0) 0).map (Value.int .u8)) := by
    simpa [toList_madeCells_one, Value.cells] using hown
  have hbel : Below w.heap.size w w1 := (Below.refl _ _).grown hgrow (Nat.le_refl _) (by simp)
  have HR := (show Hid _ from hrow)
  have HB := (show Hid _ from hbel)
  clear hown hgrow hrow hbel
  go_loopw [4] (fun i wr => ∃ k : Nat, k ≤ len ∧ i = .int .i64 k ∧ Hid (wr.ownsRow w.heap.size 5 1 (.slice (some ⟨w.heap.size, 0, none⟩) len len) len ((zs.take k ++ List.replicate (len - k) 0).map (Value.int .u8))) ∧ Hid (Below w.heap.size w wr)) (fun i _ => len - (intOf i).toNat)
  case atStart => exact ⟨0, Nat.zero_le _, rfl, HR, HB⟩
  case round =>
    clear HR HB
    obtain ⟨k, hk, rfl, HO, HB⟩ := hrel
    by_cases hlt : k < len
    · obtain ⟨b, off, rfl, hb, hc⟩ : ∃ b off, a = some ⟨b, off, none⟩ ∧ b < w.heap.size ∧ ∀ i, i < len → w.cell? ⟨b, off + i, none⟩ = some (.int .u8 (zs.getD i 0)) := by
        rcases HS.out.2.2 with h | h
        · omega
        · exact h
      have hcell : wr.cell? ⟨b, off + k, none⟩ = some (.int .u8 (zs.getD k 0)) := (HB.out.cell (p := ⟨b, off + k, none⟩) hb).trans (hc k hlt)
      have hfro : wr.frozen? ⟨w.heap.size, k, none⟩ = false := HO.out.frozenAt k
      obtain ⟨u, hu⟩ : ∃ u, wr.cell? ⟨w.heap.size, k, none⟩ = some u := by
        rw [HO.out.cellAt k (by omega)]
        exact ⟨_, List.getElem?_eq_getElem (by simp; omega)⟩
      clear hc
      go_wp2
      go_roundw
      case rel => 
        refine ⟨k + 1, by omega, by go_num, ?_, ?_⟩
        · have h := (HO.out.stored k (.int .u8 (zs.getD k 0))).1
          rw [copied_step zs k len hlt hzs] at h
          have hkz : k < zs.length := by omega
          show World.ownsRow _ _ _ _ _ _ _
          simpa [hkz] using h
        · exact HB.out.setCell (Nat.le_refl _) _
      case measure => simp [intOf]; omega
    · go_wp2
      go_ret
      have hkl : k = len := by omega
      subst hkl
      refine ⟨rfl, ?_, HB.out⟩
      have h := HO.out
      rw [List.take_of_length_le (by omega)] at h
      simpa using h

end Go.Proofs.YtemcjenpgdieoaaGreatDoor

namespace Go.Proofs.YtemcjenpgdieoaaGreatDoor
open Go.RowKit
set_option linter.unusedVariables false

theorem owns_lowC {w : World} {base lo n cap : Nat} {a : Option Addr} {zs : List Int} (h : Owns w base a n cap zs) (hl : lo ≤ base) : Owns w lo a n cap zs := ⟨own_low h.1 hl, h.2⟩

set_option maxHeartbeats 800000 in
theorem szClient_any (id : ByteArray) (a : Option Addr) (n ca : Nat) (st off : Int) (m : Int) (w : World) (hn : 0 ≤ m) (hn2 : m ≤ 1048576) (hi : id.size ≤ maxLen) (hl : n ≤ maxLen) :
    Calls Tryz.prog 13 #[.agg #[.string id, .slice a n ca, .int .i64 st, .int .i64 off], .int .i64 m] w fun r w' => (∃ L : Int, r = .returned (.int .i64 L) ∧ (L < 0 ∨ (id.size ≤ 1048576 ∧ n ≤ 1048576 ∧ 0 ≤ L))) ∧ Below w.heap.size w w' := by
  have hm : maxLen < 9223372036854775808 := by decide
  have HB : Hid (Below w.heap.size w (w.alloc (.cells #[.string id, .slice a n ca, .int .i64 st, .int .i64 off] 49))) := (Below.refl _ _).alloc (Nat.le_refl _) _
  by_cases h1 : m - (id.size : Int) < 0
  · go_enter Tryz.func13, Tryz.ntmps13
    go_wp2_with fail
    go_ret
    exact ⟨⟨-1, rfl, .inl (by omega)⟩, HB.out⟩
  by_cases h2 : m - (id.size : Int) - (n : Int) < 0
  · go_enter Tryz.func13, Tryz.ntmps13
    go_wp2
    go_ret
    exact ⟨⟨-1, rfl, .inl (by omega)⟩, HB.out⟩
  · go_enter Tryz.func13, Tryz.ntmps13
    go_wp2
    go_ret
    exact ⟨⟨m - (id.size : Int) - (n : Int), rfl, .inr ⟨by omega, by omega, by omega⟩⟩, HB.out⟩

set_option maxHeartbeats 1600000 in
theorem toClient_any (id : ByteArray) (a : Option Addr) (n ca : Nat) (zs : List Int) (st off : Int) (w : World) (hs : Seg w a n zs) (hl : n ≤ 1048576) :
    Calls Tryz.prog 17 #[.agg #[.string id, .slice a n ca, .int .i64 st, .int .i64 off]] w fun r w' => (∃ g, r = .returned (.agg #[.string id, .slice (some ⟨g, 0, none⟩) n n, .int .i64 st, .int .i64 off]) ∧ Owns w' w.heap.size (some ⟨g, 0, none⟩) n n zs) ∧ Below w.heap.size w w' := by
  have HS : Hid (Seg w a n zs) := hs
  clear hs
  obtain ⟨W0, hW0⟩ : ∃ W0, (((w.alloc (.cells #[.string id, .slice a n ca, .int .i64 st, .int .i64 off] 49)).alloc (.cells #[.string ⟨#[]⟩, .slice none 0 0, .int .i64 0, .int .i64 0] 51)).alloc (.cells #[.string id, .slice none 0 0, .int .i64 0, .int .i64 0] 51)) = W0 := ⟨_, rfl⟩
  have HE : Hid ((((w.alloc (.cells #[.string id, .slice a n ca, .int .i64 st, .int .i64 off] 49)).alloc (.cells #[.string ⟨#[]⟩, .slice none 0 0, .int .i64 0, .int .i64 0] 51)).alloc (.cells #[.string id, .slice none 0 0, .int .i64 0, .int .i64 0] 51)) = W0) := hW0
  have HB : Hid (Below w.heap.size w W0) := by show Below _ _ _; rw [← hW0]; exact (((Below.refl _ _).alloc (Nat.le_refl _) _).alloc (by simp) _).alloc (by simp; omega) _
  have HZ : Hid (W0.heap.size = w.heap.size + 3) := by show _ = _; rw [← hW0]; simp
  have HL : Hid (BoxN W0 w.heap.size 49 [.string id, .slice a n ca, .int .i64 st, .int .i64 off]) := by
    show BoxN _ _ _ _
    rw [← hW0]
    exact ((BoxN.new w 49 [.string id, .slice a n ca, .int .i64 st, .int .i64 off]).alloc _).alloc _
  have HR : Hid (BoxN W0 (w.heap.size + 1) 51 [.string ⟨#[]⟩, .slice none 0 0, .int .i64 0, .int .i64 0]) := by
    show BoxN _ _ _ _
    rw [← hW0]
    have := (BoxN.new (w.alloc (.cells #[.string id, .slice a n ca, .int .i64 st, .int .i64 off] 49)) 51 [.string ⟨#[]⟩, .slice none 0 0, .int .i64 0, .int .i64 0]).alloc (.cells #[.string id, .slice none 0 0, .int .i64 0, .int .i64 0] 51)
    rw [World.size_alloc] at this
    exact this
  have HO : Hid (BoxN W0 (w.heap.size + 1 + 1) 51 [.string id, .slice none 0 0, .int .i64 0, .int .i64 0]) := by
    show BoxN _ _ _ _
    rw [← hW0]
    have := BoxN.new ((w.alloc (.cells #[.string id, .slice a n ca, .int .i64 st, .int .i64 off] 49)).alloc (.cells #[.string ⟨#[]⟩, .slice none 0 0, .int .i64 0, .int .i64 0] 51)) 51 [.string id, .slice none 0 0, .int .i64 0, .int .i64 0]
    rw [World.size_alloc, World.size_alloc] at this
    exact this
  clear hW0
  go_enter Tryz.func17, Tryz.ntmps17
  go_wp2_with fail
  rw [HE.out]
  clear HE
  refine (toByteS_any a n ca zs _ (HS.out.below HB.out) (by omega)).mono ?_
  rintro r x3 ⟨rfl, ho3, hb3⟩
  have r3 := HR.out.stays hb3
  have o3 := HO.out.stays hb3
  have l3 := HL.out.stays hb3
  have l3a := l3.cell 2 rfl
  have l3b := l3.cell 3 rfl
  have HO3 : Hid (Owns x3 W0.heap.size (some ⟨W0.heap.size, 0, none⟩) n n zs) := ⟨ho3, HS.out.2.1⟩
  have HB3 : Hid (Below w.heap.size w x3) := HB.out.trans (hb3.mono HB.out.size)
  have a0 := r3.cell 0 rfl
  have fa0 := r3.frozen 0
  have b0 := o3.cell 0 rfl
  have fb0 := o3.frozen 0
  have a1 := r3.cell 1 rfl
  have fa1 := r3.frozen 1
  have b1 := o3.cell 1 rfl
  have fb1 := o3.frozen 1
  have a2 := r3.cell 2 rfl
  have fa2 := r3.frozen 2
  have b2 := o3.cell 2 rfl
  have fb2 := o3.frozen 2
  have a3 := r3.cell 3 rfl
  have fa3 := r3.frozen 3
  have b3 := o3.cell 3 rfl
  have fb3 := o3.frozen 3
  have hz := HZ.out
  have hA : ((some ⟨W0.heap.size, 0, none⟩ : Option Addr).map (·.block)) ≠ some (w.heap.size + 1) := by simp; omega
  have hB : ((some ⟨W0.heap.size, 0, none⟩ : Option Addr).map (·.block)) ≠ some (w.heap.size + 1 + 1) := by simp; omega
  obtain ⟨X, hX⟩ : ∃ X, ((x3.setCell ⟨w.heap.size + 1 + 1, 1, none⟩ (.slice (some ⟨W0.heap.size, 0, none⟩) n n)).setCell ⟨w.heap.size + 1 + 1, 2, none⟩ (.int .i64 st)).setCell ⟨w.heap.size + 1 + 1, 3, none⟩ (.int .i64 off) = X := ⟨_, rfl⟩
  have HE : Hid (((x3.setCell ⟨w.heap.size + 1 + 1, 1, none⟩ (.slice (some ⟨W0.heap.size, 0, none⟩) n n)).setCell ⟨w.heap.size + 1 + 1, 2, none⟩ (.int .i64 st)).setCell ⟨w.heap.size + 1 + 1, 3, none⟩ (.int .i64 off) = X) := hX
  have HOX : Hid (BoxN X (w.heap.size + 1 + 1) 51 [.string id, .slice (some ⟨W0.heap.size, 0, none⟩) n n, .int .i64 st, .int .i64 off]) := by
    show BoxN _ _ _ _
    rw [← hX]
    exact ((o3.set 1 _).set 2 _).set 3 _
  have HRX : Hid (BoxN X (w.heap.size + 1) 51 [.string ⟨#[]⟩, .slice none 0 0, .int .i64 0, .int .i64 0]) := by
    show BoxN _ _ _ _
    rw [← hX]
    exact ((r3.other (by omega) _).other (by omega) _).other (by omega) _
  have HWX : Hid (Owns X W0.heap.size (some ⟨W0.heap.size, 0, none⟩) n n zs) := by
    show Owns _ _ _ _ _ _
    rw [← hX]
    exact owns_set (owns_set (owns_set HO3.out hB) hB) hB
  have HBX : Hid (Below w.heap.size w X) := by
    show Below _ _ _
    rw [← hX]
    repeat (refine Below.setCell ?_ (by dsimp only; omega) _)
    exact HB3.out
  have HA : Hid (((some ⟨W0.heap.size, 0, none⟩ : Option Addr).map (·.block)) ≠ some (w.heap.size + 1)) := hA
  clear hX hb3 ho3 r3 o3 l3 HR HO HL hA hB hz HO3 HB3
  go_upto_region 6 with fail
  rw [HE.out]
  clear HE a0 a1 a2 a3 b0 b1 b2 b3 fa0 fa1 fa2 fa3 fb0 fb1 fb2 fb3 l3a l3b
  have a0 := HRX.out.cell 0 rfl
  have fa0 := HRX.out.frozen 0
  have b0 := HOX.out.cell 0 rfl
  have a1 := HRX.out.cell 1 rfl
  have fa1 := HRX.out.frozen 1
  have b1 := HOX.out.cell 1 rfl
  have a2 := HRX.out.cell 2 rfl
  have fa2 := HRX.out.frozen 2
  have b2 := HOX.out.cell 2 rfl
  have a3 := HRX.out.cell 3 rfl
  have fa3 := HRX.out.frozen 3
  have b3 := HOX.out.cell 3 rfl
  have HZX : Hid (W0.heap.size = w.heap.size + 3) := HZ.out
  clear HRX HOX
  go_wp2
  refine bodyPost_ret (v := .agg #[.string id, .slice (some ⟨W0.heap.size, 0, none⟩) n n, .int .i64 st, .int .i64 off]) (by simp [results, Tryz.f17, go_sem, a0, a1, a2, a3]) rfl ?_
  have hz := HZ.out
  refine ⟨⟨_, rfl, ?_⟩, ?_⟩
  · exact owns_lowC (base := W0.heap.size) (owns_set (owns_set (owns_set (owns_set HWX.out HA.out) HA.out) HA.out) HA.out) (by omega)
  · repeat (refine Below.setCell ?_ (by dsimp only; omega) _)
    exact HBX.out

set_option maxHeartbeats 1600000 in
theorem eqClient_same (id : ByteArray) (a b : Option Addr) (n ca cb : Nat) (xs : List Int) (st off : Int) (w : World) (hx : Seg w a n xs) (hy : Seg w b n xs) (hla : n ≤ 1099511627776) :
    Calls Tryz.prog 27 #[.agg #[.string id, .slice a n ca, .int .i64 st, .int .i64 off], .agg #[.string id, .slice b n cb, .int .i64 st, .int .i64 off]] w fun r w' => r = .returned (.bool true) ∧ Below w.heap.size w w' := by
  have HX : Hid (Seg w a n xs) := hx
  have HY : Hid (Seg w b n xs) := hy
  clear hx hy
  have n2 : (st != st) = false := by simp
  have n3 : (off != off) = false := by simp
  go_enter Tryz.func27, Tryz.ntmps27
  go_wp2_with fail
  have hba : Below w.heap.size w ((w.alloc (.cells #[.string id, .slice a n ca, .int .i64 st, .int .i64 off] 51)).alloc (.cells #[.string id, .slice b n cb, .int .i64 st, .int .i64 off] 51)) := ((Below.refl _ _).alloc (Nat.le_refl _) _).alloc (by simp) _
  refine (eqByteS_same a b n ca cb xs _ (HX.out.below hba) (HY.out.below hba) hla).mono ?_
  rintro r x3 ⟨rfl, st3⟩
  have HB3 : Hid (Below w.heap.size w x3) := Still.below st3 hba
  have hst : Below (w.heap.size + 2) ((w.alloc (.cells #[.string id, .slice a n ca, .int .i64 st, .int .i64 off] 51)).alloc (.cells #[.string id, .slice b n cb, .int .i64 st, .int .i64 off] 51)) x3 := Still.below st3 (Below.refl _ _)
  have qa : BoxN x3 w.heap.size 51 [.string id, .slice a n ca, .int .i64 st, .int .i64 off] := ((BoxN.new w 51 [.string id, .slice a n ca, .int .i64 st, .int .i64 off]).alloc _).stays (by simpa using hst)
  have qb : BoxN x3 (w.heap.size + 1) 51 [.string id, .slice b n cb, .int .i64 st, .int .i64 off] := by
    have := BoxN.new (w.alloc (.cells #[.string id, .slice a n ca, .int .i64 st, .int .i64 off] 51)) 51 [.string id, .slice b n cb, .int .i64 st, .int .i64 off]
    rw [World.size_alloc] at this
    exact this.stays (by simpa using hst)
  have a2 := qa.cell 2 rfl
  have a3 := qa.cell 3 rfl
  have b2 := qb.cell 2 rfl
  have b3 := qb.cell 3 rfl
  clear st3 hba hst qa qb
  go_wp2
  go_ret
  exact ⟨rfl, HB3.out⟩

end Go.Proofs.YtemcjenpgdieoaaGreatDoor

namespace Go.Proofs.YtemcjenpgdieoaaGreatDoor
open Go.RowKit
set_option linter.unusedVariables false

theorem eqClientX_same (x y : CE) (w : World) (hx : Seg w x.a x.n x.u.zs) (hy : Seg w y.a y.n y.u.zs) (hu : x.u = y.u) (hl : x.n ≤ 1099511627776) :
    Calls Tryz.prog 27 #[.agg #[.string x.u.id, .slice x.a x.n x.c, .int .i64 x.u.st, .int .i64 x.u.off], .agg #[.string y.u.id, .slice y.a y.n y.c, .int .i64 y.u.st, .int .i64 y.u.off]] w fun r w' => r = .returned (.bool true) ∧ Below w.heap.size w w' := by
  obtain ⟨u, a, n, c⟩ := x
  obtain ⟨u', b, m, d⟩ := y
  dsimp only at *
  subst hu
  obtain rfl : n = m := by rw [← hx.1, ← hy.1]
  exact eqClient_same u.id a b n c d u.zs u.st u.off w hx hy hl

set_option maxRecDepth 10000 in
set_option maxHeartbeats 1600000 in
theorem eqClientS_same (a : Option Addr) (n c lo : Nat) (l : List CE) (b : Option Addr) (m d lo' : Nat) (l' : List CE) (w : World) (h : ClRow w lo (.slice a n c) l) (h' : ClRow w lo' (.slice b m d) l') (hn : n = l.length) (hm : m = l'.length) (he : l.map CE.u = l'.map CE.u) (hl : n ≤ 1099511627776) (hz : ∀ e ∈ l, e.n ≤ 1099511627776) :
    Calls Tryz.prog 9 #[.slice a n c, .slice b m d] w fun e w' => e = .returned (.bool true) ∧ Below w.heap.size w w' := by
  obtain rfl : n = m := by
    have := congrArg List.length he
    rw [List.length_map, List.length_map] at this
    omega
  have HX : Hid (∀ W, Below w.heap.size w W → ClRow W lo (.slice a n c) l ∧ ClRow W lo' (.slice b n d) l') := fun W hb => ⟨h.stays hb, h'.stays hb⟩
  have HN : Hid (n = l.length) := hn
  have HM : Hid (n = l'.length) := hm
  have HE : Hid (l.map CE.u = l'.map CE.u) := he
  have HZ : Hid (∀ e ∈ l, e.n ≤ 1099511627776) := hz
  clear h h' hn hm he hz
  have hne : ((n : Int) != (n : Int)) = false := by simp
  go_enter Tryz.func9, Tryz.ntmps9
  go_wp2
  go_loopw [5] (fun i wr => ∃ k : Nat, k ≤ n ∧ i = .int .i64 k ∧ Hid (Below w.heap.size w wr)) (fun i _ => n - (intOf i).toNat)
  case atStart => exact ⟨0, Nat.zero_le _, rfl, Below.refl _ _⟩
  case round =>
    obtain ⟨k, hk, rfl, HW⟩ := hrel
    by_cases hlt : k < n
    · have hkl : k < l.length := by rw [← HN.out]; exact hlt
      have hkm : k < l'.length := by rw [← HM.out]; exact hlt
      obtain ⟨g, rfl, g0, g1, g2, g3, _⟩ := (HX.out _ HW.out).1.at HN.out hkl
      obtain ⟨q, rfl, q0, q1, q2, q3, _⟩ := (HX.out _ HW.out).2.at HM.out hkm
      have HU : Hid ((l[k]).u = (l'[k]).u) := by
        show _ = _
        have h1 := congrArg (fun z => z[k]?) HE.out
        simpa only [List.getElem?_map, List.getElem?_eq_getElem hkl, List.getElem?_eq_getElem hkm, Option.map_some, Option.some.injEq] using h1
      have HC : Hid (∀ P : Past wr, Calls Tryz.prog 27 #[.agg #[.string (l[k]).u.id, .slice (l[k]).a (l[k]).n (l[k]).c, .int .i64 (l[k]).u.st, .int .i64 (l[k]).u.off], .agg #[.string (l'[k]).u.id, .slice (l'[k]).a (l'[k]).n (l'[k]).c, .int .i64 (l'[k]).u.st, .int .i64 (l'[k]).u.off]] P.world fun r w' => r = .returned (.bool true) ∧ Below P.world.heap.size P.world w') := fun P => by
        have hb := HW.out.trans (P.below.mono HW.out.size)
        exact eqClientX_same (l[k]) (l'[k]) P.world ((HX.out _ hb).1.2.1 _ (List.getElem_mem hkl)).seg ((HX.out _ hb).2.2.1 _ (List.getElem_mem hkm)).seg HU.out (HZ.out _ (List.getElem_mem hkl))
      have hki : (k : Int) < (n : Int) := by omega
      have hk0 : (0 : Int) ≤ (k : Int) := by omega
      have hgl := lt_of_cell g0
      have hql := lt_of_cell q0
      have x0 : ∀ P : Past wr, P.world.cell? ⟨g, k * 4, none⟩ = some (.string (l[k]).u.id) := fun P => P.cell hgl g0
      have x1 : ∀ P : Past wr, P.world.cell? ⟨g, k * 4 + 2, none⟩ = some (.int .i64 (l[k]).u.st) := fun P => P.cell hgl g1
      have x2 : ∀ P : Past wr, P.world.cell? ⟨g, k * 4 + 1, none⟩ = some (.slice (l[k]).a (l[k]).n (l[k]).c) := fun P => P.cell hgl g2
      have x3 : ∀ P : Past wr, P.world.cell? ⟨g, k * 4 + 3, none⟩ = some (.int .i64 (l[k]).u.off) := fun P => P.cell hgl g3
      have y0 : ∀ P : Past wr, P.world.cell? ⟨q, k * 4, none⟩ = some (.string (l'[k]).u.id) := fun P => P.cell hql q0
      have y1 : ∀ P : Past wr, P.world.cell? ⟨q, k * 4 + 2, none⟩ = some (.int .i64 (l'[k]).u.st) := fun P => P.cell hql q1
      have y2 : ∀ P : Past wr, P.world.cell? ⟨q, k * 4 + 1, none⟩ = some (.slice (l'[k]).a (l'[k]).n (l'[k]).c) := fun P => P.cell hql q2
      have y3 : ∀ P : Past wr, P.world.cell? ⟨q, k * 4 + 3, none⟩ = some (.int .i64 (l'[k]).u.off) := fun P => P.cell hql q3
      have hnp := past_some wr
      clear g0 g1 g2 g3 q0 q1 q2 q3 HU
      generalize l[k] = x at *
      generalize l'[k] = y at *
      go_wp2_with fail
      refine wp_region_past (by kernel_rfl) (by kernel_rfl) ?_
      repeat (quiet_step ((first | (go_at_call 27; with_reducible exact calls_past (HC.out _)) | fail)))
      refine wpQuiet_nil ?_
      rintro _ ⟨z, rfl⟩
      have HB3 : Hid (Below w.heap.size w z.world) := HW.out.trans (z.below.mono HW.out.size)
      go_wp2
      go_roundw
      case rel => exact ⟨k + 1, by omega, by go_num, HB3⟩
      case measure => simp [intOf]; omega
    · go_wp2
      go_ret
      exact ⟨rfl, HW.out⟩

end Go.Proofs.YtemcjenpgdieoaaGreatDoor

namespace Go.Proofs.YtemcjenpgdieoaaGreatDoor
open Go.RowKit
set_option linter.unusedVariables false

/-- The marks of one client, from k on. -/
def mkC1 (k : Nat) (e : CE) : CE := { e with u := ⟨mt k, ((k + 1 + e.n : Nat) : Int), marks (k + 1) e.n, ((k + 1 + e.n : Nat) : Int) + 1⟩ }

/-- The marks of clients, from k on. -/
def mkCl : Nat → List CE → List CE
  | _, [] => []
  | k, e :: l => mkC1 k e :: mkCl (k + 3 + e.n) l

/-- The number behind the marks. -/
def mkCEnd : Nat → List CE → Nat
  | k, [] => k
  | k, e :: l => mkCEnd (k + 3 + e.n) l

theorem mkCl_len (k : Nat) (l : List CE) : (mkCl k l).length = l.length := by
  induction l generalizing k with
  | nil => rfl
  | cons e l ih => simp [mkCl, ih]

theorem mkCl_append (k : Nat) (l m : List CE) : mkCl k (l ++ m) = mkCl k l ++ mkCl (mkCEnd k l) m := by
  induction l generalizing k with
  | nil => rfl
  | cons e l ih => simp [mkCl, mkCEnd, ih]

theorem mkCEnd_append (k : Nat) (l m : List CE) : mkCEnd k (l ++ m) = mkCEnd (mkCEnd k l) m := by
  induction l generalizing k with
  | nil => rfl
  | cons e l ih => simp [mkCEnd, ih]

theorem mkCEnd_ge (k : Nat) (l : List CE) : k ≤ mkCEnd k l := by
  induction l generalizing k with
  | nil => exact Nat.le_refl _
  | cons e l ih => have := ih (k + 3 + e.n); simp only [mkCEnd]; omega

theorem mkCEnd_le (k B : Nat) (l : List CE) (h : ∀ e ∈ l, e.n ≤ B) : mkCEnd k l ≤ k + (3 + B) * l.length := by
  induction l generalizing k with
  | nil => simp [mkCEnd]
  | cons e l ih =>
    have h1 := ih (k + 3 + e.n) (fun x hx => h x (List.mem_cons_of_mem _ hx))
    have h2 := h e (List.mem_cons_self ..)
    simp only [mkCEnd, List.length_cons, Nat.mul_add, Nat.mul_one]
    omega

/-- What marks of clients leave as it was. -/
def KeptC (w w' : World) : Prop := ∀ t, t ≠ 51 → t ≠ 5 → KeptE t w w'

theorem KeptC.trans {w w1 w2 : World} (h : KeptC w w1) (k : KeptC w1 w2) : KeptC w w2 := fun t h1 h2 => (h t h1 h2).trans (k t h1 h2)

set_option maxRecDepth 10000 in
set_option maxHeartbeats 3200000 in
theorem markClientS_any (base : Nat) (a : Option Addr) (n cap k : Nat) (l : List CE) (w : World) (h : ClRow w base (.slice a n cap) l) (hn : l.length = n) (hk : mkCEnd k l ≤ 2199023255552) (hnb : n ≤ 1099511627776) (hi : Nat) (hwi : (∀ q, a.map (·.block) = some q → q < hi) ∧ ∀ e ∈ l, ∀ q, e.a.map (·.block) = some q → q < hi) :
    Calls Tryz.prog 10 #[.slice a n cap, .int .i64 (k : Int)] w fun e w' => e = .returned (.int .i64 (mkCEnd k l : Int)) ∧ ClRow w' base (.slice a n cap) (mkCl k l) ∧ Within w w' base hi ∧ KeptC w w' := by
  have HO : Hid (ClRow w base (.slice a n cap) l) := h
  have HN : Hid (l.length = n) := hn
  have HK : Hid (mkCEnd k l ≤ 2199023255552) := hk
  have HHi : Hid ((∀ q, a.map (·.block) = some q → q < hi) ∧ ∀ e ∈ l, ∀ q, e.a.map (·.block) = some q → q < hi) := hwi
  clear h hn hk hwi
  go_enter Tryz.func10, Tryz.ntmps10
  go_wp2
  go_loopw [1, 5] (fun v i wr => ∃ j : Nat, j ≤ n ∧ i = .int .i64 j ∧ v = .int .i64 (mkCEnd k (l.take j) : Int) ∧ Hid (ClRow wr base (.slice a n cap) (mkCl k (l.take j) ++ l.drop j)) ∧ Hid (Within w wr base hi) ∧ Hid (KeptC w wr)) (fun _ i _ => n - (intOf i).toNat)
  case atStart => exact ⟨0, Nat.zero_le _, rfl, rfl, HO, Within.refl _ _ _, fun t _ _ => KeptE.refl t _⟩
  case round =>
    clear HO
    obtain ⟨j, hj, rfl, rfl, HO, HB, HKt⟩ := hrel
    by_cases hlt : j < n
    · have hjl : j < l.length := by have := HN.out; omega
      have hd : l.drop j = l[j] :: l.drop (j + 1) := List.drop_eq_getElem_cons hjl
      have ht : l.take (j + 1) = l.take j ++ [l[j]] := List.take_succ_eq_append_getElem hjl
      have hml : (mkCl k (l.take j)).length = j := by rw [mkCl_len, List.length_take]; omega
      have HEnd : Hid (mkCEnd k (l.take (j + 1)) = mkCEnd k (l.take j) + 3 + (l[j]).n) := by show _ = _; rw [ht, mkCEnd_append]; rfl
      have HFr : Hid (mkCl k (l.take (j + 1)) = mkCl k (l.take j) ++ [mkC1 (mkCEnd k (l.take j)) (l[j])]) := by show _ = _; rw [ht, mkCl_append]; rfl
      have hKb : mkCEnd k (l.take j) + 3 + (l[j]).n ≤ 2199023255552 := by
        have h1 := HK.out
        rw [← List.take_append_drop (j + 1) l, mkCEnd_append] at h1
        have h2 := mkCEnd_ge (mkCEnd k (l.take (j + 1))) (l.drop (j + 1))
        have h3 := HEnd.out
        omega
      have hO := HO.out
      rw [hd] at hO
      have hlen : (mkCl k (l.take j) ++ l[j] :: l.drop (j + 1)).length = n := by rw [List.length_append, hml, List.length_cons, List.length_drop]; have := HN.out; omega
      have hat := hO.at hlen.symm (i := j) (by omega)
      rw [show (mkCl k (l.take j) ++ l[j] :: l.drop (j + 1))[j]'(by omega) = l[j] by rw [List.getElem_append_right (by omega)]; simp [hml]] at hat
      obtain ⟨g, rfl, c0, c1, c2, c3, _⟩ := hat
      have hge := hO.1.lt g rfl
      have hgh : g < hi := HHi.out.1 g rfl
      have HEh : Hid (∀ q, (l[j]).a.map (·.block) = some q → q < hi) := HHi.out.2 _ (List.getElem_mem hjl)
      clear hd ht c0 c1 c2 c3
      generalize mkCl k (l.take j) = M at *
      generalize mkCEnd k (l.take j) = K at *
      obtain ⟨D, hD⟩ : ∃ D, l.drop (j + 1) = D := ⟨_, rfl⟩
      have HD : Hid (l.drop (j + 1) = D) := hD
      rw [hD] at hO hlen
      clear hD
      have HO1 : Hid (ClRow wr base (.slice (some ⟨g, 0, none⟩) n cap) (M ++ l[j] :: D)) := hO
      clear hO HO
      generalize l[j] = e at *
      obtain ⟨⟨eid, ew, ez, ed⟩, ea, en, ec⟩ := e
      dsimp only at *
      have HFr : Hid (mkCl k (l.take (j + 1)) = M ++ [⟨⟨mt K, ((K + 1 + en : Nat) : Int), marks (K + 1) en, ((K + 1 + en : Nat) : Int) + 1⟩, ea, en, ec⟩]) := HFr.out
      have hKi : (K : Int) ≤ 2199023255552 := by omega
      have hji : (j : Int) < (n : Int) := by omega
      have hlx : ∀ x : CE, (M ++ x :: D).length = n := fun x => by rw [← hlen]; simp
      go_wp2_with fail
      refine (markText_any K _ (by omega)).mono ?_
      rintro _ x1 ⟨rfl, hb1⟩
      have hR1 := HO1.out.stays hb1
      have hG1 : wr.grownBy x1 (some g) := ⟨hb1.os, hb1.tape, hb1.output, hb1.size, fun i hi _ => hb1.block i hi⟩
      have hnm := hR1.wrote (hlx _) ⟨⟨mt K, ew, ez, ed⟩, ea, en, ec⟩ 0 (by decide) (.string (mt K)) rfl ⟨rfl, rfl, rfl, rfl⟩
      have hKt2 : KeptC w (x1.setCell ⟨g, M.length * 4 + 0, none⟩ (.string (mt K))) := (HKt.out.trans (fun t _ _ => keptE_below hb1)).trans (fun t h1 _ => keptE_grown (v := .slice (some ⟨g, 0, none⟩) n cap) hnm.2 hR1.1 (Ne.symm h1))
      rw [hml] at hKt2 hnm
      have HKt2 : Hid (KeptC w (x1.setCell ⟨g, j * 4, none⟩ (.string (mt K)))) := hKt2
      clear hKt2 HKt
      have hat := hR1.at (hlx _).symm (i := j) (by have := hlx ⟨⟨eid, ew, ez, ed⟩, ea, en, ec⟩; omega)
      rw [show (M ++ (⟨⟨eid, ew, ez, ed⟩, ea, en, ec⟩ : CE) :: D)[j]'(by have := hlx ⟨⟨eid, ew, ez, ed⟩, ea, en, ec⟩; omega) = ⟨⟨eid, ew, ez, ed⟩, ea, en, ec⟩ by rw [List.getElem_append_right (by omega)]; simp [hml]] at hat
      obtain ⟨g', hgg, d0, d1, d2, d3, hfr⟩ := hat
      obtain rfl : g = g' := by simpa using hgg
      have h0 := hfr (j * 4)
      dsimp only at d0 d1 d2 d3
      have HR2 : Hid (ClRow (x1.setCell ⟨g, j * 4, none⟩ (.string (mt K))) base (.slice (some ⟨g, 0, none⟩) n cap) (M ++ ⟨⟨mt K, ew, ez, ed⟩, ea, en, ec⟩ :: D)) := hnm.1
      have HG2 : Hid (wr.grownBy (x1.setCell ⟨g, j * 4, none⟩ (.string (mt K))) (some g)) := grow_transU hG1 hnm.2
      have HE : Hid (Owns (x1.setCell ⟨g, j * 4, none⟩ (.string (mt K))) base ea en ec ez) := hnm.1.2.1 ⟨⟨mt K, ew, ez, ed⟩, ea, en, ec⟩ (List.mem_append_right _ (List.mem_cons_self ..))
      clear hnm hR1 hG1 hb1 hfr hgg HO1
      generalize mt K = T3 at *
      go_wp2_with fail
      refine (mark_intU base ea en ec (K + 1) _ ez _ HE.out (by omega) (by omega) (by omega)).mono ?_
      rintro _ x4 ⟨rfl, hm, hon⟩
      have hO4 : ClRow x4 base (.slice (some ⟨g, 0, none⟩) n cap) (M ++ ⟨⟨T3, ew, marks (K + 1) en, ed⟩, ea, en, ec⟩ :: D) := HR2.out.bodied (marks (K + 1) en) hm hon
      have hd2 := hO4.wrote (hlx _) ⟨⟨T3, ((K + 1 + en : Nat) : Int), marks (K + 1) en, ed⟩, ea, en, ec⟩ 2 (by decide) (.int .i64 ((K + 1 + en : Nat) : Int)) rfl ⟨rfl, rfl, rfl, rfl⟩
      have hd3 := hd2.1.wrote (hlx _) ⟨⟨T3, ((K + 1 + en : Nat) : Int), marks (K + 1) en, ((K + 1 + en : Nat) : Int) + 1⟩, ea, en, ec⟩ 3 (by decide) (.int .i64 (((K + 1 + en : Nat) : Int) + 1)) rfl ⟨rfl, rfl, rfl, rfl⟩
      have hKt4 : KeptC w x4 := HKt2.out.trans (fun t _ h2 => keptE_grown (v := .slice ea en ec) (by rw [ownBlock_sU]; exact hon) HE.out.1 (Ne.symm h2))
      have hKt5 := (hKt4.trans (fun t h1 _ => keptE_grown (v := .slice (some ⟨g, 0, none⟩) n cap) hd2.2 hO4.1 (Ne.symm h1))).trans (fun t h1 _ => keptE_grown (v := .slice (some ⟨g, 0, none⟩) n cap) hd3.2 hd2.1.1 (Ne.symm h1))
      rw [hml] at hKt5 hd3 hd2
      have HB4 : Hid (Within w x4 base hi) := by
        have h1 := HB.out.trans (within_grown HG2.out (fun q e => by injection e with e; omega))
        exact h1.trans (within_grown hon (fun q e => ⟨(HE.out.lt q e).1, HEh.out q e⟩))
      have hat := hO4.at (hlx _).symm (i := j) (by have := hlx ⟨⟨T3, ew, marks (K + 1) en, ed⟩, ea, en, ec⟩; omega)
      rw [show (M ++ (⟨⟨T3, ew, marks (K + 1) en, ed⟩, ea, en, ec⟩ : CE) :: D)[j]'(by have := hlx ⟨⟨T3, ew, marks (K + 1) en, ed⟩, ea, en, ec⟩; omega) = ⟨⟨T3, ew, marks (K + 1) en, ed⟩, ea, en, ec⟩ by rw [List.getElem_append_right (by omega)]; simp [hml]] at hat
      obtain ⟨g', hgg, _, q2, _, q3, hfr⟩ := hat
      obtain rfl : g = g' := by simpa using hgg
      have z2 := hfr (j * 4 + 2)
      have z3 := hfr (j * 4 + 3)
      dsimp only at q2 q3
      have HB5 := (HB4.out.trans (within_grown hd2.2 (fun q e => by injection e with e; omega))).trans (within_grown hd3.2 (fun q e => by injection e with e; omega))
      have HO5 := hd3.1
      obtain ⟨K4, hK4⟩ : ∃ K4, K + 1 + en = K4 := ⟨_, rfl⟩
      have HK4 : Hid (K + 1 + en = K4) := hK4
      rw [hK4] at HO5 HB5 hKt5 ⊢
      have HO5 : Hid (ClRow ((x4.setCell ⟨g, j * 4 + 2, none⟩ (.int .i64 (K4 : Int))).setCell ⟨g, j * 4 + 3, none⟩ (.int .i64 ((K4 : Int) + 1))) base (.slice (some ⟨g, 0, none⟩) n cap) (M ++ ⟨⟨T3, (K4 : Int), marks (K + 1) en, (K4 : Int) + 1⟩, ea, en, ec⟩ :: D)) := HO5
      have HB5 : Hid (Within w ((x4.setCell ⟨g, j * 4 + 2, none⟩ (.int .i64 (K4 : Int))).setCell ⟨g, j * 4 + 3, none⟩ (.int .i64 ((K4 : Int) + 1))) base hi) := HB5
      have HKt5 : Hid (KeptC w ((x4.setCell ⟨g, j * 4 + 2, none⟩ (.int .i64 (K4 : Int))).setCell ⟨g, j * 4 + 3, none⟩ (.int .i64 ((K4 : Int) + 1)))) := hKt5
      have HFr2 : Hid (mkCl k (l.take (j + 1)) = M ++ [⟨⟨T3, (K4 : Int), marks (K + 1) en, (K4 : Int) + 1⟩, ea, en, ec⟩]) := by show _ = _; rw [HFr.out, hK4]
      have hK4i : (K4 : Int) ≤ 2199023255552 := by omega
      clear hm hon HE HR2 HG2 HB HB4 d0 d1 d2 d3 h0 hO4 hd2 hd3 hfr hgg hKt4 hKt5 HKt2 hK4 HFr
      go_wp2_with fail
      go_roundw
      case rel =>
        refine ⟨j + 1, by omega, by go_num, ?_, ?_, HB5, HKt5⟩
        · rw [HEnd.out]
          have := HK4.out
          go_num
        · show ClRow _ _ _ _
          rw [HFr2.out, List.append_assoc, HD.out]
          exact HO5.out
      case measure => simp [intOf]; omega
    · have hjn : j = n := by omega
      subst hjn
      have hl := HN.out
      have HO2 : Hid (ClRow wr base (.slice a j cap) (mkCl k l)) := by
        have h := HO.out
        rw [List.take_of_length_le (by omega), List.drop_of_length_le (by omega), List.append_nil] at h
        exact h
      have HE : Hid (mkCEnd k (l.take j) = mkCEnd k l) := by show _ = _; rw [List.take_of_length_le (by omega)]
      generalize mkCEnd k (l.take j) = K at *
      go_wp2
      go_ret
      exact ⟨ret_int (by rw [HE.out]), HO2.out, HB.out, HKt.out⟩

end Go.Proofs.YtemcjenpgdieoaaGreatDoor

namespace Go.Proofs.YtemcjenpgdieoaaGreatDoor
open Go.RowKit
set_option linter.unusedVariables false

set_option maxRecDepth 10000 in
set_option maxHeartbeats 3200000 in
theorem heldClientS_any (base : Nat) (a : Option Addr) (n cap k : Nat) (l : List CE) (w : World) (h : ClRow w base (.slice a n cap) (mkCl k l)) (hn : l.length = n) (hk : mkCEnd k l ≤ 2199023255552) (hnb : n ≤ 1099511627776) :
    Calls Tryz.prog 36 #[.slice a n cap, .int .i64 (k : Int)] w fun e w' => e = .returned (.int .i64 (mkCEnd k l : Int)) ∧ Below w.heap.size w w' := by
  have HO : Hid (ClRow w base (.slice a n cap) (mkCl k l)) := h
  have HN : Hid (l.length = n) := hn
  have HK : Hid (mkCEnd k l ≤ 2199023255552) := hk
  clear h hn hk
  go_enter Tryz.func36, Tryz.ntmps36
  go_wp2
  go_loopw [1, 5] (fun v i wr => ∃ j : Nat, j ≤ n ∧ i = .int .i64 j ∧ v = .int .i64 (mkCEnd k (l.take j) : Int) ∧ Hid (Below w.heap.size w wr)) (fun _ i _ => n - (intOf i).toNat)
  case atStart => exact ⟨0, Nat.zero_le _, rfl, rfl, Below.refl _ _⟩
  case round =>
    obtain ⟨j, hj, rfl, rfl, HW⟩ := hrel
    by_cases hlt : j < n
    · have hjl : j < l.length := by have := HN.out; omega
      have ht : l.take (j + 1) = l.take j ++ [l[j]] := List.take_succ_eq_append_getElem hjl
      have hml : (mkCl k (l.take j)).length = j := by rw [mkCl_len, List.length_take]; omega
      have HEnd : Hid (mkCEnd k (l.take (j + 1)) = mkCEnd k (l.take j) + 3 + (l[j]).n) := by show _ = _; rw [ht, mkCEnd_append]; rfl
      have hKb : mkCEnd k (l.take j) + 3 + (l[j]).n ≤ 2199023255552 := by
        have h1 := HK.out
        rw [← List.take_append_drop (j + 1) l, mkCEnd_append] at h1
        have h2 := mkCEnd_ge (mkCEnd k (l.take (j + 1))) (l.drop (j + 1))
        have h3 := HEnd.out
        omega
      have hFr : mkCl k l = mkCl k (l.take j) ++ mkC1 (mkCEnd k (l.take j)) (l[j]) :: mkCl (mkCEnd k (l.take j) + 3 + (l[j]).n) (l.drop (j + 1)) := by
        have hd : l = l.take j ++ l[j] :: l.drop (j + 1) := by rw [← List.drop_eq_getElem_cons hjl]; exact (List.take_append_drop j l).symm
        rw [show mkCl k l = mkCl k (l.take j ++ l[j] :: l.drop (j + 1)) from congrArg (mkCl k) hd, mkCl_append]
        rfl
      have hlen : (mkCl k l).length = n := by rw [mkCl_len]; exact HN.out
      have hge : (mkCl k l)[j]'(by omega) = mkC1 (mkCEnd k (l.take j)) (l[j]) := by
        have h1 : (mkCl k l)[j]? = some (mkC1 (mkCEnd k (l.take j)) (l[j])) := by
          rw [hFr, List.getElem?_append_right (by omega), hml, Nat.sub_self]
          rfl
        rw [List.getElem?_eq_getElem (by omega)] at h1
        exact Option.some.inj h1
      have HAt : Hid (∀ W, Below w.heap.size w W → ∃ g, a = some ⟨g, 0, none⟩ ∧ W.cell? ⟨g, j * 4, none⟩ = some (.string (mt (mkCEnd k (l.take j)))) ∧ W.cell? ⟨g, j * 4 + 2, none⟩ = some (.int .i64 ((mkCEnd k (l.take j) + 1 + (l[j]).n : Nat) : Int)) ∧ W.cell? ⟨g, j * 4 + 1, none⟩ = some (.slice (l[j]).a (l[j]).n (l[j]).c) ∧ W.cell? ⟨g, j * 4 + 3, none⟩ = some (.int .i64 (((mkCEnd k (l.take j) + 1 + (l[j]).n : Nat) : Int) + 1)) ∧ Owns W base (l[j]).a (l[j]).n (l[j]).c (marks (mkCEnd k (l.take j) + 1) (l[j]).n)) := fun W hb => by
        have hO := HO.out.stays hb
        have hat := hO.at hlen.symm (i := j) (by omega)
        have hin := hO.2.1 ((mkCl k l)[j]'(by omega)) (List.getElem_mem _)
        rw [hge] at hat hin
        obtain ⟨g, h1, h2, h3, h4, h5, _⟩ := hat
        exact ⟨g, h1, h2, h3, h4, h5, hin⟩
      clear hge hFr ht hml hlen
      generalize mkCEnd k (l.take j) = K at *
      generalize l[j] = e at *
      obtain ⟨r, ea, en, ec⟩ := e
      dsimp only at *
      obtain ⟨g, rfl, _⟩ := HAt.out _ HW.out
      have hKi : (K : Int) ≤ 2199023255552 := by omega
      have hji : (j : Int) < (n : Int) := by omega
      have hj0 : (0 : Int) ≤ (j : Int) := by omega
      have hC : ∀ P : Past wr, P.world.cell? ⟨g, j * 4, none⟩ = some (.string (mt K)) := fun P => by
        obtain ⟨g', hg, h1, _⟩ := HAt.out _ (HW.out.trans (P.below.mono HW.out.size))
        injection hg with hg
        injection hg with hg
        subst hg
        exact h1
      have HTx : Hid (∀ P : Past wr, Calls Tryz.prog 28 #[.int .i64 (K : Int)] P.world fun e w' => e = .returned (.string (mt K)) ∧ Below P.world.heap.size P.world w') := fun P => markText_any K P.world (by omega)
      have hnp := past_some wr
      generalize mt K = T3 at *
      have n3 : (T3.toList != T3.toList) = false := by simp
      go_wp2_with fail
      refine wp_region_past (by kernel_rfl) (by kernel_rfl) ?_
      repeat (quiet_step ((first | (go_at_call 28; with_reducible exact calls_past (HTx.out _)) | fail)))
      refine wpQuiet_nil ?_
      rintro _ ⟨z, rfl⟩
      have HB2 : Hid (Below w.heap.size w z.world) := HW.out.trans (z.below.mono HW.out.size)
      obtain ⟨x1, hx1⟩ : ∃ x1, z.world = x1 := ⟨_, rfl⟩
      rw [hx1] at HB2 ⊢
      clear hx1 z hnp hC HTx HW
      obtain ⟨g', hg, _, c1, c2, c3, ho⟩ := HAt.out _ HB2.out
      injection hg with hg
      injection hg with hg
      subst hg
      have HE : Hid (Owns x1 base ea en ec (marks (K + 1) en)) := ho
      clear ho HAt
      go_wp2_with fail
      refine (held_intU base ea en ec (K + 1) _ _ HE.out (by omega) (by omega) (by omega)).mono ?_
      rintro _ x1 ⟨rfl, rfl⟩
      obtain ⟨K4, hK4⟩ : ∃ K4, K + 1 + en = K4 := ⟨_, rfl⟩
      have HK4 : Hid (K + 1 + en = K4) := hK4
      rw [hK4] at c1 c3 ⊢
      have hK4i : (K4 : Int) ≤ 2199023255552 := by omega
      have hK4p : ¬ (K4 : Int) < 0 := by omega
      have n4 : ((K4 : Int) != (K4 : Int)) = false := by simp
      have n5 : ((K4 : Int) + 1 != (K4 : Int) + 1) = false := by simp
      clear hK4
      go_wp2
      go_roundw
      case rel =>
        refine ⟨j + 1, by omega, by go_num, ?_, HB2⟩
        rw [HEnd.out]
        have := HK4.out
        go_num
      case measure => simp [intOf]; omega
    · have hjn : j = n := by omega
      subst hjn
      have hl := HN.out
      have HE : Hid (mkCEnd k (l.take j) = mkCEnd k l) := by show _ = _; rw [List.take_of_length_le (by omega)]
      generalize mkCEnd k (l.take j) = K at *
      go_wp2
      go_ret
      exact ⟨ret_int (by rw [HE.out]), HW.out⟩

end Go.Proofs.YtemcjenpgdieoaaGreatDoor

namespace Go.Proofs.YtemcjenpgdieoaaGreatDoor
open Go.RowKit
set_option linter.unusedVariables false

/-- The mark of a number. -/
def mb (k : Nat) : Bool := decide (k % 3 = 0)

/-- The marks of n truths, from the number k on. -/
def marksB (k n : Nat) : List Bool := (List.range n).map fun j => mb (k + j)
theorem marksB_len (k n : Nat) : (marksB k n).length = n := by simp [marksB]
theorem marksB_at (k n j : Nat) (hj : j < n) : (marksB k n)[j]? = some (mb (k + j)) := by simp [marksB, hj]

/-- Texts of which the first j are marked. -/
def bmarkTo (k : Nat) (xs : List Bool) (j : Nat) : List Bool := marksB k j ++ xs.drop j

theorem bmarkTo_len (k : Nat) (xs : List Bool) (j : Nat) (h : j ≤ xs.length) : (bmarkTo k xs j).length = xs.length := by
  simp [bmarkTo, marksB_len]
  omega

theorem bmarkTo_step (k : Nat) (xs : List Bool) (j : Nat) (h : j < xs.length) : (bmarkTo k xs j).set j (mb (k + j)) = bmarkTo k xs (j + 1) := by
  rw [bmarkTo, bmarkTo, List.set_append_right j _ (by rw [marksB_len]; exact Nat.le_refl _), marksB_len, Nat.sub_self, List.drop_eq_getElem_cons h, List.set_cons_zero]
  simp [marksB, List.range_succ]

set_option maxRecDepth 10000 in
set_option maxHeartbeats 1600000 in
theorem markBoolS_any (base : Nat) (a : Option Addr) (n cap k : Nat) (xs : List Bool) (w : World) (h : OwnBo w base (.slice a n cap) n xs) (hn : n ≤ 1099511627776) (hk : k ≤ 2199023255552) :
    Calls Tryz.prog 31 #[.slice a n cap, .int .i64 (k : Int)] w fun e w' => e = .returned (.int .i64 ((k + n : Nat) : Int)) ∧ OwnBo w' base (.slice a n cap) n (marksB k n) ∧ w.grownBy w' (a.map (·.block)) := by
  have hlen := h.len
  have HO0 : Hid (w.ownsRow base 4 1 (.slice a n cap) n (bcells (bmarkTo k xs 0))) := h.1
  clear h
  go_enter Tryz.func31, Tryz.ntmps31
  go_wp2_with fail
  go_loopw [1, 5] (fun q i wr => ∃ j : Nat, j ≤ n ∧ i = .int .i64 j ∧ q = .int .i64 ((k + j : Nat) : Int) ∧ Hid (wr.ownsRow base 4 1 (.slice a n cap) n (bcells (bmarkTo k xs j))) ∧ Hid (w.grownBy wr (a.map (·.block)))) (fun _ i _ => n - (intOf i).toNat)
  case atStart => exact ⟨0, Nat.zero_le _, rfl, rfl, HO0, grown_refl _ _⟩
  case round =>
    clear HO0
    obtain ⟨j, hj, rfl, rfl, HO, HG⟩ := hrel
    by_cases hlt : j < n
    · obtain ⟨g, rfl⟩ : ∃ g, a = some ⟨g, 0, none⟩ := by
        rcases HO.out.2 with ⟨_, h0⟩ | ⟨g, cap', cur, he, _⟩
        · omega
        · injection he with e1 _ _
          exact ⟨g, e1⟩
      have hji : (j : Int) < (n : Int) := by omega
      have hmb : (((k + j : Nat) : Int) % 3 == 0) = mb (k + j) := by
        rw [mb]
        by_cases h : (k + j) % 3 = 0
        · rw [decide_eq_true h, beq_iff_eq]; omega
        · rw [decide_eq_false h, beq_eq_false_iff_ne]; omega
      have HSt : Hid ((bmarkTo k xs j).set j (mb (k + j)) = bmarkTo k xs (j + 1)) := bmarkTo_step k xs j (by omega)
      have HLn : Hid ((bmarkTo k xs j).length = n) := by show _ = _; rw [bmarkTo_len k xs j (by omega), hlen]
      generalize mb (k + j) = m1 at *
      generalize bmarkTo k xs j = L at *
      obtain ⟨K1, hK1⟩ : ∃ K1, k + (j + 1) = K1 := ⟨_, rfl⟩
      obtain ⟨K0, hK0⟩ : ∃ K0, k + j = K0 := ⟨_, rfl⟩
      have hq1 : (K0 : Int) + 1 = (K1 : Int) := by omega
      rw [hK0] at hmb ⊢
      have HK1 : Hid (k + (j + 1) = K1) := hK1
      have hK0b : (K0 : Int) ≤ 4398046511104 := by omega
      clear hK0 hK1
      have HO1 : Hid (wr.ownsRow base 4 1 (.slice (some ⟨g, 0, none⟩) n cap) n (bcells L)) := HO.out
      have HG1 : Hid (w.grownBy wr (some g)) := HG.out
      clear HO HG
      have hln : (bcells L).length = n := by rw [bcells_len, HLn.out]
      have f0 : wr.frozen? ⟨g, j, none⟩ = false := HO1.out.frozenAt _
      obtain ⟨u0, hu0⟩ : ∃ u, wr.cell? ⟨g, j, none⟩ = some u := by
        rw [HO1.out.cellAt _ (by omega)]
        exact ⟨_, List.getElem?_eq_getElem (by omega)⟩
      have hst := HO1.out.stored j (.bool m1)
      have HO4 : Hid ((wr.setCell ⟨g, j, none⟩ (.bool m1)).ownsRow base 4 1 (.slice (some ⟨g, 0, none⟩) n cap) n (bcells (bmarkTo k xs (j + 1)))) := by
        have h1 := hst.1
        rw [bcells_set, HSt.out] at h1
        exact h1
      have HG4 : Hid (w.grownBy (wr.setCell ⟨g, j, none⟩ (.bool m1)) (some g)) := grown_trans HG1.out hst.2
      clear hst hln HO1 HG1
      go_wp2_with fail
      go_roundw
      case rel => exact ⟨j + 1, by omega, by go_num, by rw [HK1.out], HO4, HG4⟩
      case measure => simp [intOf]; omega
    · have hjn : j = n := by omega
      subst hjn
      go_wp2_with fail
      go_ret
      have hd : bmarkTo k xs j = marksB k j := by
        rw [bmarkTo, List.drop_eq_nil_of_le (by omega), List.append_nil]
      have h1 := HO.out
      rw [hd] at h1
      exact ⟨rfl, ⟨h1, trivial⟩, HG.out⟩

end Go.Proofs.YtemcjenpgdieoaaGreatDoor
