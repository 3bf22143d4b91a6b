/- The reader of a block: a field that is told itself. The reader of a block: a size that is told. An append onto a row of the call's own, in a region that draws: where the row lies behind it. No program in it. The reader of a block: a field is taken. Tables that are good stay so; the fields of a good table are short. No program in it. -/
import Derived.Test.YtckpacifimpkgacGreatM16
import Derived.Test.YtckpacifimpkgacGreatM11
import Derived.Test.YtckpacifimpkgacGreatM06
import Derived.Test.YtckpacifimpkgacGreatM12
import Derived.Test.YtckpacifimpkgacGreatM09
import Derived.Deep.RegionWith
import Derived.Deep.RegionHeld3
import Derived.Test.YtckpacifimpkgacGreatM08
namespace Go.Proofs.YtckpacifimpkgacGreat
open Go.RowKit
set_option linter.unusedVariables false

theorem Seg.grew {w w' : World} {bb off len r : Nat} {zs : List Int} (h : Seg w (some ⟨bb, off, none⟩) len zs) (hg : w.grownBy w' (some r)) (hne : bb ≠ r) : Seg w' (some ⟨bb, off, none⟩) len zs := by
  obtain ⟨h1, h2, h3⟩ := h
  refine ⟨h1, h2, ?_⟩
  rcases h3 with h3 | ⟨b', off', e, hb, hc⟩
  · exact .inl h3
  · cases e
    exact .inr ⟨bb, off, rfl, Nat.lt_of_lt_of_le hb hg.size, fun i hi => hg.cell (hc i hi) (fun e => hne (by injection e))⟩

theorem gtr {a b c : World} {r : Option Nat} (h : a.grownBy b r) (g : b.grownBy c r) : a.grownBy c r :=
  ⟨g.os.trans h.os, g.tape.trans h.tape, g.output.trans h.output, Nat.le_trans h.size g.size, fun k hk hne => (g.block k (Nat.lt_of_lt_of_le hk h.size) hne).trans (h.block k hk hne)⟩

/-- What is read as a field that is told itself. -/
def LitAns (zs : List Int) (i : Int) (xs : List Fld) (n : Int) (x y : ByteArray) (j code : Int) : Prop :=
  ∃ (t : ByteArray) (j1 c1 : Int), NameAns zs i xs n t j1 c1 ∧
    ((c1 ≠ 0 ∧ x = ⟨#[]⟩ ∧ y = ⟨#[]⟩ ∧ code = c1 ∧ j = j1) ∨ (c1 = 0 ∧ x = t ∧ ∃ (p : Int) (ok : Bool), GetS zs j1 y p ok ∧ code = (if ok then 0 else 1) ∧ j = (if ok then p else j1)))

theorem ret_fld {W : World} {b : Nat} {x y : Value} (h : Box2 W b 43 x y) : W.cell? ⟨b, 0, none⟩ = some x ∧ W.cell? ⟨b, 1, none⟩ = some y := ⟨h.cells.1, h.cells.2.1⟩

set_option maxRecDepth 10000 in
set_option maxHeartbeats 1600000 in
theorem rdLit_any (r bb off len cap : Nat) (i most m : Int) (ta : Option Addr) (tl tc : Nat) (xs : List Fld) (fv : Value) (zs : List Int) (n : Int) (w : World) (hr : Rd w r (.slice (some ⟨bb, off, none⟩) len cap) i most m (.slice ta tl tc) fv) (hs : Seg w (some ⟨bb, off, none⟩) len zs) (hbr : bb ≠ r) (hx : Flds w ta tl xs) (hcap : len ≤ cap) (hl : len ≤ 1099511627776) (htl : tl ≤ 2097152) (hn : n ≤ 9223372036854775807) :
    Calls Tryz.prog 43 #[.pointer (some ⟨r, 0, none⟩), .int .i64 n] w fun e w' => ∃ (x y : ByteArray) (j code : Int), LitAns zs i xs n x y j code ∧ e = .returned (.tuple #[.agg #[.string x, .string y], .int .i64 code]) ∧ Rd w' r (.slice (some ⟨bb, off, none⟩) len cap) j most m (.slice ta tl tc) fv ∧ w.grownBy w' (some r) := by
  obtain ⟨w0, hw0⟩ : ∃ w0, w.alloc (.cells #[.string ⟨#[]⟩, .string ⟨#[]⟩] 43) = w0 := ⟨_, rfl⟩
  have hb0 : Below w.heap.size w w0 := by rw [← hw0]; exact (Below.refl _ _).alloc (Nat.le_refl _) _
  have HL0 : Hid (Box2 w0 w.heap.size 43 (.string ⟨#[]⟩) (.string ⟨#[]⟩)) := by show Box2 _ _ _ _ _; rw [← hw0]; exact Box2.new _ _ _ _
  have HR0 : Hid (Rd w0 r (.slice (some ⟨bb, off, none⟩) len cap) i most m (.slice ta tl tc) fv) := hr.stays hb0
  have HS0 : Hid (Seg w0 (some ⟨bb, off, none⟩) len zs) := hs.below hb0
  have HX0 : Hid (Flds w0 ta tl xs) := hx.below hb0
  have HG0 : Hid (w.grownBy w0 (some r)) := grew_below hb0
  have hrl : r < w.heap.size := hr.lt
  clear hr hs hx hb0
  go_enter Tryz.func43, Tryz.ntmps43
  go_wp2_with fail
  clear hw0
  refine (rdName_any r bb off len cap i most m ta tl tc xs fv zs n _ HR0.out HS0.out HX0.out hcap hl htl hn).mono ?_
  rintro e w1 ⟨t, j1, c1, hna, rfl, hr1, hg1⟩
  have HNa : Hid (NameAns zs i xs n t j1 c1) := hna
  have HR1 : Hid (Rd w1 r (.slice (some ⟨bb, off, none⟩) len cap) j1 most m (.slice ta tl tc) fv) := hr1
  have HS1 : Hid (Seg w1 (some ⟨bb, off, none⟩) len zs) := HS0.out.grew hg1 hbr
  have HL1 : Hid (Box2 w1 w.heap.size 43 (.string ⟨#[]⟩) (.string ⟨#[]⟩)) := HL0.out.grown hg1 (by intro e; injection e with e; omega)
  have HG1 : Hid (w.grownBy w1 (some r)) := gtr HG0.out hg1
  clear hna hr1 hg1 HR0 HS0 HX0 HL0 HG0
  have HPut : Hid (∀ (W : World) (j : Int) (x y : ByteArray), Rd W r (.slice (some ⟨bb, off, none⟩) len cap) j most m (.slice ta tl tc) fv → w.grownBy W (some r) → Box2 W w.heap.size 43 (.string ⟨#[]⟩) (.string ⟨#[]⟩) →
      Rd ((W.setCell ⟨w.heap.size, 0, none⟩ (.string x)).setCell ⟨w.heap.size, 1, none⟩ (.string y)) r (.slice (some ⟨bb, off, none⟩) len cap) j most m (.slice ta tl tc) fv ∧ w.grownBy ((W.setCell ⟨w.heap.size, 0, none⟩ (.string x)).setCell ⟨w.heap.size, 1, none⟩ (.string y)) (some r) ∧ Box2 ((W.setCell ⟨w.heap.size, 0, none⟩ (.string x)).setCell ⟨w.heap.size, 1, none⟩ (.string y)) w.heap.size 43 (.string x) (.string y)) := by
    intro W j x y h1 h2 h3
    refine ⟨?_, ?_, two_set1 (two_set0 h3 _) _⟩
    · unfold Rd at h1 ⊢
      rw [set_block_other _ r w.heap.size 1 _ (by omega), set_block_other _ r w.heap.size 0 _ (by omega)]
      exact h1
    · refine ⟨h2.os, h2.tape, h2.output, by have := h2.size; simpa using this, fun k hk hne => ?_⟩
      rw [set_block_other _ k w.heap.size 1 _ (by omega), set_block_other _ k w.heap.size 0 _ (by omega)]
      exact h2.block k hk hne
  obtain ⟨c0, c1', c2, c3⟩ := HL1.out.cells
  by_cases hc0 : c1 = 0
  · subst hc0
    clear c0 c1' c2 c3
    go_wp2_with fail
    refine (rdText_any r bb off len cap j1 most m _ fv zs _ HR1.out HS1.out hcap hl).mono ?_
    rintro e w2 ⟨y, p, ok, hg, rfl, hr2, hg2⟩
    obtain ⟨code, hc⟩ : ∃ code : Int, (if ok = true then (0 : Int) else 1) = code := ⟨_, rfl⟩
    have HA : Hid (LitAns zs i xs n t y (if ok then p else j1) code) := ⟨t, j1, 0, HNa.out, .inr ⟨rfl, rfl, p, ok, hg, hc.symm, rfl⟩⟩
    have HF : Hid _ := HPut.out w2 _ t y hr2 (gtr HG1.out hg2) (HL1.out.grown hg2 (by intro e; injection e with e; omega))
    obtain ⟨c0, c1', c2, c3⟩ := (HL1.out.grown hg2 (by intro e; injection e with e; omega)).cells
    rw [hc]
    clear hc hg hr2 hg2
    go_wp2_with fail
    obtain ⟨r0, r1⟩ := ret_fld HF.out.2.2
    refine bodyPost_ret (v := .tuple #[.agg #[.string t, .string y], .int .i64 code]) (by simp [results, Tryz.f43, go_sem, r0, r1]) rfl ?_
    exact ⟨t, y, _, code, HA.out, rfl, HF.out.1, HF.out.2.1⟩
  · have hc0' : (c1 != 0) = true := by simp; omega
    have HA : Hid (LitAns zs i xs n ⟨#[]⟩ ⟨#[]⟩ j1 c1) := ⟨t, j1, c1, HNa.out, .inl ⟨hc0, rfl, rfl, rfl, rfl⟩⟩
    have HF : Hid _ := HPut.out w1 _ ⟨#[]⟩ ⟨#[]⟩ HR1.out HG1.out HL1.out
    clear HNa
    go_wp2_with fail
    obtain ⟨r0, r1⟩ := ret_fld HF.out.2.2
    refine bodyPost_ret (v := .tuple #[.agg #[.string ⟨#[]⟩, .string ⟨#[]⟩], .int .i64 c1]) (by simp [results, Tryz.f43, go_sem, r0, r1]) rfl ?_
    exact ⟨⟨#[]⟩, ⟨#[]⟩, _, c1, HA.out, rfl, HF.out.1, HF.out.2.1⟩

end Go.Proofs.YtckpacifimpkgacGreat

namespace Go.Proofs.YtckpacifimpkgacGreat
open Go.RowKit
set_option linter.unusedVariables false

theorem Rd.setTab {W : World} {r : Nat} {b : Value} {i most m : Int} {tv fv : Value} (h : Rd W r b i most m tv fv) (m' : Int) (v : Value) : Rd ((W.setCell ⟨r, 3, none⟩ (.int .i64 m')).setCell ⟨r, 4, none⟩ v) r b i most m' v fv := by
  unfold Rd at h ⊢
  have h1 : (W.setCell ⟨r, 3, none⟩ (.int .i64 m')).heap[r]? = some (.cells #[b, .int .i64 i, .int .i64 most, .int .i64 m', tv, fv] 47 (0, 0)) := by
    rw [setCell_eq_setRow W r 3 _ _ (0, 0) _ h, setRow_heap W r _ _ _ (0, 0) h]
    rfl
  rw [setCell_eq_setRow _ r 4 _ _ (0, 0) _ h1, setRow_heap _ r _ _ _ (0, 0) h1]
  rfl

set_option maxRecDepth 10000 in
set_option maxHeartbeats 1600000 in
theorem rdSize_any (r : Nat) (b : Value) (i most m : Int) (ta : Option Addr) (tl tc : Nat) (xs : List Fld) (fa : Option Addr) (fl fc : Nat) (n : Int) (w : World) (hr : Rd w r b i most m (.slice ta tl tc) (.slice fa fl fc)) (hx : Flds w ta tl xs) (hl : tl + fldBytes xs ≤ 2097152) :
    Calls Tryz.prog 40 #[.pointer (some ⟨r, 0, none⟩), .int .i64 n] w fun e w' => ((most < n ∨ 0 < fl) ∧ e = .returned (.int .i64 3) ∧ Rd w' r b i most m (.slice ta tl tc) (.slice fa fl fc) ∧ w.grownBy w' (some r)) ∨
      (¬ (most < n ∨ 0 < fl) ∧ e = .returned (.int .i64 0) ∧ ∃ (v : Value) (m' : Int) (k : Nat) (ys : List Fld), CutAns m n xs m' ys ∧ Rd w' r b i most m' v (.slice fa fl fc) ∧ OwnF w' w.heap.size v k ys ∧ w.grownBy w' (some r)) := by
  have HR : Hid (Rd w r b i most m (.slice ta tl tc) (.slice fa fl fc)) := hr
  have HX : Hid (Flds w ta tl xs) := hx
  have hrl : r < w.heap.size := hr.lt
  clear hr hx
  obtain ⟨_, _, c2, c3, c4, c5, _⟩ := HR.out.cells
  by_cases h1 : most < n
  · have d1 : decide (most < n) = true := by simp; omega
    have d1p : (most < n) = True := by simp; omega
    go_enter Tryz.func40, Tryz.ntmps40
    go_wp2_with fail
    go_ret
    exact .inl ⟨.inl (by omega), rfl, HR.out, grew_below (Below.refl _ _)⟩
  · have d1 : decide (most < n) = false := by simp; omega
    have d1p : (most < n) = False := by simp; omega
    by_cases h2 : 0 < fl
    · have d2 : decide ((0 : Int) < (fl : Int)) = true := by simp; omega
      have d2p : ((0 : Int) < (fl : Int)) = True := by simp; omega
      go_enter Tryz.func40, Tryz.ntmps40
      go_wp2_with fail
      go_ret
      first | exact .inl ⟨.inr h2, rfl, HR.out, grew_below (Below.refl _ _)⟩ | exact ⟨rfl, HR.out, grew_below (Below.refl _ _)⟩
    · have d2 : decide ((0 : Int) < (fl : Int)) = false := by simp; omega
      have d2p : ((0 : Int) < (fl : Int)) = False := by simp; omega
      have HNo : Hid (¬ (most < n ∨ 0 < fl)) := by show ¬ _; omega
      go_enter Tryz.func40, Tryz.ntmps40
      go_wp2_with fail
      refine (implRes_any m n ta tl tc xs w HX.out hl).mono ?_
      rintro e w1 ⟨v, m', k, ys, rfl, hcut, ho1, hb1⟩
      obtain ⟨av, cv, rfl⟩ := ho1.shape
      have HC : Hid (CutAns m n xs m' ys) := hcut
      have HR1 : Hid (Rd w1 r b i most m (.slice ta tl tc) (.slice fa fl fc)) := HR.out.stays hb1
      have HO1 : Hid (OwnF w1 w.heap.size (.slice av k cv) k ys) := ho1
      have HG1 : Hid (w.grownBy w1 (some r)) := grew_below hb1
      obtain ⟨_, _, _, e3, e4, _, e6⟩ := HR1.out.cells
      have e7 := e6 3 (by omega)
      have e8 := e6 4 (by omega)
      clear hcut ho1 hb1 c2 c3 c4 c5 e6
      go_wp2_with fail
      go_ret
      refine .inr ⟨HNo.out, rfl, _, m', k, ys, HC.out, HR1.out.setTab m' _, ?_, grew_set (grew_set HG1.out)⟩
      exact ⟨ownsRow_setCell_below (ownsRow_setCell_below HO1.out.1 (a := ⟨r, 3, none⟩) hrl _) (a := ⟨r, 4, none⟩) hrl _, HO1.out.2⟩

end Go.Proofs.YtckpacifimpkgacGreat

namespace Go.Proofs.YtckpacifimpkgacGreat
open Go.RowKit
set_option linter.unusedVariables false

theorem step_append_where {P : Program} {ops : Array Oper} {o : Oper} {a : Act} {w : World} {K : Act → World → Prop} {Q : Exit → Act → World → Prop} {E : Prop}
    (hg : o.guard = none) (s x : Operand) (t : TypeId) (ho : o.op = .call { callee := .builtin .append, args := #[s, x], argTypes := #[t, t] })
    (base : Nat) (e : TypeId) (i : TypeInfo) (z : Value) (size bytes : Nat) (ht : P.underlying t = some (.slice e)) (hi : P.info? e = some i) (hz : i.zero = some z)
    (hsize : i.size = size) (hby : i.bytes = bytes) (hzs : z.cells.size = size) (hsz : 0 < size)
    (v : Value) (n : Nat) (xs : List Value) (hs : a.eval s = v) (hown : w.ownsRow base e size v n xs)
    (ad : Addr) (m c : Nat) (hm : 0 < m) (news : List Value) (hx : a.eval x = .slice (some ad) m c) (hl : news.length = m * size) (hnews : ∀ j u, news[j]? = some u → w.cell? (ad.add j) = some u) (h1 : ∀ u ∈ news, u.oneCell' = true)
    (h63 : n + m ≤ maxLen) (hbytes : (n + m) * bytes ≤ 140737488355328) (hbase : base ≤ w.heap.size)
    (h : ∀ v' w', w'.ownsRow base e size v' (n + m) (xs ++ news) → w.grownBy w' v.ownBlock → (v'.ownBlock = v.ownBlock ∨ v'.ownBlock = some w.heap.size) → K (a.put o.dst v') w') :
    if Region.wanted o (yielded ops a.tmps) = true then Oper.wp P o a w K Q else E := by
  have hw : Region.wanted o (yielded ops a.tmps) = true := by simp [Region.wanted, hg]
  rw [if_pos hw]
  obtain ⟨v', w', hr, h2, h3, _⟩ := run_append_own (P := P) w base t o.type e i z size bytes ht hi hz hsize hby hzs hsz v n xs hown ad m c news hl hnews h1 h63 hbytes hbase
  have hsmall : n + m ≤ 9223372036854775807 := by simp only [maxLen] at h63; omega
  have key : v'.ownBlock = v.ownBlock ∨ v'.ownBlock = some w.heap.size := by
    subst hsize
    subst hby
    rcases hown.2 with ⟨rfl, rfl⟩ | ⟨g, cap, cur, rfl, hbg, hg2, hnc, hcm, hcs, htake⟩
    · have hr2 := run_append_nil (P := P) w t o.type e i z ht hi hz ad m c news hl hnews (by omega) (by omega) (by have hb := hbytes; simp only [Nat.zero_add] at hb; omega)
      rw [hr] at hr2
      injection hr2 with e1 _
      rw [e1]
      exact .inr rfl
    · by_cases hroom : n + m ≤ cap
      · have hfit : n * i.size + news.length ≤ cur.size := by rw [hl, hcs, ← Nat.add_mul]; exact Nat.mul_le_mul_right _ hroom
        have hr2 := run_append_room (P := P) w t o.type e i ht hi g n cap cur hg2 ad m c news hl hnews h1 hroom hfit
        rw [hr] at hr2
        injection hr2 with e1 _
        rw [e1]
        exact .inl rfl
      · have holds : ∀ j u, xs[j]? = some u → w.cell? ((⟨g, 0, none⟩ : Addr).add j) = some u := hown.cells (g := g) rfl
        have hr2 := run_append_grow (P := P) w t o.type e i z ht hi hz ⟨g, 0, none⟩ n cap xs hown.1 holds ad m c news hl hnews (by omega) (by omega) (growslice_fits (by omega) hbytes)
        rw [hr] at hr2
        injection hr2 with e1 _
        rw [e1]
        exact .inr rfl
  unfold Oper.wp execOp
  simp only [ho, resolve, invoke, builtin, Sem.run_bind, Sem.run_pure, Result.andThen_ok, List.map_toArray, List.map_cons, List.map_nil, hs, hx, hr]
  exact h v' w' h2 h3 key

end Go.Proofs.YtckpacifimpkgacGreat

namespace Go.Proofs.YtckpacifimpkgacGreat
open Go.RowKit
set_option linter.unusedVariables false

theorem Rd.setFlds {W : World} {r : Nat} {b : Value} {i most m : Int} {tv fv : Value} (h : Rd W r b i most m tv fv) (v : Value) : Rd (W.setCell ⟨r, 5, none⟩ v) r b i most m tv v := by
  unfold Rd at h ⊢
  rw [setCell_eq_setRow W r 5 _ _ (0, 0) _ h, setRow_heap W r _ _ _ (0, 0) h]
  rfl

theorem Rd.grew {W W' : World} {r : Nat} {b : Value} {i most m : Int} {tv fv : Value} {q : Option Nat} (h : Rd W r b i most m tv fv) (hg : W.grownBy W' q) (hr : q ≠ some r) : Rd W' r b i most m tv fv := (hg.block r h.lt (Ne.symm hr)).trans h

theorem own_set_ne {w : World} {base n size : Nat} {e : TypeId} {v : Value} {xs : List Value} (h : w.ownsRow base e size v n xs) {b : Nat} (hb : v.ownBlock ≠ some b) (k : Nat) (u : Value) : (w.setCell ⟨b, k, none⟩ u).ownsRow base e size v n xs := by
  refine ⟨h.1, ?_⟩
  rcases h.2 with h | ⟨g, cap, cur, heq, h1, hg, r⟩
  · exact .inl h
  · refine .inr ⟨g, cap, cur, heq, h1, ?_, r⟩
    rw [set_block_other _ _ _ _ _ (fun e => hb (by rw [heq, e]; rfl))]
    exact hg

theorem ownF_set {w : World} {base n r : Nat} {v : Value} {xs : List Fld} {b : Value} {i most m : Int} {tv fv : Value} (h : OwnF w base v n xs) (hr : Rd w r b i most m tv fv) (k : Nat) (u : Value) : OwnF (w.setCell ⟨r, k, none⟩ u) base v n xs := ⟨own_set_ne h.1 (own_other' h.1 hr (by decide)) k u, h.2⟩

/-- A reader with its table and its fields, two rows of its own. -/
def RdO (W : World) (B r : Nat) (b : Value) (i most m : Int) (ta : Option Addr) (tl tc : Nat) (xs : List Fld) (fa : Option Addr) (fl fc : Nat) (fs : List Fld) : Prop :=
  Rd W r b i most m (.slice ta tl tc) (.slice fa fl fc) ∧ B ≤ r ∧ OwnF W B (.slice ta tl tc) tl xs ∧ OwnF W B (.slice fa fl fc) fl fs ∧ ∀ k, fa.map (·.block) = some k → ta.map (·.block) ≠ some k

theorem RdO.stays {W W' : World} {B r : Nat} {b : Value} {i most m : Int} {ta : Option Addr} {tl tc : Nat} {xs : List Fld} {fa : Option Addr} {fl fc : Nat} {fs : List Fld} (h : RdO W B r b i most m ta tl tc xs fa fl fc fs) (hb : Below W.heap.size W W') : RdO W' B r b i most m ta tl tc xs fa fl fc fs :=
  ⟨h.1.stays hb, h.2.1, h.2.2.1.stays hb, h.2.2.2.1.stays hb, h.2.2.2.2⟩

theorem RdO.more {W W' : World} {B r : Nat} {b : Value} {i most m : Int} {ta : Option Addr} {tl tc : Nat} {xs : List Fld} {fa : Option Addr} {fl fc : Nat} {fs : List Fld} {x y : ByteArray} {o : Obj} {fa' : Option Addr} {fc' : Nat} (h : RdO W B r b i most m ta tl tc xs fa fl fc fs) (hf : x.size ≤ maxLen ∧ y.size ≤ maxLen)
    (hown : W'.ownsRow B 43 2 (.slice fa' (fl + 1) fc') (fl + 1) (fieldCells fs ++ fieldCells [(x, y)])) (hg : (W.alloc o).grownBy W' (Value.slice fa fl fc).ownBlock) (hap : ∀ k, fa'.map (·.block) = some k → ta.map (·.block) ≠ some k) :
    RdO (W'.setCell ⟨r, 5, none⟩ (.slice fa' (fl + 1) fc')) B r b i most m ta tl tc xs fa' (fl + 1) fc' (fs ++ [(x, y)]) := by
  have hn := (Below.refl W.heap.size W).alloc (Nat.le_refl _) o
  obtain ⟨h1, h2, h3, h4, h5⟩ := h.stays hn
  have hr1 : Rd W' r b i most m (.slice ta tl tc) (.slice fa fl fc) := h1.grew hg (own_other' h4.1 h1 (by decide))
  have ht : OwnF W' B (.slice ta tl tc) tl xs := by
    refine h3.grown hg ?_
    rw [ownBlock_slice, ownBlock_slice]
    cases e : fa.map (·.block) with
    | none =>
      cases e2 : ta.map (·.block) with
      | none => exact .inl rfl
      | some k => exact .inr (by simp)
    | some k => exact .inr (h5 k e)
  refine ⟨hr1.setFlds _, h2, ownF_set ht hr1 _ _, ?_, hap⟩
  refine ownF_set ⟨?_, ?_⟩ hr1 _ _
  · rw [fieldCells_append]
    exact hown
  · intro f hf'
    rcases List.mem_append.1 hf' with hf' | hf'
    · exact h4.2 f hf'
    · simp at hf'
      subst hf'
      exact hf

theorem RdO.tab {W Y : World} {B r : Nat} {b : Value} {i most m : Int} {ta : Option Addr} {tl tc : Nat} {xs : List Fld} {fa : Option Addr} {fl fc : Nat} {fs : List Fld} {va : Option Addr} {k vc : Nat} {ys : List Fld} (h : RdO W B r b i most m ta tl tc xs fa fl fc fs) (hb : Below W.heap.size W Y) (hB : B ≤ W.heap.size) (ho : OwnF Y W.heap.size (.slice va k vc) k ys) (m' : Int) :
    RdO ((Y.setCell ⟨r, 3, none⟩ (.int .i64 m')).setCell ⟨r, 4, none⟩ (.slice va k vc)) B r b i most m' va k vc ys fa fl fc fs := by
  have hs := h.stays hb
  have e1 := own_other' ho.1 hs.1 (by decide)
  have e2 := own_other' hs.2.2.2.1.1 hs.1 (by decide)
  refine ⟨hs.1.setTab m' _, h.2.1, ⟨own_down (own_set_ne (own_set_ne ho.1 e1 _ _) e1 _ _) hB, ho.2⟩, ⟨own_set_ne (own_set_ne hs.2.2.2.1.1 e2 _ _) e2 _ _, hs.2.2.2.1.2⟩, fun j g1 g2 => ?_⟩
  have h1 := (h.2.2.2.1.lt j (by rw [ownBlock_slice]; exact g1)).2
  have h2 := (ho.lt j (by rw [ownBlock_slice]; exact g2)).1
  omega

set_option maxRecDepth 10000 in
set_option maxHeartbeats 3200000 in
theorem rdTake_any (T : TypeId) (hT : T = 98 ∨ T = 82 ∨ T = 99 ∨ T = 100)
    (r B : Nat) (b : Value) (i most m : Int) (ta : Option Addr) (tl tc : Nat) (xs : List Fld) (fa : Option Addr) (fl fc : Nat) (fs : List Fld) (x y : ByteArray) (w : World) (hr : RdO w B r b i most m ta tl tc xs fa fl fc fs) (hB : B ≤ w.heap.size)
    (hf : x.size ≤ maxLen ∧ y.size ≤ maxLen) (hl : tl + (x.size + y.size) + fldBytes xs ≤ 1048576) (hfl : fl ≤ 100) :
    Calls Tryz.prog 42 #[.pointer (some ⟨r, 0, none⟩), .iface T (.agg #[]), .agg #[.string x, .string y]] w fun e w' => (fl = 100 ∧ e = .returned (.int .i64 4) ∧ Below B w w') ∨
      (fl ≠ 100 ∧ e = .returned (.int .i64 0) ∧ ∃ (va : Option Addr) (k vc : Nat) (ys : List Fld) (fa' : Option Addr) (fc' : Nat), ((T = 99 ∧ AddAns m xs (x, y) ys) ∨ (T ≠ 99 ∧ ys = xs)) ∧ RdO w' B r b i most m va k vc ys fa' (fl + 1) fc' (fs ++ [(x, y)]) ∧ Below B w w') := by
  obtain ⟨i0, hi, hz0, hz1, hz2⟩ := info_parts info_field
  obtain ⟨w0, hw0⟩ : ∃ w0, w.alloc (.cells #[.string x, .string y] 43) = w0 := ⟨_, rfl⟩
  have hb0 : Below w.heap.size w w0 := by rw [← hw0]; exact (Below.refl _ _).alloc (Nat.le_refl _) _
  have HF0 : Hid (Box2 w0 w.heap.size 43 (.string x) (.string y)) := by show Box2 _ _ _ _ _; rw [← hw0]; exact Box2.new _ _ _ _
  have HR0 : Hid (RdO w0 B r b i most m ta tl tc xs fa fl fc fs) := hr.stays hb0
  have HB0 : Hid (Below B w w0) := hb0.mono hB
  have hrl : r < w.heap.size := hr.1.lt
  have hBr : B ≤ r := hr.2.1
  have HFr : Hid ((Value.slice fa fl fc).ownBlock ≠ some w.heap.size) := fun e => by have := (hr.2.2.2.1.lt _ e).2; omega
  clear hr hb0
  obtain ⟨_, _, _, _, _, c5, _⟩ := HR0.out.1.cells
  by_cases h100 : fl = 100
  · subst h100
    go_enter Tryz.func42, Tryz.ntmps42
    go_wp2_with fail
    go_ret
    exact .inl ⟨trivial, rfl, HB0.out⟩
  · have h100i : ((fl : Int) == 100) = false := by simp; omega
    have h100j : ¬ (fl : Int) = 100 := by omega
    have HN100 : Hid (fl ≠ 100) := h100
    obtain ⟨d0, d1, _, _⟩ := HF0.out.cells
    obtain ⟨_, _, _, _, _, _, c6⟩ := HR0.out.1.cells
    have c7 := c6 5 (by omega)
    clear c6
    go_enter Tryz.func42, Tryz.ntmps42
    have HOd : Hid ((w0.alloc (.cells #[.string x, .string y] 43)).drew.ownsRow B 43 2 (.slice fa fl fc) fl (fieldCells fs)) := World.ownsRow.alloc (w := w0) HR0.out.2.2.2.1.1 _
    have hA : fl + 1 ≤ maxLen := by unfold maxLen; omega
    have hA2 : (fl + 1) * 32 ≤ 140737488355328 := by omega
    have HSz : Hid (B ≤ (w0.alloc (.cells #[.string x, .string y] 43)).drew.heap.size) := by
      show B ≤ (w0.alloc (.cells #[.string x, .string y] 43)).heap.size
      rw [World.size_alloc]
      exact Nat.le_succ_of_le (Nat.le_trans hB HB0.out.size)
    have HN : Hid (∀ j u, (fieldCells [(x, y)])[j]? = some u → (w0.alloc (.cells #[.string x, .string y] 43)).drew.cell? ((⟨w0.heap.size, 0, none⟩ : Addr).add j) = some u) := two_new w0 x y _ ⟨w0.heap.size, 0, none⟩ rfl
    have hrd : Rd (w0.alloc (.cells #[.string x, .string y] 43)) r b i most m (.slice ta tl tc) (.slice fa fl fc) := HR0.out.1.stays ((Below.refl _ _).alloc (Nat.le_refl _) _)
    obtain ⟨_, _, _, _, _, f5, _⟩ := hrd.cells
    have hfd : Box2 (w0.alloc (.cells #[.string x, .string y] 43)) w.heap.size 43 (.string x) (.string y) := HF0.out.alloc _
    have HFd : Hid _ := hfd
    have HRd : Hid _ := hrd
    obtain ⟨f0, f1, _, _⟩ := hfd.cells
    have hlt0 : w.heap.size < w0.heap.size := HF0.out.lt
    have hn1 : ¬ w0.heap.size = r := by omega
    have hn2 : ¬ r = w0.heap.size := by omega
    have hn3 : ¬ w0.heap.size = w.heap.size := by omega
    have hn4 : ¬ w.heap.size = w0.heap.size := by omega
    have hn5 : ¬ w.heap.size = r := by omega
    have hn6 : ¬ r = w.heap.size := by omega
    have HNr : Hid ((Value.slice fa fl fc).ownBlock ≠ some r) := own_other' HR0.out.2.2.2.1.1 HR0.out.1 (by decide)
    have HNf : Hid ((Value.slice fa fl fc).ownBlock ≠ some w.heap.size) := HFr.out
    clear hrd hfd
    go_wp2_with fail
    go_region_law (first
      | (refine step_append_where rfl (.tmp 17) (.tmp 19) 24 rfl B 43 i0 (.agg #[.string ⟨#[]⟩, .string ⟨#[]⟩]) 2 32 Tryz.underlying24 hi hz0 hz1 hz2 rfl (by decide) (.slice fa fl fc) fl (fieldCells fs) rfl HOd.out ⟨w0.heap.size, 0, none⟩ 1 1 (by omega) (fieldCells [(x, y)]) rfl rfl HN.out (fieldCells_one _) hA hA2 HSz.out ?_; intro v5 w5 hown hgrow hwh; obtain ⟨a5, c5, rfl⟩ := own_shape hown; have hr5 : Rd w5 r b i most m (.slice ta tl tc) (.slice fa fl fc) := Rd.grew (W := (w0.alloc (.cells #[.string x, .string y] 43)).drew) HRd.out hgrow HNr.out; obtain ⟨_, _, _, _, _, g5, g6⟩ := hr5.cells; have g7 := g6 5 (by omega)))
    all_goals
      have hg5 : (w0.alloc (.cells #[.string x, .string y] 43)).grownBy w5 (Value.slice fa fl fc).ownBlock := ⟨hgrow.os, hgrow.tape, hgrow.output, hgrow.size, hgrow.block⟩
      have hap : ∀ k, a5.map (·.block) = some k → ta.map (·.block) ≠ some k := by
        intro k hk ht
        rcases hwh with h | h
        · rw [ownBlock_slice, ownBlock_slice] at h
          exact HR0.out.2.2.2.2 k (by rw [← h]; exact hk) ht
        · rw [ownBlock_slice, hk] at h
          injection h with h
          have h3 := (HR0.out.2.2.1.lt k (by rw [ownBlock_slice]; exact ht)).2
          have h4 : k = (w0.alloc (.cells #[.string x, .string y] 43)).heap.size := h
          rw [World.size_alloc] at h4
          omega
      have HR6 : Hid (RdO (w5.setCell ⟨r, 5, none⟩ (.slice a5 (fl + 1) c5)) B r b i most m ta tl tc xs a5 (fl + 1) c5 (fs ++ [(x, y)])) := HR0.out.more hf hown hg5 hap
      have HB6 : Hid (Below B w (w5.setCell ⟨r, 5, none⟩ (.slice a5 (fl + 1) c5))) := by
        have h1 : Below B w (w0.alloc (.cells #[.string x, .string y] 43)) := HB0.out.alloc (Nat.le_trans hB HB0.out.size) _
        exact (h1.grown hg5 HSz.out (fun q hq => (HR0.out.2.2.2.1.lt q hq).1)).setCell (p := ⟨r, 5, none⟩) hBr _
      have HF6 : Hid (Box2 (w5.setCell ⟨r, 5, none⟩ (.slice a5 (fl + 1) c5)) w.heap.size 43 (.string x) (.string y)) := by
        show _ = _
        rw [set_block_other _ _ _ _ _ hn5]
        exact (HF0.out.alloc _).grown hg5 HNf.out
      obtain ⟨w6, hw6⟩ : ∃ w6, w5.setCell ⟨r, 5, none⟩ (.slice a5 (fl + 1) c5) = w6 := ⟨_, rfl⟩
      rw [hw6] at HR6 HB6 HF6 ⊢
      have HB6s : Hid (B ≤ w6.heap.size) := Nat.le_trans hB HB6.out.size
      clear hw6 hg5 hap hown hgrow hwh hr5 g5 g6 g7 f0 f1 f5 d0 d1 c7 HOd HSz HN HFd HRd HNr HNf hn1 hn2 hn3 hn4 HR0 HF0 HB0
      obtain ⟨_, _, _, e3, e4, _, e6⟩ := HR6.out.1.cells
      have e7 := e6 3 (by omega)
      have e8 := e6 4 (by omega)
      obtain ⟨k0, k1, _, _⟩ := HF6.out.cells
      clear e6
      go_wp2_with fail
      go_region_with (first
        | (go_at_call 37; refine (behind_any T hT m ta tl tc xs x y _ (HR6.out.stays (Below.refl _ _).drew).2.2.1.flds hf hl).mono ?_; rintro e y1 ⟨v, k, ys, rfl, hans, hov, hb1⟩; obtain ⟨va, vc, rfl⟩ := hov.shape; have hb1' : Below w6.heap.size w6 y1 := (Below.refl w6.heap.size w6).drew.trans (hb1.mono (Nat.le_refl _)); obtain ⟨_, _, _, l3, l4, _, l6⟩ := (HR6.out.stays hb1').1.cells; have l7 := l6 3 (by omega); have l8 := l6 4 (by omega)))
      all_goals
        have HAns : Hid ((T = 99 ∧ AddAns m xs (x, y) ys) ∨ (T ≠ 99 ∧ ys = xs)) := hans
        have hbf : Below B w y1 := HB6.out.trans (hb1'.mono HB6s.out)
        have HFin : Hid _ := HR6.out.tab hb1' HB6s.out hov m
        have HBf : Hid _ := (hbf.setCell (p := ⟨r, 3, none⟩) hBr (.int .i64 m)).setCell (p := ⟨r, 4, none⟩) hBr (.slice va k vc)
        clear hans hov hb1 hb1' l3 l4 l6 l7 l8 e3 e4 e7 e8 k0 k1 hbf
        go_wp2_with fail
        go_ret
        exact ⟨rfl, va, k, vc, ys, HAns.out, ⟨a5, c5, HFin.out⟩, HBf.out⟩

end Go.Proofs.YtckpacifimpkgacGreat

namespace Go.Proofs.YtckpacifimpkgacGreat
open Go.RowKit
set_option linter.unusedVariables false

theorem okT_iff (m : Int) (xs : List Fld) : okT m xs = true ↔ 0 ≤ m ∧ m ≤ 4096 ∧ (szL xs : Int) ≤ m := by
  unfold okT
  exact decide_eq_true_iff

theorem okT_small {m : Int} {xs : List Fld} (h : okT m xs = true) : xs.length + fldBytes xs ≤ 4096 := by
  obtain ⟨h1, h2, h3⟩ := (okT_iff m xs).1 h
  unfold szL at h3
  omega

theorem AddAns.ok {m : Int} {xs : List Fld} {f : Fld} {ys : List Fld} (h : AddAns m xs f ys) (ho : okT m xs = true) : okT m ys = true := by
  rcases h with ⟨_, k, hk, rfl⟩ | ⟨h, _⟩
  · obtain ⟨h1, h2, h3⟩ := (okT_iff m xs).1 ho
    have h4 := hk.2.1
    exact (okT_iff m _).2 ⟨h1, h2, by omega⟩
  · rw [ho] at h
    cases h

theorem CutAns.ok {m n : Int} {xs : List Fld} {m' : Int} {ys : List Fld} (h : CutAns m n xs m' ys) (ho : okT m xs = true) : okT m' ys = true := by
  rcases h with ⟨⟨_, h1, h2⟩, rfl, k, hk, rfl⟩ | ⟨_, rfl, rfl⟩
  · have h4 := hk.2.1
    exact (okT_iff _ _).2 ⟨h1, h2, by omega⟩
  · exact ho

theorem firstL_short : ∀ f ∈ firstL, f.1.size ≤ 100 ∧ f.2.size ≤ 100 := by decide

theorem fldBytes_mem {xs : List Fld} {f : Fld} (h : f ∈ xs) : f.1.size + f.2.size ≤ fldBytes xs := by
  induction xs with
  | nil => cases h
  | cons g xs ih =>
    have e : fldBytes (g :: xs) = g.1.size + g.2.size + fldBytes xs := by simp [fldBytes]
    rcases List.mem_cons.1 h with rfl | h
    · omega
    · have := ih h
      omega

theorem atAns_short {m : Int} {xs : List Fld} (ho : okT m xs = true) (i : Int) : (atAns xs i).1.1.size + (atAns xs i).1.2.size ≤ 4096 := by
  have hs := okT_small ho
  unfold atAns
  by_cases h1 : i ≤ 61
  · rw [if_pos h1]
    unfold firstAns
    by_cases h2 : 1 ≤ i ∧ i ≤ 61
    · rw [if_pos h2]
      dsimp only
      by_cases h3 : (i - 1).toNat < firstL.length
      · have h4 : firstL.getD (i - 1).toNat (⟨#[]⟩, ⟨#[]⟩) = firstL[(i - 1).toNat] := by rw [List.getD, List.getElem?_eq_getElem h3]; rfl
        rw [h4]
        have := firstL_short _ (List.getElem_mem h3)
        omega
      · have h4 : firstL.getD (i - 1).toNat (⟨#[]⟩, ⟨#[]⟩) = (⟨#[]⟩, ⟨#[]⟩) := by rw [List.getD, List.getElem?_eq_none (by omega)]; rfl
        rw [h4]
        decide
    · rw [if_neg h2]
      decide
  · rw [if_neg h1]
    by_cases h2 : (i - 62).toNat < xs.length
    · rw [if_pos h2]
      dsimp only
      have h4 : xs.getD (i - 62).toNat fnil = xs[(i - 62).toNat] := by simp [List.getD, h2]
      rw [h4]
      have := fldBytes_mem (List.getElem_mem h2)
      omega
    · rw [if_neg h2]
      decide

end Go.Proofs.YtckpacifimpkgacGreat
