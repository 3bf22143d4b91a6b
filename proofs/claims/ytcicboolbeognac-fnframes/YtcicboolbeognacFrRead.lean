/- What the program's ReadFrames answers: all frames from the beginning, in memory of its own, up to the first that is not good; nothing that was there is written. -/
import Derived.Test.YtcicboolbeognacFrReads
import Derived.Test.YtcicboolbeognacFrRow
import Derived.Test.YtcicboolbeognacFrGetF
import Derived.Deep.Cut
namespace Go.Proofs.Ytcicboolbeognac
open Go.RowKit
set_option linter.unusedVariables false

theorem info_frame : (Try.prog.info? 44).map (fun i => (i.zero, i.size, i.bytes)) = some (some (.agg #[.int .i64 0, .int .i64 0, .int .i64 0, .slice none 0 0]), 4, 48) := by kernel_rfl

theorem four_new (W : World) (k f s : Int) (a : Option Addr) (n c : Nat) (zs : List Int) : ∀ j u, (FE.cells ⟨k, f, s, a, n, c, zs⟩)[j]? = some u → (W.alloc (.cells #[.int .i64 k, .int .i64 f, .int .i64 s, .slice a n c] 44)).cell? ((⟨W.heap.size, 0, none⟩ : Addr).add j) = some u := by
  intro j u hj
  match j, hj with
  | 0, hj => simp [FE.cells] at hj; subst hj; simp [Addr.add]
  | 1, hj => simp [FE.cells] at hj; subst hj; simp [Addr.add]
  | 2, hj => simp [FE.cells] at hj; subst hj; simp [Addr.add]
  | 3, hj => simp [FE.cells] at hj; subst hj; simp [Addr.add]

theorem four_one (k f s : Int) (a : Option Addr) (n c : Nat) (zs : List Int) : ∀ u ∈ FE.cells ⟨k, f, s, a, n, c, zs⟩, u.oneCell' = true := by
  intro u hu
  simp [FE.cells] at hu
  rcases hu with rfl | rfl | rfl | rfl <;> rfl

/-- A frame more in a row. -/
theorem FrRow.snoc {W W' : World} {base B : Nat} {v v' : Value} {l : List FE} {e : FE} {o : Obj} (h : FrRow W base v l) (he : Owns W B e.a e.n e.c e.zs) (hB : base ≤ B) (hl : ∀ x ∈ l, ∀ q, x.a.map (·.block) = some q → q < B) (ho : W'.ownsRow base 44 4 v' (l.length + 1) (feCells l ++ FE.cells e)) (hg : (W.alloc o).grownBy W' v.ownBlock) : FrRow W' base v' (l ++ [e]) := by
  have hb : Below W.heap.size W (W.alloc o) := (Below.refl _ _).alloc (Nat.le_refl _) _
  have h1 := h.stays hb
  refine ⟨?_, ?_, ?_⟩
  · rw [List.length_append, feCells_append, show feCells [e] = FE.cells e by simp [feCells]]
    exact ho
  · intro x hx
    rcases List.mem_append.1 hx with hx | hx
    · exact (h1.2.1 x hx).grown hg (fun q hq => h1.rowApart (h1.2.1 x hx) q hq)
    · obtain rfl : x = e := by simpa using hx
      exact ((he.below hb).grown hg (fun q hq => h1.rowApart (he.below hb) q hq)).low hB
  · rw [List.pairwise_append]
    refine ⟨h.2.2, by simp, fun x hx y hy q hq hq2 => ?_⟩
    obtain rfl : y = e := by simpa using hy
    have h2 := hl x hx q hq
    have h3 := (he.lt q hq2).1
    omega

set_option maxRecDepth 10000 in
set_option maxHeartbeats 1600000 in
theorem implRead_any (a : Option Addr) (len cap : Nat) (zs : List Int) (L : List (Int × Int × Int × List Int)) (P C : Int) (w : World) (hs : Seg w a len zs) (hcap : len ≤ cap) (hl : len ≤ 1099511627776) (hr : Reads zs 0 L P C) :
    Calls Try.prog 18 #[.slice a len cap] w fun e w' => ∃ v l, e = .returned (.tuple #[v, .int .i64 P, .int .i64 C]) ∧ FrRow w' w.heap.size v l ∧ l.map FE.data = L ∧ Below w.heap.size w w' := by
  obtain ⟨i0, hi, hz0, hz1, hz2⟩ := info_parts info_frame
  have HS : Hid (Seg w a len zs) := hs
  have HR : Hid (Reads zs 0 L P C) := hr
  have HB0 : Hid (Below w.heap.size w (w.alloc (.cells #[] 44))) := (Below.refl _ _).alloc (Nat.le_refl _) _
  have HO0 : Hid (FrRow (w.alloc (.cells #[] 44)) w.heap.size (.slice (some ⟨w.heap.size, 0, none⟩) 0 0) []) := FrRow.nil w
  clear hs hr
  go_enter Try.func18, Try.ntmps18
  go_wp2_with fail
  go_loopw [5, 6] (fun v i wr => ∃ (T : Nat) (l : List FE) (L2 : List (Int × Int × Int × List Int)), T ≤ len ∧ i = .int .i64 T ∧ l.length * 9 ≤ T ∧ Hid (FrRow wr w.heap.size v l) ∧ Hid (l.map FE.data ++ L2 = L) ∧ Hid (Reads zs T L2 P C) ∧ Hid (Below w.heap.size w wr)) (fun _ i _ => len - (intOf i).toNat)
  case atStart => exact ⟨0, [], L, Nat.zero_le _, rfl, Nat.zero_le _, HO0, rfl, HR, HB0⟩
  case round =>
    clear HO0 HB0 HR
    obtain ⟨T, l, L2, hT, rfl, hlT, HO, HL, HR, HB⟩ := hrel
    have hG := implGetF_any a len cap T zs wr (HS.out.below HB.out) hcap hl ⟨by omega, by omega⟩
    obtain ⟨n, c, hv⟩ := HO.out.shape
    subst hv
    have HGd : Hid ((getF zs T).2.2.2.2.2 = 0 → (getF zs T).2.2.2.2.1 = (T : Int) + 9 + ((getF zs T).2.2.2.1.length : Int) ∧ (getF zs T).2.2.2.2.1 ≤ (zs.length : Int)) := fun h => ⟨(getF_good HS.out.2.1 h).2.1, (getF_good HS.out.2.1 h).2.2.1⟩
    have HD4 : Hid (getD4 zs T = ((getF zs T).1, (getF zs T).2.1, (getF zs T).2.2.1, (getF zs T).2.2.2.1)) := rfl
    have hC := HR.out
    obtain ⟨⟨k, f, s, body, nx, cd⟩, hgf⟩ : ∃ p, getF zs T = p := ⟨_, rfl⟩
    have HGF : Hid (getF zs T = (k, f, s, body, nx, cd)) := hgf
    rw [hgf] at hG HGd HD4
    dsimp only at hG HGd HD4
    have HC : Hid (¬ cd = 0 → L2 = [] ∧ P = (T : Int) ∧ C = cd) := fun h => by
      cases hC with
      | stop _ _ => exact ⟨rfl, rfl, by rw [hgf]⟩
      | step _ _ _ _ h2 _ => rw [hgf] at h2; exact absurd h2 h
    have HC0 : Hid (cd = 0 → ∃ L3, L2 = (k, f, s, body) :: L3 ∧ Reads zs nx L3 P C) := fun h => by
      cases hC with
      | stop _ h2 => rw [hgf] at h2; exact absurd h h2
      | step _ l3 _ _ _ r => rw [hgf] at r; exact ⟨l3, by rw [HD4.out], r⟩
    clear hC hgf HGF HD4
    have HCall : Hid (Calls Try.prog 25 #[.slice a len cap, .int .i64 (T : Int)] wr fun e w' => ∃ a' cap', e = .returned (.tuple #[.agg #[.int .i64 k, .int .i64 f, .int .i64 s, .slice a' body.length cap'], .int .i64 nx, .int .i64 cd]) ∧ Owns w' wr.heap.size a' body.length cap' body ∧ Below wr.heap.size wr w') := hG
    clear hG
    go_wp2_with fail
    refine (HCall.out).mono ?_
    rintro e x1 ⟨ga, gc, rfl, og1, hb1⟩
    obtain ⟨bl, hbl⟩ : ∃ bl, body.length = bl := ⟨_, rfl⟩
    have HBl : Hid (body.length = bl) := hbl
    rw [hbl] at og1 ⊢
    clear hbl HCall
    have hb2 : Below wr.heap.size wr (x1.alloc (.cells #[.int .i64 k, .int .i64 f, .int .i64 s, .slice ga bl gc] 44)) := hb1.alloc hb1.size _
    have HB2 : Hid (Below w.heap.size w (x1.alloc (.cells #[.int .i64 k, .int .i64 f, .int .i64 s, .slice ga bl gc] 44))) := HB.out.trans (hb2.mono HB.out.size)
    have HO2 : Hid (FrRow (x1.alloc (.cells #[.int .i64 k, .int .i64 f, .int .i64 s, .slice ga bl gc] 44)) w.heap.size (.slice n l.length c) l) := HO.out.stays hb2
    have HG2 : Hid (Owns (x1.alloc (.cells #[.int .i64 k, .int .i64 f, .int .i64 s, .slice ga bl gc] 44)) wr.heap.size ga bl gc body) := og1.below ((Below.refl _ _).alloc (Nat.le_refl _) _)
    have HX2 : Hid (Box4 (x1.alloc (.cells #[.int .i64 k, .int .i64 f, .int .i64 s, .slice ga bl gc] 44)) x1.heap.size 44 (.int .i64 k) (.int .i64 f) (.int .i64 s) (.slice ga bl gc)) := Box4.new _ _ _ _ _ _
    have HAp : Hid (∀ e ∈ l, ∀ q, e.a.map (·.block) = some q → q < wr.heap.size) := fun e he q hq => ((HO.out.2.1 e he).lt q hq).2
    have hws : w.heap.size ≤ wr.heap.size := HB.out.size
    clear hb1 hb2 og1 HO HB
    by_cases hcd : cd = 0
    · subst hcd
      obtain ⟨L3, hL3, hR3⟩ := HC0.out rfl
      obtain ⟨hn1, hn2⟩ := HGd.out rfl
      obtain ⟨T2, rfl⟩ := Int.eq_ofNat_of_zero_le (show 0 ≤ nx by omega)
      have HR3 : Hid (Reads zs T2 L3 P C) := hR3
      have HL3 : Hid (l.map FE.data ++ (k, f, s, body) :: L3 = L) := by show _ = _; rw [← hL3]; exact HL.out
      have hT2 : T2 ≤ len ∧ T2 = T + 9 + bl := by
        have h1 := HBl.out
        have h2 := HS.out.1
        rw [h1] at hn1
        omega
      have HT2 : Hid (T2 ≤ len ∧ T2 = T + 9 + bl) := hT2
      clear hL3 hR3 hn1 hn2 hT2 HC HC0 HGd HL HR
      go_upto_region 6 with fail
      obtain ⟨x2, hx2⟩ : ∃ x2, x1.alloc (.cells #[.int .i64 k, .int .i64 f, .int .i64 s, .slice ga bl gc] 44) = x2 := ⟨_, rfl⟩
      rw [hx2] at HB2 HO2 HG2 HX2 ⊢
      clear hx2
      generalize x1.heap.size = bx at *
      obtain ⟨c0, c1, c2, c3⟩ := HX2.out.cells
      have HN : Hid (∀ j u, (FE.cells ⟨k, f, s, ga, bl, gc, body⟩)[j]? = some u → (x2.alloc (.cells #[.int .i64 k, .int .i64 f, .int .i64 s, .slice ga bl gc] 44)).cell? ((⟨x2.heap.size, 0, none⟩ : Addr).add j) = some u) := four_new x2 k f s ga bl gc body
      have HO2' : Hid ((x2.alloc (.cells #[.int .i64 k, .int .i64 f, .int .i64 s, .slice ga bl gc] 44)).ownsRow w.heap.size 44 4 (.slice n l.length c) l.length (feCells l)) := HO2.out.1.alloc _
      go_wp2_with (at_builtin; refine wpList_append_own _ rfl _ _ 40 rfl w.heap.size 44 i0 (.agg #[.int .i64 0, .int .i64 0, .int .i64 0, .slice none 0 0]) 4 48 Try.underlying40 hi hz0 hz1 hz2 rfl (by decide) (.slice n l.length c) l.length _ rfl HO2'.out ⟨x2.heap.size, 0, none⟩ 1 1 (FE.cells ⟨k, f, s, ga, bl, gc, body⟩) rfl rfl HN.out (four_one k f s ga bl gc body) (by unfold maxLen; omega) (by omega) (by have := HB2.out.size; simp; omega) ?_; intro v3 x3 hown3 hgrow3 _; refine Hid.out ?_)
      refine hidden ?_
      have hgrow : x2.grownBy x3 (.some x2.heap.size) ∨ True := .inr trivial
      have HO3 : Hid (FrRow x3 w.heap.size v3 (l ++ [⟨k, f, s, ga, bl, gc, body⟩])) := HO2.out.snoc HG2.out hws HAp.out hown3 hgrow3
      have HB3 : Hid (Below w.heap.size w x3) := (HB2.out.alloc HB2.out.size _).grown hgrow3 (by have := HB2.out.size; simp; omega) (fun q hq => (HO2.out.1.lt q hq).1)
      clear hgrow hown3 hgrow3 HN HO2' c0 c1 c2 c3 HO2 HG2 HX2 HB2
      go_wp2
      go_roundw
      case rel =>
        refine ⟨T2, _, L3, HT2.out.1, rfl, ?_, HO3, ?_, HR3, HB3⟩
        · rw [List.length_append]
          simp only [List.length_cons, List.length_nil]
          have := HT2.out.2
          omega
        · show _ = _
          rw [List.map_append, List.append_assoc]
          exact HL3.out
      case measure => have := HT2.out; simp [intOf]; omega
    · have hne : (cd != 0) = true := by simpa using hcd
      obtain ⟨rfl, hP, hC2⟩ := HC.out hcd
      have HL2 : Hid (l.map FE.data = L) := by have := HL.out; rw [List.append_nil] at this; exact this
      have HPC : Hid (P = (T : Int) ∧ C = cd) := ⟨hP, hC2⟩
      clear HC HC0 HGd HL hP hC2
      go_wp2_with fail
      refine bodyPost_ret (v := .tuple #[.slice n l.length c, .int .i64 (T : Int), .int .i64 cd]) (by simp [results, Try.f18, go_sem]) rfl ?_
      exact ⟨_, _, by rw [HPC.out.1, HPC.out.2], HO2.out, HL2.out, HB2.out⟩

end Go.Proofs.Ytcicboolbeognac
