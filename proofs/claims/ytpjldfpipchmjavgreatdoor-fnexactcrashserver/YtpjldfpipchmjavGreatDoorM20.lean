/- The greatest epoch of texts; the records ahead that follow each other; no program in it. The records ahead, one behind the other; no program in it. A record more in a row. No statement of the program but its table of types. What the specification's ScanRecs answers. How long the bytes of the records ahead are. No statement of the program but its table of types. What the records ahead are: of their sectors, with their numbers, in the order of their epochs, none above the top; no program in it. A record comes back of its text, and a byte of its sum that is turned is told; no program in it. Stores that are right, and what a record written into one makes; no program in it. -/
import Derived.Test.YtpjldfpipchmjavGreatDoorM11
import Derived.Test.YtpjldfpipchmjavGreatDoorM14
import Derived.Test.YtpjldfpipchmjavGreatDoorM19
import Derived.Test.YtpjldfpipchmjavGreatDoorM03
import Derived.Test.YtpjldfpipchmjavGreatDoorM04
import Derived.Test.YtpjldfpipchmjavGreatDoorM16
namespace Go.Proofs.YtpjldfpipchmjavGreatDoor
open Go.RowKit
set_option linter.unusedVariables false

def topStep (m : Int) (s : ByteArray) : Int := match recOf s with
  | none => m
  | some r => if m < r.e then r.e else m

/-- The greatest epoch. -/
def topE (l : List ByteArray) : Int := l.foldl topStep (-1)

theorem topE_step (l : List ByteArray) (k : Nat) (x : ByteArray) (h : l[k]? = some x) : topE (l.take (k + 1)) = topStep (topE (l.take k)) x := by
  rw [List.take_add_one, h]
  simp [topE, List.foldl_append]

theorem topStep_none {m : Int} {s : ByteArray} (h : recOf s = none) : topStep m s = m := by rw [topStep, h]
theorem topStep_some {m : Int} {s : ByteArray} {r : R} (h : recOf s = some r) : topStep m s = if m < r.e then r.e else m := by rw [topStep, h]

/-- Whether the record of a text follows. -/
def nextR (i : Nat) (last : Int) (s : ByteArray) : Option R := match recOf s with
  | none => none
  | some r => if r.q = (i : Int) ∧ last ≤ r.e then some r else none

/-- The records from the i-th on, behind one with this epoch. -/
def scanFrom (i : Nat) (last : Int) : List ByteArray → List R
  | [] => []
  | s :: l => match nextR i last s with
    | none => []
    | some r => r :: scanFrom (i + 1) r.e l

def scanR (l : List ByteArray) : List R := scanFrom 0 0 l

theorem nextR_ok {i : Nat} {last : Int} {s : ByteArray} {r : R} (h : nextR i last s = some r) : recOf s = some r ∧ r.q = (i : Int) ∧ last ≤ r.e := by
  rw [nextR] at h
  split at h
  · cases h
  · rename_i r' hr
    split at h
    · rename_i hc
      injection h with h
      subst h
      exact ⟨hr, hc⟩
    · cases h

end Go.Proofs.YtpjldfpipchmjavGreatDoor

namespace Go.Proofs.YtpjldfpipchmjavGreatDoor
open Go.RowKit
set_option linter.unusedVariables false

theorem scan_next {i : Nat} {last : Int} {xs : List ByteArray} {k : Nat} {x : ByteArray} (h : xs[k]? = some x) : scanFrom i last (xs.drop k) = match nextR i last x with
    | none => []
    | some r => r :: scanFrom (i + 1) r.e (xs.drop (k + 1)) := by
  have hk : k < xs.length := (List.getElem?_eq_some_iff.1 h).1
  obtain ⟨_, hx⟩ := List.getElem?_eq_some_iff.1 h
  rw [List.drop_eq_getElem_cons hk, hx]
  rfl

theorem scan_stop {i : Nat} {last : Int} {xs : List ByteArray} {k : Nat} {x : ByteArray} (h : xs[k]? = some x) (hn : nextR i last x = none) : scanFrom i last (xs.drop k) = [] := by
  rw [scan_next h, hn]

theorem scan_go {i : Nat} {last : Int} {xs : List ByteArray} {k : Nat} {x : ByteArray} {r : R} (h : xs[k]? = some x) (hn : nextR i last x = some r) : scanFrom i last (xs.drop k) = r :: scanFrom (i + 1) r.e (xs.drop (k + 1)) := by
  rw [scan_next h, hn]

end Go.Proofs.YtpjldfpipchmjavGreatDoor

namespace Go.Proofs.YtpjldfpipchmjavGreatDoor
open Go.RowKit
set_option linter.unusedVariables false

theorem info_rec : (Tryz.prog.info? 106).map (fun i => (i.zero, i.size, i.bytes)) = some (some (.agg #[.int .i64 0, .int .i64 0, .int .i64 0, .string ⟨#[]⟩, .int .i64 0, .slice none 0 0]), 6, 72) := by kernel_rfl

theorem six_new (W : World) (r : R) (a : Option Addr) (n c : Nat) : ∀ j u, (RE.cells ⟨r, a, n, c⟩)[j]? = some u → (W.alloc (.cells #[.int .i64 r.e, .int .i64 r.q, .int .i64 r.k, .string r.id, .int .i64 r.n, .slice a n c] 106)).cell? ((⟨W.heap.size, 0, none⟩ : Addr).add j) = some u := by
  intro j u hj
  match j, hj with
  | 0, hj => simp [RE.cells] at hj; subst hj; simp [Addr.add]
  | 1, hj => simp [RE.cells] at hj; subst hj; simp [Addr.add]
  | 2, hj => simp [RE.cells] at hj; subst hj; simp [Addr.add]
  | 3, hj => simp [RE.cells] at hj; subst hj; simp [Addr.add]
  | 4, hj => simp [RE.cells] at hj; subst hj; simp [Addr.add]
  | 5, hj => simp [RE.cells] at hj; subst hj; simp [Addr.add]

theorem six_one (r : R) (a : Option Addr) (n c : Nat) : ∀ u ∈ RE.cells ⟨r, a, n, c⟩, u.oneCell' = true := by
  intro u hu
  simp [RE.cells] at hu
  rcases hu with rfl | rfl | rfl | rfl | rfl | rfl <;> rfl

/-- A record more in a row. -/
theorem RcRow.snoc {W W' : World} {base B : Nat} {v v' : Value} {l : List RE} {e : RE} {o : Obj} (h : RcRow W base v l) (he : Owns W B e.a e.n e.c e.r.zs) (hB : base ≤ B) (hl : ∀ x ∈ l, ∀ q, x.a.map (·.block) = some q → q < B) (ho : W'.ownsRow base 106 6 v' (l.length + 1) (reCells l ++ RE.cells e)) (hg : (W.alloc o).grownBy W' v.ownBlock) : RcRow W' base v' (l ++ [e]) := by
  have hb : Below W.heap.size W (W.alloc o) := (Below.refl _ _).alloc (Nat.le_refl _) _
  have h1 := h.stays hb
  refine ⟨?_, ?_, ?_⟩
  · rw [List.length_append, reCells_append, show reCells [e] = RE.cells e by simp [reCells]]
    exact ho
  · intro x hx
    rcases List.mem_append.1 hx with hx | hx
    · exact (h1.2.1 x hx).grown hg (fun q hq => h1.rowApart (h1.2.1 x hx) q hq)
    · obtain rfl : x = e := by simpa using hx
      exact ((he.below hb).grown hg (fun q hq => h1.rowApart (he.below hb) q hq)).low hB
  · rw [List.pairwise_append]
    refine ⟨h.2.2, by simp, fun x hx y hy q hq hq2 => ?_⟩
    obtain rfl : y = e := by simpa using hy
    have h2 := hl x hx q hq
    have h3 := (he.lt q hq2).1
    omega

end Go.Proofs.YtpjldfpipchmjavGreatDoor

namespace Go.Proofs.YtpjldfpipchmjavGreatDoor
open Go.RowKit
set_option linter.unusedVariables false

set_option maxRecDepth 10000 in
set_option maxHeartbeats 1600000 in
theorem specScan_any (a : Option Addr) (n ca : Nat) (xs : List ByteArray) (a' : Option Addr) (n' ca' : Nat) (w : World) (h1 : Strs w a n xs) (hn : n ≤ 1099511627776) (hz : ∀ x ∈ xs, x.size ≤ 1048576) :
    Calls Tryz.prog 64 #[.agg #[.slice a n ca, .slice a' n' ca']] w fun e w' => (∃ v l, e = .returned v ∧ RcRow w' w.heap.size v l ∧ l.map RE.r = scanR xs) ∧ Below w.heap.size w w' := by
  obtain ⟨i0, hi, hz0, hz1, hz2⟩ := info_parts info_rec
  have HX : Hid (∀ W, Below w.heap.size w W → Strs W a n xs) := fun W h => h1.below h
  have HL : Hid (xs.length = n) := h1.1
  have HZ : Hid (∀ x ∈ xs, x.size ≤ 1048576) := hz
  clear h1 hz
  obtain ⟨w0, hw0⟩ : ∃ w0, w.alloc (.cells #[.slice a n ca, .slice a' n' ca'] 33) = w0 := ⟨_, rfl⟩
  have HE : Hid (w.alloc (.cells #[.slice a n ca, .slice a' n' ca'] 33) = w0) := hw0
  have HA : Hid (Box2R w0 w.heap.size 33 (.slice a n ca) (.slice a' n' ca')) := by show Box2R _ _ _ _ _; rw [← hw0]; exact Box2R.new _ _ _ _
  have HB : Hid (Below w.heap.size w w0) := by show Below _ _ _; rw [← hw0]; exact (Below.refl _ _).alloc (Nat.le_refl _) _
  have HO0 : Hid (RcRow (w0.alloc (.cells #[] 106)) w0.heap.size (.slice (some ⟨w.heap.size + 1, 0, none⟩) 0 0) []) := by
    have h := RcRow.nil w0
    have e : w0.heap.size = w.heap.size + 1 := by rw [← hw0]; simp
    show RcRow _ _ _ _
    rw [e] at h ⊢
    exact h
  clear hw0
  have HB0 : Hid (Below w0.heap.size w0 (w0.alloc (.cells #[] 106))) := (Below.refl _ _).alloc (Nat.le_refl _) _
  go_enter Tryz.func64, Tryz.ntmps64
  go_wp2_with fail
  rw [HE.out]
  clear HE
  go_loopw [3, 4, 5] (fun v la i wr => ∃ (k : Nat) (last : Int) (l : List RE), k ≤ n ∧ k ≤ 200 ∧ l.length = k ∧ i = .int .i64 (k : Int) ∧ la = .int .i64 last ∧ Hid (RcRow wr w0.heap.size v l) ∧ Hid (l.map RE.r ++ scanFrom k last (xs.drop k) = scanR xs) ∧ Hid (Below w0.heap.size w0 wr)) (fun _ _ i _ => n - (intOf i).toNat)
  case atStart => exact ⟨0, 0, [], Nat.zero_le _, Nat.zero_le _, rfl, rfl, rfl, HO0, rfl, HB0⟩
  case round =>
    clear HO0 HB0
    obtain ⟨k, last, l, hk, hk2, hlk, rfl, rfl, HO, HS, HW⟩ := hrel
    obtain ⟨va, vc, hve⟩ := HO.out.shape
    subst hve
    rw [hlk] at HO ⊢
    obtain ⟨c0, c1⟩ := (HA.out.stays HW.out).cells
    by_cases hlt : k < n
    · have hb := HB.out.trans (HW.out.mono HB.out.size)
      obtain ⟨p, po, x, rfl, _, hkx, hp⟩ := (HX.out _ hb).at hlt
      have HK : Hid (xs[k]? = some x) := hkx
      have hxz : x.size ≤ 1048576 := HZ.out x (List.mem_of_getElem? hkx)
      have hki : (k : Int) < (n : Int) := by omega
      have hk0 : (0 : Int) ≤ (k : Int) := by omega
      clear hkx hb
      have HEnd : Hid (nextR k last x = none → l.map RE.r = scanR xs) := fun h => by
        have h2 := HS.out
        rw [scan_stop HK.out h, List.append_nil] at h2
        exact h2
      go_wp2_with fail
      refine (specGetR_any x wr (by omega)).mono ?_
      rintro _ w1 ⟨⟨v, rfl, hgot⟩, hb1⟩
      have hb01 : Below w0.heap.size w0 w1 := HW.out.trans (hb1.mono HW.out.size)
      rcases hgot with ⟨hr, rfl⟩ | ⟨r, A, C, hr, rfl, ho⟩
      · have HF : Hid (l.map RE.r = scanR xs) := HEnd.out (by rw [nextR, hr])
        have hb2 := (Below.refl w1.heap.size w1).alloc (Nat.le_refl _) (.cells #[.int .i64 0, .int .i64 0, .int .i64 0, .string ⟨#[]⟩, .int .i64 0, .slice none 0 0] 106)
        have HO2 : Hid (RcRow (w1.alloc (.cells #[.int .i64 0, .int .i64 0, .int .i64 0, .string ⟨#[]⟩, .int .i64 0, .slice none 0 0] 106)) w.heap.size (.slice va k vc) l) := ((HO.out.stays hb1).stays hb2).low HB.out.size
        have HW2 : Hid (Below w.heap.size w (w1.alloc (.cells #[.int .i64 0, .int .i64 0, .int .i64 0, .string ⟨#[]⟩, .int .i64 0, .slice none 0 0] 106))) := HB.out.trans ((hb01.alloc hb01.size _).mono HB.out.size)
        clear hr hb1 hb2 hb01 HW HO HEnd HS
        go_wp2_with fail
        go_ret
        exact ⟨⟨_, l, rfl, HO2.out, HF.out⟩, HW2.out⟩
      by_cases hq : r.q = (k : Int)
      case neg =>
        have hqb : (r.q != (k : Int)) = true := by simpa using hq
        have HF : Hid (l.map RE.r = scanR xs) := HEnd.out (by rw [nextR, hr]; exact if_neg (fun h => hq h.1))
        clear hq
        have hb2 := (Below.refl w1.heap.size w1).alloc (Nat.le_refl _) (.cells #[.int .i64 r.e, .int .i64 r.q, .int .i64 r.k, .string r.id, .int .i64 r.n, .slice A r.zs.length C] 106)
        have HO2 : Hid (RcRow (w1.alloc (.cells #[.int .i64 r.e, .int .i64 r.q, .int .i64 r.k, .string r.id, .int .i64 r.n, .slice A r.zs.length C] 106)) w.heap.size (.slice va k vc) l) := ((HO.out.stays hb1).stays hb2).low HB.out.size
        have HW2 : Hid (Below w.heap.size w (w1.alloc (.cells #[.int .i64 r.e, .int .i64 r.q, .int .i64 r.k, .string r.id, .int .i64 r.n, .slice A r.zs.length C] 106))) := HB.out.trans ((hb01.alloc hb01.size _).mono HB.out.size)
        clear hr hb1 hb2 hb01 HW HO HEnd HS ho
        go_wp2_with fail
        go_ret
        exact ⟨⟨_, l, rfl, HO2.out, HF.out⟩, HW2.out⟩
      have hqb : (r.q != (k : Int)) = false := by simpa using hq
      have HQk : Hid (r.q = (k : Int)) := hq
      clear hq
      by_cases he : last ≤ r.e
      case neg =>
        have hel : r.e < last := by omega
        have HF : Hid (l.map RE.r = scanR xs) := HEnd.out (by rw [nextR, hr]; exact if_neg (fun h => he h.2))
        clear he
        have hb2 := (Below.refl w1.heap.size w1).alloc (Nat.le_refl _) (.cells #[.int .i64 r.e, .int .i64 r.q, .int .i64 r.k, .string r.id, .int .i64 r.n, .slice A r.zs.length C] 106)
        have HO2 : Hid (RcRow (w1.alloc (.cells #[.int .i64 r.e, .int .i64 r.q, .int .i64 r.k, .string r.id, .int .i64 r.n, .slice A r.zs.length C] 106)) w.heap.size (.slice va k vc) l) := ((HO.out.stays hb1).stays hb2).low HB.out.size
        have HW2 : Hid (Below w.heap.size w (w1.alloc (.cells #[.int .i64 r.e, .int .i64 r.q, .int .i64 r.k, .string r.id, .int .i64 r.n, .slice A r.zs.length C] 106))) := HB.out.trans ((hb01.alloc hb01.size _).mono HB.out.size)
        clear hr hb1 hb2 hb01 HW HO HEnd HS ho
        go_wp2_with fail
        go_ret
        exact ⟨⟨_, l, rfl, HO2.out, HF.out⟩, HW2.out⟩
      have hel : ¬ r.e < last := by omega
      have hok := okRec_iff (recOf_iff.1 hr).1
      have hk199 : k ≤ 199 := by have h1 := hok.2.1; have h2 := HQk.out; omega
      have hd24 : r.zs.length ≤ 24 := hok.2.2.2.2.2
      have HS2 : Hid (l.map RE.r ++ r :: scanFrom (k + 1) r.e (xs.drop (k + 1)) = scanR xs) := by
        have h2 := HS.out
        rw [scan_go HK.out (show nextR k last x = some r by rw [nextR, hr]; exact if_pos ⟨HQk.out, he⟩)] at h2
        exact h2
      have hb2 := (Below.refl w1.heap.size w1).alloc (Nat.le_refl _) (.cells #[.int .i64 r.e, .int .i64 r.q, .int .i64 r.k, .string r.id, .int .i64 r.n, .slice A r.zs.length C] 106)
      have HB2 : Hid (Below w0.heap.size w0 (w1.alloc (.cells #[.int .i64 r.e, .int .i64 r.q, .int .i64 r.k, .string r.id, .int .i64 r.n, .slice A r.zs.length C] 106))) := hb01.alloc hb01.size _
      have HO2 : Hid (RcRow (w1.alloc (.cells #[.int .i64 r.e, .int .i64 r.q, .int .i64 r.k, .string r.id, .int .i64 r.n, .slice A r.zs.length C] 106)) w0.heap.size (.slice va k vc) l) := (HO.out.stays hb1).stays hb2
      have HG2 : Hid (Owns (w1.alloc (.cells #[.int .i64 r.e, .int .i64 r.q, .int .i64 r.k, .string r.id, .int .i64 r.n, .slice A r.zs.length C] 106)) wr.heap.size A r.zs.length C r.zs) := ho.below hb2
      have HX2 : Hid (BoxN (w1.alloc (.cells #[.int .i64 r.e, .int .i64 r.q, .int .i64 r.k, .string r.id, .int .i64 r.n, .slice A r.zs.length C] 106)) w1.heap.size 106 [.int .i64 r.e, .int .i64 r.q, .int .i64 r.k, .string r.id, .int .i64 r.n, .slice A r.zs.length C]) := BoxN.new _ _ _
      have HAp : Hid (∀ e ∈ l, ∀ q, e.a.map (·.block) = some q → q < wr.heap.size) := fun e he q hq => ((HO.out.2.1 e he).lt q hq).2
      have hws : w0.heap.size ≤ wr.heap.size := HW.out.size
      have HVa : Hid (∀ q, (Value.slice va k vc).ownBlock = some q → q < w1.heap.size) := fun q hq => by have h1 := (HO.out.1.lt q hq).2; have h2 := hb1.size; omega
      clear hok hr hb1 hb2 hb01 HW HO HEnd HS ho HQk he
      go_upto_region 9 with fail
      clear hqb hel
      obtain ⟨x2, hx2⟩ : ∃ x2, w1.alloc (.cells #[.int .i64 r.e, .int .i64 r.q, .int .i64 r.k, .string r.id, .int .i64 r.n, .slice A r.zs.length C] 106) = x2 := ⟨_, rfl⟩
      rw [hx2] at HB2 HO2 HG2 HX2 ⊢
      clear hx2
      generalize w1.heap.size = bx at *
      have s0 := HX2.out.cell 0 rfl
      have s1 := HX2.out.cell 1 rfl
      have s2 := HX2.out.cell 2 rfl
      have s3 := HX2.out.cell 3 rfl
      have s4 := HX2.out.cell 4 rfl
      have s5 := HX2.out.cell 5 rfl
      have HN : Hid (∀ j u, (RE.cells ⟨r, A, r.zs.length, C⟩)[j]? = some u → (x2.alloc (.cells #[.int .i64 r.e, .int .i64 r.q, .int .i64 r.k, .string r.id, .int .i64 r.n, .slice A r.zs.length C] 106)).cell? ((⟨x2.heap.size, 0, none⟩ : Addr).add j) = some u) := six_new x2 r A r.zs.length C
      have HO2' : Hid ((x2.alloc (.cells #[.int .i64 r.e, .int .i64 r.q, .int .i64 r.k, .string r.id, .int .i64 r.n, .slice A r.zs.length C] 106)).ownsRow w0.heap.size 106 6 (.slice va k vc) k (reCells l)) := by
        have h := HO2.out.1.alloc (.cells #[.int .i64 r.e, .int .i64 r.q, .int .i64 r.k, .string r.id, .int .i64 r.n, .slice A r.zs.length C] 106)
        rw [hlk] at h
        exact h
      go_wp2_with (at_builtin; refine wpList_append_own _ rfl _ _ 100 rfl w0.heap.size 106 i0 (.agg #[.int .i64 0, .int .i64 0, .int .i64 0, .string ⟨#[]⟩, .int .i64 0, .slice none 0 0]) 6 72 Tryz.underlying100 hi hz0 hz1 hz2 rfl (by decide) (.slice va k vc) k _ rfl HO2'.out ⟨x2.heap.size, 0, none⟩ 1 1 (RE.cells ⟨r, A, r.zs.length, C⟩) rfl rfl HN.out (six_one r A r.zs.length C) (by unfold maxLen; omega) (by omega) (by have := HB2.out.size; simp; omega) ?_; intro v3 x3 hown3 hgrow3 _; refine Hid.out ?_)
      refine hidden ?_
      have HO3 : Hid (RcRow x3 w0.heap.size v3 (l ++ [⟨r, A, r.zs.length, C⟩])) := HO2.out.snoc HG2.out hws HAp.out (by rw [hlk]; exact hown3) hgrow3
      have HB3 : Hid (Below w0.heap.size w0 x3) := (HB2.out.alloc HB2.out.size _).grown hgrow3 (by have := HB2.out.size; simp; omega) (fun q hq => (HO2.out.1.lt q hq).1)
      have HX3 : Hid (BoxN x3 bx 106 [.int .i64 r.e, .int .i64 r.q, .int .i64 r.k, .string r.id, .int .i64 r.n, .slice A r.zs.length C]) := (HX2.out.alloc _).grown hgrow3 (fun e => by have := HVa.out _ e; omega)
      have t0 := HX3.out.cell 0 rfl
      clear hown3 hgrow3 HN HO2' s0 s1 s2 s3 s4 s5 HO2 HG2 HX2 HB2 HX3
      obtain ⟨v3a, v3c, rfl⟩ := HO3.out.shape
      rw [List.length_append, hlk] at HO3 ⊢
      go_wp2_with fail
      go_roundw
      case rel =>
        refine ⟨k + 1, r.e, l ++ [⟨r, A, r.zs.length, C⟩], by omega, by omega, by simp [hlk], by go_num, rfl, HO3, ?_, HB3⟩
        show _ = _
        rw [List.map_append, List.append_assoc]
        exact HS2.out
      case measure => simp [intOf]; omega
    · obtain rfl : k = n := by omega
      have HF : Hid (l.map RE.r = scanR xs) := by
        have h2 := HS.out
        rw [List.drop_of_length_le (by have := HL.out; omega)] at h2
        show _ = _
        simpa [scanFrom] using h2
      have HO2 : Hid (RcRow wr w.heap.size (.slice va k vc) l) := HO.out.low HB.out.size
      have HW2 : Hid (Below w.heap.size w wr) := HB.out.trans (HW.out.mono HB.out.size)
      clear HO HS HW
      go_wp2_with fail
      go_ret
      exact ⟨⟨_, l, rfl, HO2.out, HF.out⟩, HW2.out⟩

end Go.Proofs.YtpjldfpipchmjavGreatDoor

namespace Go.Proofs.YtpjldfpipchmjavGreatDoor
open Go.RowKit
set_option linter.unusedVariables false

theorem scanFrom_ok (l : List ByteArray) : ∀ (i : Nat) (last : Int), (scanFrom i last l).length ≤ l.length ∧ ∀ r ∈ scanFrom i last l, r.zs.length ≤ 24 := by
  induction l with
  | nil => intro i last; simp [scanFrom]
  | cons s l ih =>
    intro i last
    rw [scanFrom]
    cases hr : nextR i last s with
    | none => simp
    | some r =>
      have h1 := ih (i + 1) r.e
      refine ⟨by simp only [List.length_cons]; omega, fun x hx => ?_⟩
      rcases List.mem_cons.1 hx with rfl | hx
      · exact (okRec_iff (recOf_iff.1 (nextR_ok hr).1).1).2.2.2.2.2
      · exact h1.2 x hx

theorem rows_short {W : World} {lo : Nat} {v : Value} {l : List RE} {L : List R} (h : RcRow W lo v l) (hl : l.map RE.r = L) (hL : ∀ r ∈ L, r.zs.length ≤ 24) : ∀ e ∈ l, e.n ≤ 24 := by
  intro e he
  have h1 := (h.2.1 e he).seg.1
  have h2 := hL e.r (by rw [← hl]; exact List.mem_map_of_mem he)
  omega

end Go.Proofs.YtpjldfpipchmjavGreatDoor

namespace Go.Proofs.YtpjldfpipchmjavGreatDoor
open Go.RowKit
set_option linter.unusedVariables false

theorem scanFrom_at (l : List ByteArray) : ∀ (i : Nat) (last : Int) (k : Nat) (r : R), (scanFrom i last l)[k]? = some r → (∃ x, l[k]? = some x ∧ recOf x = some r) ∧ r.q = ((i + k : Nat) : Int) ∧ last ≤ r.e := by
  induction l with
  | nil => intro i last k r h; simp [scanFrom] at h
  | cons s l ih =>
    intro i last k r h
    rw [scanFrom] at h
    cases hn : nextR i last s with
    | none => rw [hn] at h; simp at h
    | some r0 =>
      rw [hn] at h
      obtain ⟨h1, h2, h3⟩ := nextR_ok hn
      cases k with
      | zero =>
        simp at h
        subst h
        exact ⟨⟨s, rfl, h1⟩, by simpa using h2, h3⟩
      | succ k =>
        simp at h
        obtain ⟨⟨x, hx, hr⟩, hq, he⟩ := ih (i + 1) r0.e k r h
        exact ⟨⟨x, by simpa using hx, hr⟩, by rw [hq]; congr 1; omega, by omega⟩

theorem scanFrom_len (l : List ByteArray) : ∀ (i : Nat) (last : Int), (scanFrom i last l).length ≤ l.length := by
  induction l with
  | nil => intro i last; exact Nat.le_refl _
  | cons s l ih =>
    intro i last
    rw [scanFrom]
    cases hn : nextR i last s with
    | none => exact Nat.zero_le _
    | some r0 =>
      have := ih (i + 1) r0.e
      simp only [List.length_cons]
      omega

theorem scanFrom_up (l : List ByteArray) : ∀ (i : Nat) (last : Int) (k : Nat) (r r' : R), (scanFrom i last l)[k]? = some r → (scanFrom i last l)[k + 1]? = some r' → r.e ≤ r'.e := by
  induction l with
  | nil => intro i last k r r' h; simp [scanFrom] at h
  | cons s l ih =>
    intro i last k r r' h h'
    rw [scanFrom] at h h'
    cases hn : nextR i last s with
    | none => rw [hn] at h; simp at h
    | some r0 =>
      rw [hn] at h h'
      cases k with
      | zero =>
        simp at h h'
        subst h
        exact (scanFrom_at l (i + 1) r0.e 0 r' (by simpa using h')).2.2
      | succ k =>
        simp at h h'
        exact ih (i + 1) r0.e k r r' h h'

theorem topStep_ge (m : Int) (s : ByteArray) : m ≤ topStep m s := by
  cases h : recOf s with
  | none => rw [topStep_none h]; exact Int.le_refl _
  | some r => rw [topStep_some h]; split <;> omega

theorem top_ge (l : List ByteArray) : ∀ m : Int, m ≤ l.foldl topStep m := by
  induction l with
  | nil => intro m; exact Int.le_refl _
  | cons s l ih => intro m; exact Int.le_trans (topStep_ge m s) (ih _)

theorem top_in (l : List ByteArray) : ∀ (m : Int) (k : Nat) (x : ByteArray) (r : R), l[k]? = some x → recOf x = some r → r.e ≤ l.foldl topStep m := by
  induction l with
  | nil => intro m k x r h; simp at h
  | cons s l ih =>
    intro m k x r h hr
    cases k with
    | zero =>
      simp at h
      subst h
      refine Int.le_trans ?_ (top_ge l _)
      rw [topStep_some hr]
      split <;> omega
    | succ k => exact ih _ k x r (by simpa using h) hr

/-- One of the records ahead. -/
theorem scan_one {X : List ByteArray} {k : Nat} {r : R} (h : (scanR X)[k]? = some r) : (∃ x, X[k]? = some x ∧ recOf x = some r) ∧ r.q = (k : Int) ∧ r.e ≤ topE X := by
  obtain ⟨⟨x, hx, hr⟩, hq, _⟩ := scanFrom_at X 0 0 k r h
  exact ⟨⟨x, hx, hr⟩, by rw [hq]; congr 1; omega, top_in X (-1) k x r hx hr⟩

theorem scan_two {X : List ByteArray} {k : Nat} {r r' : R} (h : (scanR X)[k]? = some r) (h' : (scanR X)[k + 1]? = some r') : r.e ≤ r'.e := scanFrom_up X 0 0 k r r' h h'

end Go.Proofs.YtpjldfpipchmjavGreatDoor

namespace Go.Proofs.YtpjldfpipchmjavGreatDoor
open Go.RowKit
set_option linter.unusedVariables false

theorem putT_ok {r : R} (h : r.ok = true) : putT r.e r.q r.k r.id r.n r.zs = txU r.put := by
  rw [putT, show okRec r.e r.q r.k r.id r.n r.zs.length = true from h]
  rfl

theorem put_range {r : R} (hz : ∀ x ∈ r.zs, 0 ≤ x ∧ x ≤ 255) : ∀ x ∈ r.put, 0 ≤ x ∧ x ≤ 255 := sumB_range _ (recB_range _ _ _ _ _ _ hz)

theorem rec_back {r : R} (h : r.ok = true) (hz : ∀ x ∈ r.zs, 0 ≤ x ∧ x ≤ 255) : recOf (txU r.put) = some r := recOf_iff.2 ⟨h, (txI_txU _ (put_range hz)).symm⟩

/-- Another text of the same length that is the same but for the last four bytes is no record. -/
theorem rec_turned {r : R} (h : r.ok = true) {t : List Int} (ht : ∀ x ∈ t, 0 ≤ x ∧ x ≤ 255) (hl : t.length = r.put.length) (hs : t.take (r.put.length - 4) = r.put.take (r.put.length - 4)) (hne : t ≠ r.put) : recOf (txU t) = none := by
  cases hr : recOf (txU t) with
  | none => rfl
  | some r' =>
    exfalso
    obtain ⟨h1, h2⟩ := recOf_iff.1 hr
    rw [txI_txU t ht] at h2
    have l1 := put_len r
    have l2 := put_len r'
    have b1 : r.put.take (r.put.length - 4) = r.body := by
      rw [l1, R.put, sumB, show 16 + r.id.size + r.zs.length - 4 = r.body.length by rw [R.body, recB_len]; omega]
      exact List.take_left
    have b2 : r'.put.take (r'.put.length - 4) = r'.body := by
      rw [l2, R.put, sumB, show 16 + r'.id.size + r'.zs.length - 4 = r'.body.length by rw [R.body, recB_len]; omega]
      exact List.take_left
    have hlen : r'.put.length = r.put.length := by rw [h2, hl]
    have hb : r'.body = r.body := by rw [← b2, ← b1, hlen, h2, hs]
    exact hne (by rw [← h2, R.put, R.put, hb])

end Go.Proofs.YtpjldfpipchmjavGreatDoor

namespace Go.Proofs.YtpjldfpipchmjavGreatDoor
open Go.RowKit
set_option linter.unusedVariables false

/-- A store is right. -/
def SOk (X Y : List ByteArray) (ep nx : Int) (us : List U) : Prop :=
  okD X Y = true ∧ (0 ≤ ep ∧ ep ≤ 10000) ∧ foldU (scanR X) = some us ∧ nx = ((scanR X).length : Int) ∧ (∀ r, (scanR X).getLast? = some r → r.e ≤ ep) ∧ ∀ k x r, (scanR X).length ≤ k → X[k]? = some x → recOf x = some r → r.e < ep

noncomputable def decB (P : Prop) : Bool := @decide P (Classical.propDecidable P)
theorem decB_true {P : Prop} (h : P) : decB P = true := @decide_eq_true P (Classical.propDecidable P) h
theorem decB_false {P : Prop} (h : ¬ P) : decB P = false := @decide_eq_false P (Classical.propDecidable P) h
theorem decB_iff {P : Prop} {b : Bool} (h : b = true ↔ P) : b = decB P := by
  cases b with
  | true => exact (decB_true (h.1 rfl)).symm
  | false => exact (decB_false (fun p => by cases h.2 p)).symm

theorem no_store {X Y : List ByteArray} {ep nx : Int} {us : List U} (h : ¬ SOk X Y ep nx us) : (false = true ↔ SOk X Y ep nx us) := ⟨fun h2 => (by cases h2), fun h2 => absurd h2 h⟩

theorem scan_last {ep : Int} (l : List ByteArray) : ∀ (i : Nat) (last : Int), (∀ r, (scanFrom i last l).getLast? = some r → r.e ≤ ep) → ∀ r ∈ scanFrom i last l, r.e ≤ ep := by
  induction l with
  | nil => intro i last _ r hr; simp [scanFrom] at hr
  | cons s l ih =>
    intro i last h r hr
    rw [scanFrom] at h hr
    cases hn : nextR i last s with
    | none => rw [hn] at hr; simp at hr
    | some r0 =>
      rw [hn] at h hr
      dsimp only at h hr
      cases hL : scanFrom (i + 1) r0.e l with
      | nil =>
        rw [hL] at h hr
        obtain rfl : r = r0 := by simpa using hr
        exact h r rfl
      | cons r1 L =>
        have hin : ∀ r ∈ scanFrom (i + 1) r0.e l, r.e ≤ ep := ih (i + 1) r0.e (fun r hr => h r (by rw [hL] at hr ⊢; simpa using hr))
        rcases List.mem_cons.1 hr with rfl | hr
        · have h1 := (scanFrom_at l (i + 1) r.e 0 r1 (by rw [hL]; rfl)).2.2
          have h2 := hin r1 (by rw [hL]; exact List.mem_cons_self ..)
          omega
        · exact hin r hr

/-- A record is written behind the last one that follows. -/
theorem scan_set {r : R} {s : ByteArray} (hs : recOf s = some r) (l : List ByteArray) : ∀ (i : Nat) (last : Int), last ≤ r.e → (scanFrom i last l).length < l.length → r.q = ((i + (scanFrom i last l).length : Nat) : Int) → (∀ x ∈ scanFrom i last l, x.e ≤ r.e) → (∀ k x y, (scanFrom i last l).length < k → l[k]? = some x → recOf x = some y → y.e < r.e) → scanFrom i last (l.set (scanFrom i last l).length s) = scanFrom i last l ++ [r] := by
  induction l with
  | nil => intro i last _ h; simp at h
  | cons t l ih =>
    intro i last hl hlen hq ha hb
    cases hn : nextR i last t with
    | none =>
      have e : scanFrom i last (t :: l) = [] := by rw [scanFrom, hn]
      rw [e] at hlen hq ha hb ⊢
      have hn2 : nextR i last s = some r := by
        rw [nextR, hs]
        exact if_pos ⟨by simpa using hq, hl⟩
      rw [List.length_nil, List.set_cons_zero, scanFrom, hn2]
      cases l with
      | nil => rfl
      | cons y l =>
        have hy : nextR (i + 1) r.e y = none := by
          rw [nextR]
          cases hr : recOf y with
          | none => rfl
          | some z =>
            have := hb 1 y z (by simp) rfl hr
            exact if_neg (fun h => by omega)
        dsimp only
        rw [scanFrom, hy]
        rfl
    | some r0 =>
      have e : scanFrom i last (t :: l) = r0 :: scanFrom (i + 1) r0.e l := by rw [scanFrom, hn]
      rw [e] at hlen hq ha hb ⊢
      rw [List.length_cons, List.set_cons_succ, scanFrom, hn]
      dsimp only
      rw [ih (i + 1) r0.e (ha r0 (List.mem_cons_self ..)) (by simpa using hlen) (by rw [hq, List.length_cons]; congr 1; omega) (fun x hx => ha x (List.mem_cons_of_mem _ hx)) (fun k x y hk hx hy => hb (k + 1) x y (by rw [List.length_cons]; omega) (by simpa using hx) hy)]
      rfl

theorem put_size {r : R} (h : r.ok = true) : (txU r.put).size ≤ 48 := by
  have := okRec_iff h
  rw [txU_size, put_len]
  omega

theorem foldU_snoc (rs : List R) (r : R) : foldU (rs ++ [r]) = (foldU rs).bind fun l => oneU l r := by
  rw [foldU, foldU, List.foldlM_append]
  simp [List.foldlM]

/-- What is right stays so behind a record that fits. -/
theorem SOk.put {X Y : List ByteArray} {ep nx : Int} {us us' : List U} {r : R} (h : SOk X Y ep nx us) (hok : r.ok = true) (hz : ∀ x ∈ r.zs, 0 ≤ x ∧ x ≤ 255) (he : r.e = ep) (hq : r.q = nx) (hlt : nx < (X.length : Int)) (ho : oneU us r = some us') :
    scanR (X.set nx.toNat (txU r.put)) = scanR X ++ [r] ∧ SOk (X.set nx.toNat (txU r.put)) Y ep (nx + 1) us' := by
  obtain ⟨h1, h2, h3, h4, h5, h6⟩ := h
  have hn : nx.toNat = (scanR X).length := by omega
  have hb := rec_back hok hz
  have hsc : scanR (X.set nx.toNat (txU r.put)) = scanR X ++ [r] := by
    rw [hn]
    exact scan_set hb X 0 0 (by omega) (by show (scanR X).length < _; omega) (by rw [hq, h4, Nat.zero_add]; rfl) (fun x hx => by rw [he]; exact scan_last X 0 0 h5 x hx) (fun k x y hk hx hy => by rw [he]; exact h6 k x y (Nat.le_of_lt hk) hx hy)
  refine ⟨hsc, ?_, h2, ?_, ?_, ?_, ?_⟩
  · rw [okD_iff] at h1 ⊢
    refine ⟨by rw [List.length_set]; exact h1.1, by rw [List.length_set]; exact h1.2.1, fun x hx => ?_, h1.2.2.2⟩
    rcases List.mem_or_eq_of_mem_set hx with hx | rfl
    · exact h1.2.2.1 x hx
    · have := put_size hok; omega
  · rw [hsc, foldU_snoc, h3]
    exact ho
  · rw [hsc, List.length_append, h4]
    simp
  · intro y hy
    rw [hsc] at hy
    obtain rfl : r = y := by simpa using hy
    omega
  · intro k x y hk hx hy
    rw [hsc, List.length_append] at hk
    simp at hk
    rw [List.getElem?_set_ne (by omega)] at hx
    exact h6 k x y (by omega) hx hy

theorem top_le {ep : Int} (l : List ByteArray) : ∀ m : Int, (l.foldl topStep m ≤ ep ↔ m ≤ ep ∧ ∀ (k : Nat) x r, l[k]? = some x → recOf x = some r → r.e ≤ ep) := by
  induction l with
  | nil => intro m; simp
  | cons s l ih =>
    intro m
    rw [List.foldl_cons, ih]
    constructor
    · rintro ⟨h1, h2⟩
      refine ⟨Int.le_trans (topStep_ge m s) h1, fun k x r hx hr => ?_⟩
      cases k with
      | zero =>
        simp at hx
        subst hx
        rw [topStep_some hr] at h1
        split at h1 <;> omega
      | succ k => exact h2 k x r (by simpa using hx) hr
    · rintro ⟨h1, h2⟩
      refine ⟨?_, fun k x r hx hr => h2 (k + 1) x r (by simpa using hx) hr⟩
      cases hs : recOf s with
      | none => rw [topStep_none hs]; exact h1
      | some r =>
        rw [topStep_some hs]
        have := h2 0 s r rfl hs
        split <;> omega

/-- Said as the program goes: the greatest epoch ahead and behind. -/
theorem SOk_top {X Y : List ByteArray} {ep nx : Int} {us : List U} (n : Nat) (h1 : okD X Y = true) (h2 : 0 ≤ ep ∧ ep ≤ 10000) (h3 : foldU (scanR X) = some us) (h4 : nx = ((scanR X).length : Int)) (hn : (scanR X).length = n) :
    SOk X Y ep nx us ↔ topE (X.take n) ≤ ep ∧ topE (X.drop n) < ep := by
  subst hn
  have ht : topE (X.take (scanR X).length) ≤ ep ↔ -1 ≤ ep ∧ ∀ (k : Nat) x r, (X.take (scanR X).length)[k]? = some x → recOf x = some r → r.e ≤ ep := top_le _ (-1)
  have hd : topE (X.drop (scanR X).length) ≤ ep - 1 ↔ -1 ≤ ep - 1 ∧ ∀ (k : Nat) x r, (X.drop (scanR X).length)[k]? = some x → recOf x = some r → r.e ≤ ep - 1 := top_le _ (-1)
  rw [show topE (X.drop (scanR X).length) < ep ↔ topE (X.drop (scanR X).length) ≤ ep - 1 from by omega, ht, hd]
  constructor
  · rintro ⟨_, _, _, _, h5, h6⟩
    refine ⟨⟨by omega, fun k x r hx hr => ?_⟩, by omega, fun k x r hx hr => ?_⟩
    · have hk : k < (scanR X).length := by
        have := (List.getElem?_eq_some_iff.1 hx).1
        rw [List.length_take] at this
        omega
      obtain ⟨⟨x', hx', hr'⟩, _⟩ := scan_one (List.getElem?_eq_getElem hk)
      rw [List.getElem?_take_of_lt hk, hx'] at hx
      obtain rfl : x' = x := by simpa using hx
      rw [hr'] at hr
      obtain rfl : (scanR X)[k] = r := by simpa using hr
      exact scan_last X 0 0 h5 _ (List.getElem_mem hk)
    · rw [List.getElem?_drop] at hx
      have := h6 _ x r (by omega) hx hr
      omega
  · rintro ⟨⟨_, h5⟩, _, h6⟩
    refine ⟨h1, h2, h3, h4, fun r hr => ?_, fun k x r hk hx hr => ?_⟩
    · rw [List.getLast?_eq_getElem?] at hr
      have hk := (List.getElem?_eq_some_iff.1 hr).1
      obtain ⟨⟨x', hx', hr'⟩, _⟩ := scan_one hr
      exact h5 _ x' r (by rw [List.getElem?_take_of_lt (by omega)]; exact hx') hr'
    · have := h6 (k - (scanR X).length) x r (by rw [List.getElem?_drop, Nat.add_sub_cancel' hk]; exact hx) hr
      omega

end Go.Proofs.YtpjldfpipchmjavGreatDoor
