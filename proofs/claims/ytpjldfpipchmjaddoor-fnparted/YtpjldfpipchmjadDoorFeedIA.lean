/- What the program's Feed answers, at any frame; nothing that was there is written. For lists of at most 2^20 bytes. -/
import Derived.Test.YtpjldfpipchmjadDoorFeedI
import Derived.Test.YtpjldfpipchmjadDoorFeedJ
namespace Go.Proofs.YtpjldfpipchmjadDoor
open Go.RowKit
set_option linter.unusedVariables false

theorem implFeed_gen (s : Int) (en : Bool) (a : Option Addr) (n cap : Nat) (zs : List Int) (k f fs : Int) (b : Option Addr) (m capb : Nat) (ys : List Int) (w : World) (hg : Seg w a n zs) (hf : Seg w b m ys) (hbs : k = 9 → ∃ ad, b = some ad) (hcap : m ≤ capb) (hl : n ≤ 1048576) (hm : m ≤ 1048576) (he : ErrT w)
    (R : (Int × Bool × List Int) × List Int × Int) (hR : feedR s en zs k f fs ys = R) (L1 L2 : Nat) (h1 : R.1.2.2.length = L1) (h2 : R.2.1.length = L2) :
    Calls Tryd.prog 12 #[.agg #[.int .i64 s, .bool en, .slice a n cap], .agg #[.int .i64 k, .int .i64 f, .int .i64 fs, .slice b m capb]] w fun e w' => ∃ a' c' a2 c2, e = .returned (.tuple #[.agg #[.int .i64 R.1.1, .bool R.1.2.1, .slice a' L1 c'], .slice a2 L2 c2, .int .i64 R.2.2]) ∧ Owns w' w.heap.size a' L1 c' R.1.2.2 ∧ Owns w' w.heap.size a2 L2 c2 R.2.1 ∧ Parts2 a' a2 ∧ Below w.heap.size w w' := by
  subst h1 h2 hR
  have hzl := hg.1
  have hyl := hf.1
  have err : ∀ c : Int, grownR s en zs k f fs ys = .inl c → (∀ X, Below w.heap.size w X → Calls Tryd.prog 34 #[.agg #[.int .i64 s, .bool en, .slice a n cap], .agg #[.int .i64 k, .int .i64 f, .int .i64 fs, .slice b m capb]] X fun e w' => e = .returned (.tuple #[.agg #[.int .i64 0, .bool false, .slice none 0 0], .iface 63 (.agg #[.int .i64 c])]) ∧ Below X.heap.size X w') →
      Calls Tryd.prog 12 #[.agg #[.int .i64 s, .bool en, .slice a n cap], .agg #[.int .i64 k, .int .i64 f, .int .i64 fs, .slice b m capb]] w fun e w' => ∃ a' c' a2 c2, e = .returned (.tuple #[.agg #[.int .i64 (feedR s en zs k f fs ys).1.1, .bool (feedR s en zs k f fs ys).1.2.1, .slice a' (feedR s en zs k f fs ys).1.2.2.length c'], .slice a2 (feedR s en zs k f fs ys).2.1.length c2, .int .i64 (feedR s en zs k f fs ys).2.2]) ∧ Owns w' w.heap.size a' (feedR s en zs k f fs ys).1.2.2.length c' (feedR s en zs k f fs ys).1.2.2 ∧ Owns w' w.heap.size a2 (feedR s en zs k f fs ys).2.1.length c2 (feedR s en zs k f fs ys).2.1 ∧ Parts2 a' a2 ∧ Below w.heap.size w w' := by
    intro c hc HG
    have e : feedR s en zs k f fs ys = ((s, en, zs), [], c) := by rw [feedR, hc]
    rw [e]
    dsimp only
    rw [hzl]
    exact feed_err s en a n cap zs k f fs b m capb w hg hl he c HG
  have good : ∀ (s' : Int) (en' : Bool) (ws : List Int), grownR s en zs k f fs ys = .inr (s', en', ws) → (∀ X, Below w.heap.size w X → Calls Tryd.prog 34 #[.agg #[.int .i64 s, .bool en, .slice a n cap], .agg #[.int .i64 k, .int .i64 f, .int .i64 fs, .slice b m capb]] X fun e w' => ∃ a' cap', e = .returned (.tuple #[.agg #[.int .i64 s', .bool en', .slice a' ws.length cap'], .nilIface]) ∧ Owns w' X.heap.size a' ws.length cap' ws ∧ Below X.heap.size X w') →
      Calls Tryd.prog 12 #[.agg #[.int .i64 s, .bool en, .slice a n cap], .agg #[.int .i64 k, .int .i64 f, .int .i64 fs, .slice b m capb]] w fun e w' => ∃ a' c' a2 c2, e = .returned (.tuple #[.agg #[.int .i64 (feedR s en zs k f fs ys).1.1, .bool (feedR s en zs k f fs ys).1.2.1, .slice a' (feedR s en zs k f fs ys).1.2.2.length c'], .slice a2 (feedR s en zs k f fs ys).2.1.length c2, .int .i64 (feedR s en zs k f fs ys).2.2]) ∧ Owns w' w.heap.size a' (feedR s en zs k f fs ys).1.2.2.length c' (feedR s en zs k f fs ys).1.2.2 ∧ Owns w' w.heap.size a2 (feedR s en zs k f fs ys).2.1.length c2 (feedR s en zs k f fs ys).2.1 ∧ Parts2 a' a2 ∧ Below w.heap.size w w' := by
    intro s' en' ws hc HG
    by_cases hd : (k = 1 ∨ k = 9) ∧ (bits .and .i64 f 4 != 0) = true
    · have e : feedR s en zs k f fs ys = ((0, false, []), ws, 1) := by rw [feedR, hc]; exact if_pos hd
      rw [e]
      dsimp only
      have hp : ((k == 1) || (k == 9)) = true := by
        rcases hd.1 with h | h <;> simp [h]
      refine (feed_done s en a n cap zs k f fs b m capb w hg hl he s' en' ws.length ws HG hp hd.2).mono ?_
      rintro e w' ⟨c2, a2, he2, ho2, hb2⟩
      exact ⟨none, 0, a2, c2, he2, ⟨World.ownsRow_nil _ _ _ _, by simp⟩, ho2, (fun q hq => nomatch hq), hb2⟩
    · have e : feedR s en zs k f fs ys = ((s', en', ws), [], 0) := by rw [feedR, hc]; exact if_neg hd
      rw [e]
      dsimp only
      have hp : (((k == 1) || (k == 9)) && (bits .and .i64 f 4 != 0)) = false := by
        cases hq : (((k == 1) || (k == 9)) && (bits .and .i64 f 4 != 0)) with
        | false => rfl
        | true =>
          refine absurd ?_ hd
          simp only [Bool.and_eq_true, Bool.or_eq_true, beq_iff_eq] at hq
          exact hq
      exact feed_good s en a n cap zs k f fs b m capb w hg hl he s' en' ws.length ws HG hp
  cases ho : ordB s en n k f fs m with
  | false =>
    refine err 2 (by rw [grownR, hzl, hyl, if_neg (by rw [ho]; decide)]) (fun X hX => ?_)
    exact grown_order s en a n cap zs k f fs b m capb ys X (hg.below hX) (hf.below hX) hcap hl hm ho
  | true =>
    have eo : grownR s en zs k f fs ys = if k = 1 then (match unpadR (bits .and .i64 f 8 != 0) ((k == 1) && (bits .and .i64 f 32 != 0)) ys with | none => .inl 3 | some b => .inr (fs, bits .and .i64 f 1 != 0, b)) else if k = 9 then (if 3000 < zs.length + ys.length then .inl 4 else .inr (s, en, zs ++ ys)) else .inr (s, en, zs) := by
      rw [grownR, hzl, hyl, if_pos ho]
      rfl
    by_cases hk : k = 1
    · rw [if_pos hk] at eo
      cases hr : unpadR (bits .and .i64 f 8 != 0) ((k == 1) && (bits .and .i64 f 32 != 0)) ys with
      | none =>
        rw [hr] at eo
        exact err 3 eo (fun X hX => grown_pad s en a n cap zs k f fs b m capb ys X (hg.below hX) (hf.below hX) hcap hl hm ho hk hr)
      | some u =>
        rw [hr] at eo
        exact good _ _ _ eo (fun X hX => grown_head s en a n cap zs k f fs b m capb ys X (hg.below hX) (hf.below hX) hcap hl hm u u.length ho hk hr rfl _ rfl)
    · rw [if_neg hk] at eo
      by_cases hk9 : k = 9
      · rw [if_pos hk9] at eo
        by_cases hbig : 3000 < n + m
        · rw [hzl, hyl, if_pos hbig] at eo
          exact err 4 eo (fun X hX => grown_big s en a n cap zs k f fs b m capb ys X (hg.below hX) (hf.below hX) hcap hl hm ho (hbs hk9) hk9 hbig)
        · rw [hzl, hyl, if_neg hbig] at eo
          have hL : n + m = (zs ++ ys).length := by rw [List.length_append]; omega
          exact good _ _ _ eo (fun X hX => grown_more s en a n cap zs k f fs b m capb ys X (hg.below hX) (hf.below hX) hcap hl hm _ ho (hbs hk9) hk9 hbig hL)
      · rw [if_neg hk9] at eo
        refine good _ _ _ eo (fun X hX => ?_)
        rw [hzl]
        exact grown_other s en a n cap zs k f fs b m capb ys X (hg.below hX) (hf.below hX) hcap hl hm ho hk hk9

theorem implFeed_any (s : Int) (en : Bool) (a : Option Addr) (n cap : Nat) (zs : List Int) (k f fs : Int) (b : Option Addr) (m capb : Nat) (ys : List Int) (w : World) (hg : Seg w a n zs) (hf : Seg w b m ys) (hbs : ∃ ad, b = some ad) (hcap : m ≤ capb) (hl : n ≤ 1048576) (hm : m ≤ 1048576) (he : ErrT w)
    (R : (Int × Bool × List Int) × List Int × Int) (hR : feedR s en zs k f fs ys = R) (L1 L2 : Nat) (h1 : R.1.2.2.length = L1) (h2 : R.2.1.length = L2) :
    Calls Tryd.prog 12 #[.agg #[.int .i64 s, .bool en, .slice a n cap], .agg #[.int .i64 k, .int .i64 f, .int .i64 fs, .slice b m capb]] w fun e w' => ∃ a' c' a2 c2, e = .returned (.tuple #[.agg #[.int .i64 R.1.1, .bool R.1.2.1, .slice a' L1 c'], .slice a2 L2 c2, .int .i64 R.2.2]) ∧ Owns w' w.heap.size a' L1 c' R.1.2.2 ∧ Owns w' w.heap.size a2 L2 c2 R.2.1 ∧ Parts2 a' a2 ∧ Below w.heap.size w w' :=
  implFeed_gen s en a n cap zs k f fs b m capb ys w hg hf (fun _ => hbs) hcap hl hm he R hR L1 L2 h1 h2

end Go.Proofs.YtpjldfpipchmjadDoor
