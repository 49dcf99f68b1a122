/-
  Helper: the walks of the reference's size, of its trim at any slice, and of signed.
-/
import Derived.Test.YtmnopohjnbpinabIRefS
import Derived.Test.YtmnopohjnbpinabICmp
namespace Go.Proofs.Ytmnopohjnbpinab
open Go.RowKit
set_option linter.unusedVariables false

set_option maxRecDepth 100000 in
set_option maxHeartbeats 2000000 in
theorem refSize_any (m n : Nat) (a a' : Option Addr) (cap cap' : Nat) (w : World) (hx : Rb w a (E 10 m)) (hy : Rb w a' (E 10 n)) (hs : (E 10 m).length ≤ 1000000) (hs' : (E 10 n).length ≤ 1000000) :
    Calls Try.prog 54 #[.slice a (E 10 m).length cap, .slice a' (E 10 n).length cap'] w fun e w' => e = .returned (.int .i64 (cmpN m n)) ∧ Below w.heap.size w w' := by
  have HX := Lib.hid (fun i hi => hx.at i hi)
  have HY := Lib.hid (fun i hi => hy.at i hi)
  have HC := Lib.hid (fun k hl hk hd => cmp_at m n k hl hk hd)
  have H0 := Lib.hid (fun h => cmp_eq m n h)
  have H1 := Lib.hid (fun h => cmp_len m n h)
  have H2 := Lib.hid (fun h => cmp_len2 m n h)
  clear hx hy
  generalize hp : E 10 m = p at *
  generalize hq : E 10 n = q at *
  generalize hr : cmpN m n = r at *
  clear hp hq hr
  by_cases hl : p.length < q.length
  · have e1 : Hid (r = -1) := H1.out hl
    clear HX HY HC H0 H1 H2
    generalize p.length = lp at *
    generalize q.length = lq at *
    have hne : ((lp : Int) != (lq : Int)) = true := by rw [bne_iff_ne]; omega
    have hli : (lp : Int) < lq := by omega
    go_enter Try.func54, Try.ntmps54
    go_wp2
    go_ret
    rw [e1.out]
    exact ⟨rfl, Below.refl _ _⟩
  · by_cases hl2 : q.length < p.length
    · have e1 : Hid (r = 1) := H2.out hl2
      clear HX HY HC H0 H1 H2
      generalize p.length = lp at *
      generalize q.length = lq at *
      have hne : ((lp : Int) != (lq : Int)) = true := by rw [bne_iff_ne]; omega
      have hli : (lq : Int) ≤ lp := by omega
      go_enter Try.func54, Try.ntmps54
      go_wp2
      go_ret
      rw [e1.out]
      exact ⟨rfl, Below.refl _ _⟩
    · have hle : p.length = q.length := by omega
      clear H1 H2 hl hl2
      have HLE := Lib.hid hle
      have HLEN : Hid (p.drop p.length = q.drop p.length) := by
        show _ = _
        rw [List.drop_eq_nil_of_le (by omega), List.drop_eq_nil_of_le (by omega)]
      generalize hlp : p.length = L at *
      generalize hlq : q.length = L' at *
      subst hle
      clear hlp hlq HLE
      go_enter Try.func54, Try.ntmps54
      go_wp2
      go_loopw [5] (fun c wr => ∃ j : Nat, j ≤ L ∧ c = .int .i64 ((j : Int) - 1) ∧ Below w.heap.size w wr ∧ Hid (p.drop j = q.drop j)) (fun c _ => (intOf c + 1).toNat)
      case atStart => exact ⟨L, Nat.le_refl _, rfl, Below.refl _ _, HLEN⟩
      case round =>
        clear HLEN
        obtain ⟨j, hk, rfl, hbel, HD⟩ := hrel
        by_cases hj : j = 0
        · subst hj
          have e1 := Lib.hid (H0.out HD.out)
          clear HD HX HY HC H0
          go_wp2
          go_ret
          rw [e1.out]
          exact ⟨rfl, hbel⟩
        · obtain ⟨i, rfl⟩ : ∃ i, j = i + 1 := ⟨j - 1, by omega⟩
          rw [show ((i + 1 : Nat) : Int) - 1 = (i : Int) by omega]
          have hil : i < L := by omega
          have hc := HC.out i trivial hil HD.out
          obtain ⟨b, off, rfl, hb1, hc1⟩ := HX.out i hil
          obtain ⟨b', off', rfl, hb2, hc2⟩ := HY.out i hil
          have c1 := hbel.cell (p := ⟨b, off + i, none⟩) hb1
          have c2 := hbel.cell (p := ⟨b', off' + i, none⟩) hb2
          rw [hc1] at c1
          rw [hc2] at c2
          have hi0 : (0 : Int) ≤ i := by omega
          have hil2 : (i : Int) < L := by omega
          have hch := Lib.hid hc
          have hdh := Lib.hid hc.2.2
          clear hc HD hc1 hc2 HX HY HC H0
          generalize ((p.getD i 0).toNat : Int) = x at *
          generalize ((q.getD i 0).toNat : Int) = y at *
          by_cases hxy : x < y
          · go_wp2
            go_quiet (fail)
            go_wp2
            go_ret
            rw [hch.out.1 hxy]
            exact ⟨rfl, Below.drewN hbel _⟩
          · by_cases hyx : y < x
            · have hd1 : decide (x < y) = false := decide_eq_false hxy
              go_wp2
              go_quiet (fail)
              go_wp2
              go_quiet (fail)
              go_wp2
              go_ret
              rw [hch.out.2.1 hyx]
              exact ⟨rfl, Below.drewN (Below.drewN hbel _) _⟩
            · have hq : x = y := by omega
              have HD2 := Lib.hid (hdh.out hq)
              have hd1 : decide (x < y) = false := decide_eq_false hxy
              have hd2 : decide (y < x) = false := decide_eq_false hyx
              clear hq
              go_wp2
              go_quiet (fail)
              go_wp2
              go_quiet (fail)
              go_wp2
              go_roundw
              case rel => exact ⟨i, by omega, by go_num, Below.drewN hbel _, HD2⟩
              case measure => simp [intOf]

/-- trim, of whatever slice that reads as digits -/
def TrimP (l : List UInt8) (w : World) (e : Ending) (w' : World) : Prop := w = w' ∧ ∃ a cap, e = .returned (.slice a (E 10 (vb 10 l)).length cap) ∧ Rb w a (E 10 (vb 10 l)) ∧ (E 10 (vb 10 l)).length ≤ cap
theorem trimP_some (l : List UInt8) (b off cap : Nat) (w : World) (hs : l.length ≤ 1000000) (hcap : l.length ≤ cap) (hr : Rb w (some ⟨b, off, none⟩) l) (hg : Dg 10 l) :
    Calls Try.prog 49 #[.slice (some ⟨b, off, none⟩) l.length cap] w (TrimP l w) := by
  have hc := canon_take l hg
  have hle : (E 10 (vb 10 l)).length ≤ l.length := by
    have h := congrArg List.length hc
    rw [List.length_take] at h; omega
  refine (refTrim_any l b off cap w hs hcap hr hg).mono ?_
  rintro e w' ⟨rfl, rfl⟩
  refine ⟨rfl, _, _, rfl, ?_, by omega⟩
  have := hr.take (E 10 (vb 10 l)).length
  rwa [← hc] at this
theorem trimP_nil (a : Option Addr) (cap : Nat) (w : World) : Calls Try.prog 49 #[.slice a 0 cap] w (TrimP [] w) := by
  have HF : Hid (∀ a' c', TrimP [] w (.returned (.slice a' 0 c')) w) := Lib.hid fun a' c' => ⟨rfl, a', c', rfl, .inl rfl, Nat.zero_le _⟩
  generalize TrimP [] w = Po at *
  have hz : ((0 : Int) < ((0 : Nat) : Int)) = False := by simp
  rcases a with _ | ⟨b, off, sp⟩
  all_goals
    go_enter Try.func49, Try.ntmps49
    go_wp2
    go_loop [3] (fun s => s = .int .i64 0) (fun s => (intOf s).toNat)
    case atStart => rfl
    case round =>
      subst hrel
      go_wp2
      exact HF.out _ _
theorem trimP_any (l : List UInt8) (a : Option Addr) (cap : Nat) (w : World) (hs : l.length ≤ 1000000) (hcap : l.length ≤ cap) (hr : Rb w a l) (hg : Dg 10 l) :
    Calls Try.prog 49 #[.slice a l.length cap] w (TrimP l w) := by
  rcases hr with rfl | ⟨b, off, rfl, hlt, hc⟩
  · exact trimP_nil a cap w
  · exact trimP_some l b off cap w hs hcap (.inr ⟨b, off, rfl, hlt, hc⟩) hg

theorem alloc_other (w : World) (o o' : Obj) : ∀ b, b ≠ w.heap.size → (w.alloc o').heap[b]? = (w.alloc o).heap[b]? := fun b hb => by
  by_cases h : b < w.heap.size
  · rw [Below.heap_alloc _ _ _ h, Below.heap_alloc _ _ _ h]
  · rw [Array.getElem?_eq_none (by simp; omega), Array.getElem?_eq_none (by simp; omega)]
set_option maxRecDepth 100000 in
set_option maxHeartbeats 2000000 in
/-- signed: digits that read as a number, trimmed, with a sign -/
theorem refSigned_any (b : Bool) (l : List UInt8) (a : Option Addr) (cap : Nat) (w : World) (hs : l.length ≤ 1000000) (hcap : l.length ≤ cap) (hr : Rb w a l) (hg : Dg 10 l) :
    Calls Try.prog 44 #[.slice a l.length cap, .bool b] w (NumP (zi b (vb 10 l)) w) := by
  have HB : Hid (∀ o, Below w.heap.size w (w.alloc o)) := Lib.hid fun o => (Below.refl _ w).alloc (Nat.le_refl _) o
  have HT := Lib.hid (fun w' h => trimP_any l a cap w' hs hcap (hr.go h) hg)
  have HN : Hid (∀ (a' : Option Addr) (c' : Nat) (v0 v1 : Value), Rb (w.alloc (.cells #[.bool false, .slice none 0 0] 28)) a' (E 10 (vb 10 l)) → (E 10 (vb 10 l)).length ≤ c' → NumP (zi b (vb 10 l)) w (.returned (.agg #[.bool (sg b (vb 10 l)), .slice a' (E 10 (vb 10 l)).length c'])) (w.alloc (.cells #[v0, v1] 28))) := Lib.hid fun a' c' v0 v1 h1 h2 => by
    refine ⟨a', c', ?_, ?_, ?_, HB.out _⟩
    · rw [zi_abs, show neg (zi b (vb 10 l)) = sg b (vb 10 l) from zi_neg b _]
    · rw [zi_abs]; exact h1.boxed w.heap.size (heap_alloc_new w _) (by simp) (alloc_other w _ _)
    · rw [zi_abs]; exact h2
  have hsg : Hid (sg b (vb 10 l) = (b && decide (0 < (E 10 (vb 10 l)).length))) := Lib.hid (by
    unfold sg
    congr 1
    rw [decide_eq_decide]
    constructor
    · intro h
      exact List.length_pos_iff.2 (fun e => by rw [E_nil 10 _ (by omega)] at e; omega)
    · intro h
      exact Nat.pos_of_ne_zero (fun e => by rw [e] at h; exact absurd h (by decide)))
  clear hr
  generalize NumP (zi b (vb 10 l)) w = Po at *
  go_enter Try.func44, Try.ntmps44
  go_wp2_with fail
  refine (HT.out _ (HB.out _)).mono ?_
  rintro e w2 ⟨rfl, a', c', rfl, h1, h2⟩
  have HF := Lib.hid (fun v0 v1 => HN.out a' c' v0 v1 h1 h2)
  clear HT HN h1 h2
  generalize sg b (vb 10 l) = sb at *
  generalize (E 10 (vb 10 l)).length = lz at *
  cases b
  · obtain rfl : sb = false := hsg.out
    clear hsg
    go_wp2
    refine bodyPost_ret (v := .agg #[.bool false, .slice a' lz c']) (by simp [results, Try.results44, go_sem]) rfl ?_
    exact HF.out _ _
  · by_cases hz : lz = 0
    · subst hz
      obtain rfl : sb = false := hsg.out
      clear hsg
      go_wp2
      refine bodyPost_ret (v := .agg #[.bool false, .slice a' 0 c']) (by simp [results, Try.results44, go_sem]) rfl ?_
      exact HF.out _ _
    · have hp : 0 < lz := by omega
      obtain rfl : sb = true := by rw [hsg.out, decide_eq_true hp]; rfl
      clear hsg hz
      go_wp2
      refine bodyPost_ret (v := .agg #[.bool true, .slice a' lz c']) (by simp [results, Try.results44, go_sem]) rfl ?_
      exact HF.out _ _
end Go.Proofs.Ytmnopohjnbpinab
