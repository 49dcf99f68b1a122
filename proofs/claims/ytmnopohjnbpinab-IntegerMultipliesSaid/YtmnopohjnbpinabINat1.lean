/-
  Helper: the walks of natural.trimmed, natural.at, cmp.Compare[byte] and natural.compare.
-/
import Derived.Test.YtmnopohjnbpinabIMem
namespace Go.Proofs.Ytmnopohjnbpinab
open Go.RowKit
set_option linter.unusedVariables false

theorem u8_zero (c : UInt8) (h : c = 0) : ((c.toNat : Int) == 0) = true := by rw [h]; rfl
theorem u8_nz (c : UInt8) (h : c ≠ 0) : ((c.toNat : Int) == 0) = false := by
  rw [beq_eq_false_iff_ne]; intro g; exact h (UInt8.toNat_inj.1 (by have : (0 : UInt8).toNat = 0 := rfl; omega))

set_option maxHeartbeats 1000000 in
theorem trimmed_any (l : List UInt8) (b off cap : Nat) (w : World) (hs : l.length ≤ 1000000) (hcap : l.length ≤ cap) (hr : Rb w (some ⟨b, off, none⟩) l) (hg : Dg 10 l) :
    Calls Try.prog 68 #[.slice (some ⟨b, off, none⟩) l.length cap] w fun e w' => e = .returned (.slice (some ⟨b, off, none⟩) (E 10 (vb 10 l)).length cap) ∧ w = w' := by
  have HX := Lib.hid (fun i hi => hr.at i hi)
  have HG : Hid (Dg 10 l) := hg
  have HE : Hid (∀ k, k ≤ l.length → (∀ j, k ≤ j → j < l.length → l.getD j 0 = 0) → (k = 0 ∨ l.getD (k - 1) 0 ≠ 0) → (E 10 (vb 10 l)).length = k) := fun k hk hz hl => by
    rw [← trim_at 10 (by omega) (by omega) l hg k hk hz hl, List.length_take]; omega
  clear hr hg
  generalize hn : l.length = n at *
  generalize hv : (E 10 (vb 10 l)).length = r at *
  clear hn hv
  go_enter Try.func68, Try.ntmps68
  go_wp2
  go_loop [3] (fun s => ∃ k : Nat, k ≤ n ∧ s = .int .i64 k ∧ Hid (∀ j, k ≤ j → j < n → l.getD j 0 = 0)) (fun s => (intOf s).toNat)
  case atStart => exact ⟨n, Nat.le_refl _, rfl, fun j h1 h2 => absurd h1 (by omega)⟩
  case round =>
    obtain ⟨k, hk, rfl, HZ⟩ := hrel
    by_cases hk0 : k = 0
    · subst hk0
      have hr0 := Lib.hid (HE.out 0 (Nat.zero_le _) HZ.out (.inl rfl))
      clear HE HX
      go_wp2
      go_ret
      rw [hr0.out]
      exact ⟨rfl, rfl⟩
    · obtain ⟨j, rfl⟩ : ∃ j, k = j + 1 := ⟨k - 1, by omega⟩
      obtain ⟨b', off', hb, hlt, hc⟩ := HX.out j (by omega)
      simp only [Option.some.injEq, Addr.mk.injEq, and_true] at hb
      obtain ⟨rfl, rfl⟩ := hb
      have e1 : ((j + 1 : Nat) : Int) - 1 = (j : Int) := by omega
      by_cases hz : l.getD j 0 = 0
      · have hd := u8_zero _ hz
        have HZ2 : Hid (∀ i, j ≤ i → i < n → l.getD i 0 = 0) := fun i h1 h2 => by
          by_cases e : i = j
          · rw [e]; exact hz
          · exact HZ.out i (by omega) h2
        clear hz HE HX HZ
        generalize l.getD j 0 = c at *
        go_wp2
        go_round
        case rel => exact ⟨j, by omega, by go_num, HZ2⟩
        case measure => simp [intOf]
      · have hd := u8_nz _ hz
        have hr0 := Lib.hid (HE.out (j + 1) hk HZ.out (.inr hz))
        clear hz HE HX HZ
        generalize l.getD j 0 = c at *
        go_wp2
        go_ret
        rw [hr0.out]
        exact ⟨rfl, rfl⟩

set_option maxHeartbeats 400000 in
theorem at_any (l : List UInt8) (a : Option Addr) (cap : Nat) (w : World) (hs : l.length ≤ 1000000) (hr : Rb w a l) (i : Nat) (hi : i ≤ 1000000) :
    Calls Try.prog 76 #[.slice a l.length cap, .int .i64 i] w fun e w' => e = .returned (.int .i64 ((l.getD i 0).toNat : Int)) ∧ w = w' := by
  by_cases h : i < l.length
  · obtain ⟨b, off, rfl, hlt, hc⟩ := hr.at i h
    have hb : (l.getD i 0).toNat < 256 := UInt8.toNat_lt _
    clear hr
    generalize (l.getD i 0).toNat = c at *
    generalize l.length = n at *
    go_enter Try.func76, Try.ntmps76
    go_wp2
    go_ret
    exact ⟨rfl, rfl⟩
  · have h0 : l.getD i 0 = 0 := by rw [List.getD_eq_getElem?_getD, List.getElem?_eq_none (by omega)]; rfl
    rw [h0]
    clear hr h0
    generalize l.length = n at *
    go_enter Try.func76, Try.ntmps76
    go_wp2
    go_ret
    exact ⟨rfl, rfl⟩

theorem at_of (l : List UInt8) (n : Nat) (hn : l.length = n) (a : Option Addr) (cap : Nat) (w : World) (hs : n ≤ 1000000) (hr : Rb w a l) (i : Nat) (hi : i ≤ 1000000) :
    Calls Try.prog 76 #[.slice a n cap, .int .i64 i] w fun e w' => e = .returned (.int .i64 ((l.getD i 0).toNat : Int)) ∧ w = w' := by
  subst hn; exact at_any l a cap w hs hr i hi

set_option maxHeartbeats 400000 in
theorem isNaN_byte (x : Int) (w : World) : Calls Try.prog 85 #[.int .u8 x] w fun e w' => e = .returned (.bool false) ∧ w = w' := by
  have hd : (x != x) = false := by simp
  go_enter Try.func85, Try.ntmps85
  go_wp2
  go_ret
  exact ⟨rfl, rfl⟩
set_option maxHeartbeats 1000000 in
theorem cmp_byte (x y : Int) (w : World) : Calls Try.prog 81 #[.int .u8 x, .int .u8 y] w fun e w' => e = .returned (.int .i64 (Lib.compareInt x y)) ∧ w = w' := by
  have hx := Lib.hid (show Lib.compareInt x y = if x < y then -1 else if x > y then 1 else 0 from rfl)
  by_cases h1 : x < y
  · have hr : Hid (Lib.compareInt x y = -1) := by rw [hx.out, if_pos h1]; rfl
    go_enter Try.func81, Try.ntmps81
    go_wp2_with (go_at_call 85; refine (isNaN_byte _ _).mono ?_; rintro e w' ⟨rfl, rfl⟩)
    go_ret
    rw [hr.out]
    exact ⟨rfl, rfl⟩
  · by_cases h2 : y < x
    · have hr : Hid (Lib.compareInt x y = 1) := by rw [hx.out, if_neg h1, if_pos h2]; rfl
      go_enter Try.func81, Try.ntmps81
      go_wp2_with (go_at_call 85; refine (isNaN_byte _ _).mono ?_; rintro e w' ⟨rfl, rfl⟩)
      go_ret
      rw [hr.out]
      exact ⟨rfl, rfl⟩
    · have hr : Hid (Lib.compareInt x y = 0) := by rw [hx.out, if_neg h1, if_neg h2]; rfl
      go_enter Try.func81, Try.ntmps81
      go_wp2_with (go_at_call 85; refine (isNaN_byte _ _).mono ?_; rintro e w' ⟨rfl, rfl⟩)
      go_ret
      rw [hr.out]
      exact ⟨rfl, rfl⟩

theorem cmpb_lt (x y : Int) (w : World) (h : x < y) : Calls Try.prog 81 #[.int .u8 x, .int .u8 y] w fun e w' => e = .returned (.int .i64 (-1)) ∧ w = w' :=
  (cmp_byte x y w).mono fun e w' ⟨he, hw⟩ => ⟨by rw [he, show Lib.compareInt x y = -1 from if_pos h], hw⟩
theorem cmpb_gt (x y : Int) (w : World) (h : y < x) : Calls Try.prog 81 #[.int .u8 x, .int .u8 y] w fun e w' => e = .returned (.int .i64 1) ∧ w = w' :=
  (cmp_byte x y w).mono fun e w' ⟨he, hw⟩ => ⟨by rw [he, show Lib.compareInt x y = 1 by unfold Lib.compareInt; rw [if_neg (by omega), if_pos h]], hw⟩
theorem cmpb_eq (x y : Int) (w : World) (h : x = y) : Calls Try.prog 81 #[.int .u8 x, .int .u8 y] w fun e w' => e = .returned (.int .i64 0) ∧ w = w' :=
  (cmp_byte x y w).mono fun e w' ⟨he, hw⟩ => ⟨by rw [he, show Lib.compareInt x y = 0 by unfold Lib.compareInt; rw [if_neg (by omega), if_neg (by omega)]], hw⟩

/-- how two numbers stand to one another -/
def cmpN (a b : Nat) : Int := if a < b then -1 else if a = b then 0 else 1
theorem cmp_len (m n : Nat) (h : (E 10 m).length < (E 10 n).length) : cmpN m n = -1 := by
  unfold cmpN; rw [if_pos (E_less_len 10 m n (by omega) h)]
theorem cmp_len2 (m n : Nat) (h : (E 10 n).length < (E 10 m).length) : cmpN m n = 1 := by
  have := E_less_len 10 n m (by omega) h
  unfold cmpN; rw [if_neg (by omega), if_neg (by omega)]
theorem cmp_at (m n k : Nat) (hl : (E 10 m).length = (E 10 n).length) (hk : k < (E 10 n).length) (hd : (E 10 m).drop (k + 1) = (E 10 n).drop (k + 1)) :
    ((((E 10 m).getD k 0).toNat : Int) < ((E 10 n).getD k 0).toNat → cmpN m n = -1) ∧ ((((E 10 n).getD k 0).toNat : Int) < ((E 10 m).getD k 0).toNat → cmpN m n = 1) ∧
    ((((E 10 m).getD k 0).toNat : Int) = ((E 10 n).getD k 0).toNat → (E 10 m).drop k = (E 10 n).drop k) := by
  have gm := dg_E 10 m (by omega) (by omega)
  have gn := dg_E 10 n (by omega) (by omega)
  have vm := vb_E 10 m (by omega) (by omega)
  have vn := vb_E 10 n (by omega) (by omega)
  refine ⟨fun h => ?_, fun h => ?_, fun h => ?_⟩
  · have := less_at 10 _ _ gm k (by omega) hk hd (by omega)
    unfold cmpN; rw [if_pos (by omega)]
  · have := less_at 10 _ _ gn k hk (by omega) hd.symm (by omega)
    unfold cmpN; rw [if_neg (by omega), if_neg (by omega)]
  · exact drop_step _ _ k (by omega) hk hd (UInt8.toNat_inj.1 (by omega))
theorem cmp_eq (m n : Nat) (h : (E 10 m).drop 0 = (E 10 n).drop 0) : cmpN m n = 0 := by
  have vm := vb_E 10 m (by omega) (by omega)
  have vn := vb_E 10 n (by omega) (by omega)
  rw [List.drop_zero, List.drop_zero] at h
  rw [h] at vm
  unfold cmpN; rw [if_neg (by omega), if_pos (by omega)]
theorem cmpI (x y : Int) : Lib.compareInt x y = if x < y then -1 else if y < x then 1 else 0 := rfl

set_option maxHeartbeats 2000000 in
theorem compare_any (m n : Nat) (a a' : Option Addr) (cap cap' : Nat) (w : World) (hx : Rb w a (E 10 m)) (hy : Rb w a' (E 10 n)) (hs : (E 10 m).length ≤ 1000000) (hs' : (E 10 n).length ≤ 1000000) :
    Calls Try.prog 70 #[.slice a (E 10 m).length cap, .slice a' (E 10 n).length cap'] w fun e w' => e = .returned (.int .i64 (cmpN m n)) ∧ Below w.heap.size w w' := by
  have HX := Lib.hid (fun i hi => hx.at i hi)
  have HY := Lib.hid (fun i hi => hy.at i hi)
  have HC := Lib.hid (fun k hl hk hd => cmp_at m n k hl hk hd)
  have H0 := Lib.hid (fun h => cmp_eq m n h)
  have H1 := Lib.hid (fun h => cmp_len m n h)
  have H2 := Lib.hid (fun h => cmp_len2 m n h)
  have HI := Lib.hid cmpI
  clear hx hy
  generalize hp : E 10 m = p at *
  generalize hq : E 10 n = q at *
  generalize hr : cmpN m n = r at *
  clear hp hq hr
  by_cases hl : p.length < q.length
  · have e1 : Hid (r = -1) := H1.out hl
    have e2 : Lib.compareInt (p.length : Int) (q.length : Int) = -1 := by rw [HI.out, if_pos (by omega)]
    clear HX HY HC H0 H1 H2 HI
    generalize p.length = lp at *
    generalize q.length = lq at *
    have e2h := Lib.hid e2
    clear e2
    go_enter Try.func70, Try.ntmps70
    go_wp2_with (go_at_call 80; refine (Try.cmp_Compare_int _ _ _).mono ?_; rintro e w' ⟨rfl, hw'⟩; obtain rfl := hw'.symm; rw [e2h.out])
    go_ret
    rw [e1.out]
    exact ⟨rfl, Below.refl _ _⟩
  · by_cases hl2 : q.length < p.length
    · have e1 : Hid (r = 1) := H2.out hl2
      have e2 : Lib.compareInt (p.length : Int) (q.length : Int) = 1 := by rw [HI.out, if_neg (by omega), if_pos (by omega)]
      clear HX HY HC H0 H1 H2 HI
      generalize p.length = lp at *
      generalize q.length = lq at *
      have e2h := Lib.hid e2
      clear e2
      go_enter Try.func70, Try.ntmps70
      go_wp2_with (go_at_call 80; refine (Try.cmp_Compare_int _ _ _).mono ?_; rintro e w' ⟨rfl, hw'⟩; obtain rfl := hw'.symm; rw [e2h.out])
      go_ret
      rw [e1.out]
      exact ⟨rfl, Below.refl _ _⟩
    · have hle : p.length = q.length := by omega
      have e2 : Hid (Lib.compareInt (p.length : Int) (q.length : Int) = 0) := by rw [HI.out, if_neg (by omega), if_neg (by omega)]; rfl
      clear H1 H2 hl hl2
      have HLE := Lib.hid hle
      have HLEN : Hid (p.drop (p.length - 0) = q.drop (p.length - 0)) := by
        show _ = _
        rw [List.drop_eq_nil_of_le (by omega), List.drop_eq_nil_of_le (by omega)]
      generalize hlp : p.length = L at *
      generalize hlq : q.length = L' at *
      subst hle
      clear hlp hlq HLE
      go_enter Try.func70, Try.ntmps70
      go_wp2_with (go_at_call 80; refine (Try.cmp_Compare_int _ _ _).mono ?_; rintro e w' ⟨rfl, hw'⟩; obtain rfl := hw'.symm; rw [e2.out])
      have HT : Hid (p.drop (L - 0) = q.drop (L - 0)) := HLEN.out
      go_loopw [19] (fun c wr => ∃ k : Nat, k ≤ L ∧ c = .int .i64 k ∧ Below w.heap.size w wr ∧ Hid (p.drop (L - k) = q.drop (L - k))) (fun c _ => L - (intOf c).toNat)
      case atStart => exact ⟨0, Nat.zero_le _, rfl, Below.refl _ _, HT.out⟩
      case round =>
        clear HT
        obtain ⟨k, hk, rfl, hbel, HD⟩ := hrel
        by_cases hlt : k < L
        · obtain ⟨i, hi⟩ : ∃ i, i + k + 1 = L := ⟨L - k - 1, by omega⟩
          have hi2 : (L : Int) - 1 - k = (i : Int) := by omega
          have hi3 : L - k = i + 1 := by omega
          have hi4 : L - (k + 1) = i := by omega
          have hil : i < L := by omega
          have HD2 := HD.out
          rw [hi3] at HD2
          have hc := HC.out i trivial hil HD2
          obtain ⟨b, off, rfl, hb1, hc1⟩ := HX.out i hil
          obtain ⟨b', off', rfl, hb2, hc2⟩ := HY.out i hil
          have c1 := hbel.cell (p := ⟨b, off + i, none⟩) hb1
          have c2 := hbel.cell (p := ⟨b', off' + i, none⟩) hb2
          rw [hc1] at c1
          rw [hc2] at c2
          have hi0 : (0 : Int) ≤ i := by omega
          have hil2 : (i : Int) < L := by omega
          have hkl : (k : Int) < L := by omega
          have hi2h := Lib.hid hi2
          have hi4h := Lib.hid hi4
          have hch := Lib.hid hc
          clear hc hi hi2 hi3 hi4 HD2 HD hc1 hc2 HX HY HC H0 HI
          generalize ((p.getD i 0).toNat : Int) = x at *
          generalize ((q.getD i 0).toNat : Int) = y at *
          by_cases hxy : x < y
          · go_wp2
            rw [hi2h.out]
            go_quiet ((go_at_call 81; exact still (cmpb_lt _ _ _ hxy)))
            go_wp2
            go_ret
            rw [hch.out.1 hxy]
            exact ⟨rfl, Below.drewN hbel _⟩
          · by_cases hyx : y < x
            · go_wp2
              rw [hi2h.out]
              go_quiet ((go_at_call 81; exact still (cmpb_gt _ _ _ hyx)))
              go_wp2
              go_ret
              rw [hch.out.2.1 hyx]
              exact ⟨rfl, Below.drewN hbel _⟩
            · have hq : x = y := by omega
              have HD2 : Hid (p.drop (L - (k + 1)) = q.drop (L - (k + 1))) := by rw [hi4h.out]; exact hch.out.2.2 hq
              have hqh := Lib.hid hq
              clear hq
              go_wp2
              rw [hi2h.out]
              go_quiet ((go_at_call 81; exact still (cmpb_eq _ _ _ hqh.out)))
              go_wp2
              go_roundw
              case rel => exact ⟨k + 1, by omega, by go_num, Below.drewN hbel _, HD2⟩
              case measure => simp [intOf]; omega
        · obtain rfl : k = L := by omega
          have e0 := HD.out
          rw [show k - k = 0 by omega] at e0
          have e1 := Lib.hid (H0.out e0)
          clear e0 HD HX HY HC H0 HI
          go_wp2
          go_ret
          rw [e1.out]
          exact ⟨rfl, hbel⟩
end Go.Proofs.Ytmnopohjnbpinab
