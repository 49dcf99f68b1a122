/-
  Helper: the walks of the reference's index and unpack, Unhex and Unbase64.
-/
import Derived.Test.YtaapmndfefjdcaaDoorArRef
import Derived.Test.YtaapmndfefjdcaaDoorArNum2
namespace Go.Proofs.YtaapmndfefjdcaaDoor
open Go.RowKit
set_option linter.unusedVariables false

theorem byte_eq (a b : UInt8) (h : a = b) : ((a.toNat : Int) == (b.toNat : Int)) = true := by rw [h]; exact beq_self_eq_true _
theorem byte_ne (a b : UInt8) (h : a ≠ b) : ((a.toNat : Int) == (b.toNat : Int)) = false := by
  rw [beq_eq_false_iff_ne]; intro g; exact h (UInt8.toNat_inj.1 (by omega))
theorem ba_getD (s : ByteArray) (k : Nat) (h : k < s.size) : s.data.toList.getD k 0 = s[k] := by
  rw [List.getD_eq_getElem?_getD, List.getElem?_eq_getElem (by simpa using h)]; rfl
set_option maxHeartbeats 1000000 in
theorem index_yes (al : ByteArray) (c : UInt8) (w : World) (hs : al.size ≤ 1000) (h : fnd al.data.toList c < al.data.toList.length) :
    Calls Tryd.prog 29 #[.string al, .int .u8 (c.toNat : Int)] w fun e w' => e = .returned (.int .i64 (fnd al.data.toList c : Nat)) ∧ w = w' := by
  have hlen : al.data.toList.length = al.size := by simp
  have HB := Lib.hid (fun k (hk : k < al.size) => ba_getD al k hk)
  have HY : Hid (∀ k, k < al.size → (∀ j, j < k → al.data.toList.getD j 0 ≠ c) → al.data.toList.getD k 0 = c → fnd al.data.toList c = k) := fun k h1 h2 h3 => fnd_at _ c k (by omega) h2 h3
  have HNo : Hid ((∀ j, j < al.size → al.data.toList.getD j 0 ≠ c) → False) := fun h1 => by
    have := fnd_no al.data.toList c (fun j hj => h1 j (by omega)); omega
  have hlenh := Lib.hid hlen
  clear hlen h
  go_enter Tryd.func29, Tryd.ntmps29
  go_wp2
  go_loop [5] (fun i => ∃ k : Nat, k ≤ al.size ∧ i = .int .i64 k ∧ Hid (∀ j, j < k → al.data.toList.getD j 0 ≠ c)) (fun i => al.size - (intOf i).toNat)
  case atStart => exact ⟨0, Nat.zero_le _, rfl, fun j hj => absurd hj (by omega)⟩
  case round =>
    obtain ⟨k, hk, rfl, HZ⟩ := hrel
    by_cases hlt : k < al.size
    · have hbk := HB.out k hlt
      by_cases hc : al[k] = c
      · have hd := byte_eq _ _ hc
        have hr := Lib.hid (HY.out k hlt HZ.out (by rw [hbk]; exact hc))
        clear hbk hc
        go_wp2
        go_ret
        rw [hr.out]
        exact ⟨rfl, rfl⟩
      · have hd := byte_ne _ _ hc
        have HZ2 : Hid (∀ j, j < k + 1 → al.data.toList.getD j 0 ≠ c) := fun j hj => by
          by_cases e : j = k
          · rw [e, hbk]; exact hc
          · exact HZ.out j (by omega)
        clear hbk hc
        go_wp2
        go_round
        case rel => exact ⟨k + 1, by omega, by go_num, HZ2⟩
        case measure => simp [intOf]; omega
    · exact (HNo.out (fun j hj => HZ.out j (by omega))).elim
set_option maxHeartbeats 1000000 in
theorem index_no (al : ByteArray) (c : UInt8) (w : World) (hs : al.size ≤ 1000) (h : ¬ fnd al.data.toList c < al.data.toList.length) :
    Calls Tryd.prog 29 #[.string al, .int .u8 (c.toNat : Int)] w fun e w' => e = .returned (.int .i64 (-1)) ∧ w = w' := by
  have hlen : al.data.toList.length = al.size := by simp
  have HB : Hid (∀ k (hk : k < al.size), al[k] ≠ c) := fun k hk e => by
    have h1 : fnd al.data.toList c ≤ k := by
      rcases Nat.lt_or_ge k (fnd al.data.toList c) with g | g
      · have := List.not_of_lt_findIdx (p := (· == c)) (xs := al.data.toList) (i := k) g
        have e2 := ba_getD al k hk
        rw [List.getD_eq_getElem?_getD, List.getElem?_eq_getElem (by simpa using hk)] at e2
        simp only [Option.getD_some] at e2
        rw [e2, e] at this
        simp at this
      · exact g
    omega
  clear hlen h
  go_enter Tryd.func29, Tryd.ntmps29
  go_wp2
  go_loop [5] (fun i => ∃ k : Nat, k ≤ al.size ∧ i = .int .i64 k) (fun i => al.size - (intOf i).toNat)
  case atStart => exact ⟨0, Nat.zero_le _, rfl⟩
  case round =>
    obtain ⟨k, hk, rfl⟩ := hrel
    by_cases hlt : k < al.size
    · have hd := byte_ne _ _ (HB.out k hlt)
      go_wp2
      go_round
      case rel => exact ⟨k + 1, by omega, by go_num⟩
      case measure => simp [intOf]; omega
    · go_wp2
      go_ret
      exact ⟨rfl, rfl⟩

def pwE4 (j : Nat) : Nat := 2 ^ (4 - 1) / 2 ^ j
theorem pwE4_half (j : Nat) : pwE4 j / 2 = pwE4 (j + 1) := by unfold pwE4; rw [Nat.div_div_eq_div_mul, Nat.pow_succ 2 j]
theorem pwE4_le (j : Nat) : pwE4 j ≤ 8 := Nat.div_le_self _ _
theorem pwE4_pos (j : Nat) (h : j < 4) : 0 < pwE4 j := by
  have : ∀ j, j < 4 → 0 < pwE4 j := by decide
  exact this j h
set_option maxRecDepth 100000 in
set_option maxHeartbeats 6000000 in
theorem unpack4_any (s : ByteArray) (w : World) (hs : s.size ≤ 100000) :
    Calls Tryd.prog 25 #[.string s, .string ⟨#[48, 49, 50, 51, 52, 53, 54, 55, 56, 57, 97, 98, 99, 100, 101, 102]⟩, .int .i64 4] w (TxtP (bytesOf (stream HX 4 s.data.toList)) w) := by
  have hlen : s.data.toList.length = s.size := by simp
  have hsl := stream_len HX 4 s.data.toList
  rw [hlen] at hsl
  have HF : Hid (∀ w', Below w.heap.size w w' → TxtP (bytesOf (stream HX 4 s.data.toList)) w (.returned (.string ⟨(bytesR (stream HX 4 s.data.toList) ((stream HX 4 s.data.toList).length / 8)).toArray⟩)) w') := fun w' hb => ⟨rfl, hb⟩
  have HT : Hid (∀ k (h : k < s.size), stream HX 4 (s.data.toList.take (k + 1)) = stream HX 4 (s.data.toList.take k) ++ dgE HX 4 s[k]) := fun k h => by
    rw [stream_take _ _ _ _ (by omega), ba_getD s k h]
  have HE : Hid (stream HX 4 (s.data.toList.take s.size) = stream HX 4 s.data.toList) := by
    show _ = _
    rw [List.take_of_length_le (by omega)]
  have HLK : Hid (∀ k, k ≤ s.size → (stream HX 4 (s.data.toList.take k)).length ≤ 4 * k) := fun k hk => by
    have := stream_len HX 4 (s.data.toList.take k)
    rw [List.length_take, hlen, Nat.min_eq_left hk] at this
    exact this
  have H01 := Lib.hid (b01_stream HX 4 s.data.toList)
  clear hlen
  generalize hPo : TxtP (bytesOf (stream HX 4 s.data.toList)) w = Po at *
  clear hPo
  generalize s.data.toList = l at *
  go_enter Tryd.func25, Tryd.ntmps25
  go_wp2
  go_loopw [7, 8] (fun v i wr => ∃ k : Nat, k ≤ s.size ∧ i = .int .i64 k ∧ wr.ownsRow w.heap.size 3 1 v (stream HX 4 (l.take k)).length (ints (stream HX 4 (l.take k))) ∧ Below w.heap.size w wr) (fun _ i _ => s.size - (intOf i).toNat)
  case atStart => exact ⟨0, Nat.zero_le _, rfl, World.ownsRow_nil _ _ _ _, Below.refl _ _⟩
  case round =>
    obtain ⟨k, hk, rfl, hown, hbel⟩ := hrel
    by_cases hlt : k < s.size
    · have hT := Lib.hid (HT.out k hlt)
      have hlk := HLK.out k hk
      have hownh := Lib.hid hown
      have hbelh := Lib.hid hbel
      have hszw := hbel.size
      generalize hbk : stream HX 4 (l.take k) = bk at *
      have hT2 := hT.out
      clear hown hbel hbk
      by_cases hf : fnd HX s[k] < HX.length
      · have HI := Lib.hid (fun w => index_yes ⟨#[48, 49, 50, 51, 52, 53, 54, 55, 56, 57, 97, 98, 99, 100, 101, 102]⟩ s[k] w (by decide) hf)
        have hdg : dgE HX 4 s[k] = bitE 4 (fnd HX s[k]) := by unfold dgE; rw [if_pos hf]
        rw [hdg] at hT2
        have hT2h := Lib.hid hT2
        have hv64 : fnd HX s[k] < 16 := hf
        clear hT2 hdg hf
        have HI2 : Hid (∀ w, Calls Tryd.prog 29 #[.string ⟨#[48, 49, 50, 51, 52, 53, 54, 55, 56, 57, 97, 98, 99, 100, 101, 102]⟩, .int .u8 (s[k].toNat : Int)] w fun e w' => e = .returned (.int .i64 (fnd HX s[k] : Nat)) ∧ w = w') := HI.out
        clear HI
        generalize fnd HX s[k] = c at *
        have hc0 : (0 : Int) ≤ c := by omega
        go_wp2_with fail
        refine (HI2.out _).mono ?_
        rintro e w2 ⟨rfl, rfl⟩
        go_wp2_with fail
        obtain ⟨wo, rfl⟩ : ∃ wo : World, wo = wr := ⟨_, rfl⟩
        go_loopw [7, 10] (fun v m wr => ∃ j : Nat, j ≤ 4 ∧ m = .int .i64 (pwE4 j : Nat) ∧ wr.ownsRow w.heap.size 3 1 v (bk.length + j) (ints (bk ++ (bitE 4 c).take j)) ∧ Below w.heap.size w wr) (fun _ m _ => (intOf m).toNat)
        case atStart => exact ⟨0, by omega, rfl, by rw [List.take_zero, List.append_nil]; exact hownh.out, hbelh.out⟩
        case round =>
          obtain ⟨j, hj, rfl, hown, hbel⟩ := hrel
          by_cases hlt2 : j < 4
          · have hp := pwE4_pos j hlt2
            have hple := pwE4_le j
            have hph := Lib.hid (pwE4_half j)
            have hbt : Hid ((bitE 4 c).take (j + 1) = (bitE 4 c).take j ++ [c / pwE4 j % 2]) := bitE_take 4 c j hlt2
            have hownj := Lib.hid hown
            generalize (bitE 4 c).take j = tj at *
            clear hown
            generalize pwE4 j = q at *
            have hq1 : (0 : Int) ≤ (c : Int) / q := Int.ediv_nonneg (by omega) (by omega)
            have hq2 : (c : Int) / q ≤ 255 := by have := Int.ediv_le_self (a := (c : Int)) (b := q) (by omega); omega
            have hzz : Hid ((c : Int) / q % 2 = ((c / q % 2 : Nat) : Int)) := by show _ = _; omega
            have hszw2 := hbel.size
            have hqqh : Hid ((q : Int) / 2 = ((q / 2 : Nat) : Int)) := by show _ = _; omega
            have hbkl : bk.length ≤ 600000 := by omega
            go_wp2_with (at_builtin; refine append_int rfl (.tmp 33) (.tmp 38) 42 rfl Tryd.underlying42 _ w.heap.size _ (bk.length + j) (bk ++ tj) (c / q % 2) rfl rfl hownj.out w hbel ?c1 ?c2 hzz.out ?_)
            case c1 => omega
            case c2 => omega
            intro v' w3 hown3 hb3 hsp
            clear hsp hq1 hq2
            go_wp2
            go_roundw
            case rel => exact ⟨j + 1, by omega, by rw [← hph.out]; exact congrArg _ hqqh.out, by rw [hbt.out]; exact hown3, hb3⟩
            case measure => simp [intOf]; omega
          · obtain rfl : j = 4 := by omega
            have hBe : Hid (bk ++ (bitE 4 c).take 4 = stream HX 4 (l.take (k + 1))) := hT2h.out.symm
            have hLe : Hid (bk.length + 4 = (stream HX 4 (l.take (k + 1))).length) := by
              show _ = _
              rw [hT2h.out, List.length_append, bitE_len]
            rw [hBe.out, hLe.out] at hown
            have hownj := Lib.hid hown
            clear hown
            have hp8 : ((pwE4 4 : Nat) : Int) = 0 := rfl
            go_wp2
            go_roundw
            case rel => exact ⟨k + 1, by omega, by go_num, hownj.out, hbel⟩
            case measure => simp [intOf]; omega
      · have HI := Lib.hid (fun w => index_no ⟨#[48, 49, 50, 51, 52, 53, 54, 55, 56, 57, 97, 98, 99, 100, 101, 102]⟩ s[k] w (by decide) hf)
        have hdg : dgE HX 4 s[k] = [] := by unfold dgE; rw [if_neg hf]
        rw [hdg, List.append_nil] at hT2
        have hT2h := Lib.hid hT2
        clear hT2 hdg hf
        go_wp2_with fail
        refine (HI.out _).mono ?_
        rintro e w2 ⟨rfl, rfl⟩
        go_wp2_with fail
        go_roundw
        case rel => exact ⟨k + 1, by omega, by go_num, by rw [hT2h.out]; exact hownh.out, hbelh.out⟩
        case measure => simp [intOf]; omega
    · obtain rfl : k = s.size := by omega
      rw [HE.out] at hown
      obtain ⟨a, cap, rfl, hq1, hq2, hib⟩ := ib_of_row hown
      have HIB := Lib.hid hib
      have hbelh := Lib.hid hbel
      have hsz1 := hbel.size
      have HS : Hid (∀ k, bytesR (stream HX 4 l) (k + 1) = bytesR (stream HX 4 l) k ++ [UInt8.ofNat (numB (stream HX 4 l) (8 * k) 8)]) := fun k => bytesR_succ _ k
      have HL : Hid (∀ k, (bytesR (stream HX 4 l) k).length = k) := fun k => bytesR_len _ k
      clear hown hib hbel hq1 hq2 HT HLK
      generalize hst : stream HX 4 l = st at *
      have hsth := Lib.hid hst
      clear hst
      generalize hnn : st.length = n at *
      have hnh := Lib.hid hnn
      clear hnn
      obtain ⟨D, hD1, hD2, hD3⟩ : ∃ D, D = n / 8 ∧ 8 * D ≤ n ∧ n < 8 * D + 8 := ⟨n / 8, rfl, by omega, by omega⟩
      rw [← hD1] at HF
      clear hD1
      have hn6 : n ≤ 600000 := by omega
      go_wp2_with fail
      obtain ⟨wo, rfl⟩ : ∃ wo : World, wo = wr := ⟨_, rfl⟩
      go_loopw [11, 12] (fun v i wr => ∃ k : Nat, k ≤ D ∧ i = .int .i64 ((8 * k : Nat) : Int) ∧ wr.ownsRow wo.heap.size 5 1 v k (bytes (bytesR st k)) ∧ Below wo.heap.size wo wr) (fun _ i _ => n + 8 - (intOf i).toNat)
      case atStart => exact ⟨0, Nat.zero_le _, rfl, World.ownsRow_nil _ _ _ _, Below.refl _ _⟩
      case round =>
        obtain ⟨k, hk, rfl, hown, hbel⟩ := hrel
        by_cases hlt3 : k < D
        · have hst := Lib.hid (HS.out k)
          have hnlt : numB st (8 * k) 8 < 256 := numB_lt H01.out _ _
          have HN : Hid (∀ W, Below wo.heap.size wo W → Calls Tryd.prog 24 #[.slice a n cap, .int .i64 ((8 * k : Nat) : Int), .int .i64 8] W fun e w' => e = .returned (.int .i64 (numB st (8 * k) 8 : Nat)) ∧ W = w') := fun W hW =>
            number_any st H01.out a n cap (8 * k) 8 hnh.out W (HIB.out.below hW (Nat.le_refl _)) (by omega) (by omega) (by omega)
          have hownh := Lib.hid hown
          have hszw := hbel.size
          generalize numB st (8 * k) 8 = x at *
          have hxx : Hid ((x : Int) = (((UInt8.ofNat x).toNat : Nat) : Int)) := by
            show _ = _
            rw [toNat_ofNat x hnlt]
          have hk8 : ((8 * k : Nat) : Int) + 8 ≤ (n : Int) := by omega
          have h4k : 8 * k ≤ n := by omega
          generalize h4 : 8 * k = k4 at *
          have h4h := Lib.hid h4
          have hk100 : k ≤ 100000000 := by omega
          clear h4 hown
          go_wp2_with fail
          refine (HN.out _ hbel).mono ?_
          rintro e w2 ⟨rfl, rfl⟩
          go_wp2_with (at_builtin; refine append_byte rfl (.tmp 47) (.tmp 52) 40 rfl Tryd.underlying40 _ wo.heap.size _ k (bytesR st k) (UInt8.ofNat x) rfl rfl hownh.out wo hbel ?c1 ?c2 hxx.out ?_)
          case c1 => omega
          case c2 => omega
          intro v' w3 hown3 hb3 hsp
          clear hsp
          go_wp2
          go_roundw
          case rel => exact ⟨k + 1, by omega, by rw [show 8 * (k + 1) = k4 + 8 by have := h4h.out; omega]; go_num, by rw [hst.out]; exact hown3, hb3⟩
          case measure => simp [intOf]; omega
        · obtain rfl : k = D := by omega
          have hll := Lib.hid (HL.out k)
          obtain ⟨a2, cap2, rfl, hq1, hq2, hrb⟩ := rb_of_row hown
          have hcv := conv_rb hrb k hll.out cap2
          have hfin := Lib.hid (HF.out _ (hbelh.out.trans (hbel.mono hsz1)))
          have h4 : (n : Int) < ((8 * k : Nat) : Int) + 8 := by omega
          have hk8 : 8 * k ≤ 600000 := by omega
          generalize bytesR st k = r at *
          generalize 8 * k = k8 at *
          clear hown hrb hq1 hq2
          go_wp2
          exact hfin.out

def pwE6 (j : Nat) : Nat := 2 ^ (6 - 1) / 2 ^ j
theorem pwE6_half (j : Nat) : pwE6 j / 2 = pwE6 (j + 1) := by unfold pwE6; rw [Nat.div_div_eq_div_mul, Nat.pow_succ 2 j]
theorem pwE6_le (j : Nat) : pwE6 j ≤ 32 := Nat.div_le_self _ _
theorem pwE6_pos (j : Nat) (h : j < 6) : 0 < pwE6 j := by
  have : ∀ j, j < 6 → 0 < pwE6 j := by decide
  exact this j h
set_option maxRecDepth 100000 in
set_option maxHeartbeats 6000000 in
theorem unpack6_any (s : ByteArray) (w : World) (hs : s.size ≤ 100000) :
    Calls Tryd.prog 25 #[.string s, .string ⟨#[65, 66, 67, 68, 69, 70, 71, 72, 73, 74, 75, 76, 77, 78, 79, 80, 81, 82, 83, 84, 85, 86, 87, 88, 89, 90, 97, 98, 99, 100, 101, 102, 103, 104, 105, 106, 107, 108, 109, 110, 111, 112, 113, 114, 115, 116, 117, 118, 119, 120, 121, 122, 48, 49, 50, 51, 52, 53, 54, 55, 56, 57, 43, 47]⟩, .int .i64 6] w (TxtP (bytesOf (stream SX 6 s.data.toList)) w) := by
  have hlen : s.data.toList.length = s.size := by simp
  have hsl := stream_len SX 6 s.data.toList
  rw [hlen] at hsl
  have HF : Hid (∀ w', Below w.heap.size w w' → TxtP (bytesOf (stream SX 6 s.data.toList)) w (.returned (.string ⟨(bytesR (stream SX 6 s.data.toList) ((stream SX 6 s.data.toList).length / 8)).toArray⟩)) w') := fun w' hb => ⟨rfl, hb⟩
  have HT : Hid (∀ k (h : k < s.size), stream SX 6 (s.data.toList.take (k + 1)) = stream SX 6 (s.data.toList.take k) ++ dgE SX 6 s[k]) := fun k h => by
    rw [stream_take _ _ _ _ (by omega), ba_getD s k h]
  have HE : Hid (stream SX 6 (s.data.toList.take s.size) = stream SX 6 s.data.toList) := by
    show _ = _
    rw [List.take_of_length_le (by omega)]
  have HLK : Hid (∀ k, k ≤ s.size → (stream SX 6 (s.data.toList.take k)).length ≤ 6 * k) := fun k hk => by
    have := stream_len SX 6 (s.data.toList.take k)
    rw [List.length_take, hlen, Nat.min_eq_left hk] at this
    exact this
  have H01 := Lib.hid (b01_stream SX 6 s.data.toList)
  clear hlen
  generalize hPo : TxtP (bytesOf (stream SX 6 s.data.toList)) w = Po at *
  clear hPo
  generalize s.data.toList = l at *
  go_enter Tryd.func25, Tryd.ntmps25
  go_wp2
  go_loopw [7, 8] (fun v i wr => ∃ k : Nat, k ≤ s.size ∧ i = .int .i64 k ∧ wr.ownsRow w.heap.size 3 1 v (stream SX 6 (l.take k)).length (ints (stream SX 6 (l.take k))) ∧ Below w.heap.size w wr) (fun _ i _ => s.size - (intOf i).toNat)
  case atStart => exact ⟨0, Nat.zero_le _, rfl, World.ownsRow_nil _ _ _ _, Below.refl _ _⟩
  case round =>
    obtain ⟨k, hk, rfl, hown, hbel⟩ := hrel
    by_cases hlt : k < s.size
    · have hT := Lib.hid (HT.out k hlt)
      have hlk := HLK.out k hk
      have hownh := Lib.hid hown
      have hbelh := Lib.hid hbel
      have hszw := hbel.size
      generalize hbk : stream SX 6 (l.take k) = bk at *
      have hT2 := hT.out
      clear hown hbel hbk
      by_cases hf : fnd SX s[k] < SX.length
      · have HI := Lib.hid (fun w => index_yes ⟨#[65, 66, 67, 68, 69, 70, 71, 72, 73, 74, 75, 76, 77, 78, 79, 80, 81, 82, 83, 84, 85, 86, 87, 88, 89, 90, 97, 98, 99, 100, 101, 102, 103, 104, 105, 106, 107, 108, 109, 110, 111, 112, 113, 114, 115, 116, 117, 118, 119, 120, 121, 122, 48, 49, 50, 51, 52, 53, 54, 55, 56, 57, 43, 47]⟩ s[k] w (by decide) hf)
        have hdg : dgE SX 6 s[k] = bitE 6 (fnd SX s[k]) := by unfold dgE; rw [if_pos hf]
        rw [hdg] at hT2
        have hT2h := Lib.hid hT2
        have hv64 : fnd SX s[k] < 64 := hf
        clear hT2 hdg hf
        have HI2 : Hid (∀ w, Calls Tryd.prog 29 #[.string ⟨#[65, 66, 67, 68, 69, 70, 71, 72, 73, 74, 75, 76, 77, 78, 79, 80, 81, 82, 83, 84, 85, 86, 87, 88, 89, 90, 97, 98, 99, 100, 101, 102, 103, 104, 105, 106, 107, 108, 109, 110, 111, 112, 113, 114, 115, 116, 117, 118, 119, 120, 121, 122, 48, 49, 50, 51, 52, 53, 54, 55, 56, 57, 43, 47]⟩, .int .u8 (s[k].toNat : Int)] w fun e w' => e = .returned (.int .i64 (fnd SX s[k] : Nat)) ∧ w = w') := HI.out
        clear HI
        generalize fnd SX s[k] = c at *
        have hc0 : (0 : Int) ≤ c := by omega
        go_wp2_with fail
        refine (HI2.out _).mono ?_
        rintro e w2 ⟨rfl, rfl⟩
        go_wp2_with fail
        obtain ⟨wo, rfl⟩ : ∃ wo : World, wo = wr := ⟨_, rfl⟩
        go_loopw [7, 10] (fun v m wr => ∃ j : Nat, j ≤ 6 ∧ m = .int .i64 (pwE6 j : Nat) ∧ wr.ownsRow w.heap.size 3 1 v (bk.length + j) (ints (bk ++ (bitE 6 c).take j)) ∧ Below w.heap.size w wr) (fun _ m _ => (intOf m).toNat)
        case atStart => exact ⟨0, by omega, rfl, by rw [List.take_zero, List.append_nil]; exact hownh.out, hbelh.out⟩
        case round =>
          obtain ⟨j, hj, rfl, hown, hbel⟩ := hrel
          by_cases hlt2 : j < 6
          · have hp := pwE6_pos j hlt2
            have hple := pwE6_le j
            have hph := Lib.hid (pwE6_half j)
            have hbt : Hid ((bitE 6 c).take (j + 1) = (bitE 6 c).take j ++ [c / pwE6 j % 2]) := bitE_take 6 c j hlt2
            have hownj := Lib.hid hown
            generalize (bitE 6 c).take j = tj at *
            clear hown
            generalize pwE6 j = q at *
            have hq1 : (0 : Int) ≤ (c : Int) / q := Int.ediv_nonneg (by omega) (by omega)
            have hq2 : (c : Int) / q ≤ 255 := by have := Int.ediv_le_self (a := (c : Int)) (b := q) (by omega); omega
            have hzz : Hid ((c : Int) / q % 2 = ((c / q % 2 : Nat) : Int)) := by show _ = _; omega
            have hszw2 := hbel.size
            have hqqh : Hid ((q : Int) / 2 = ((q / 2 : Nat) : Int)) := by show _ = _; omega
            have hbkl : bk.length ≤ 600000 := by omega
            go_wp2_with (at_builtin; refine append_int rfl (.tmp 33) (.tmp 38) 42 rfl Tryd.underlying42 _ w.heap.size _ (bk.length + j) (bk ++ tj) (c / q % 2) rfl rfl hownj.out w hbel ?c1 ?c2 hzz.out ?_)
            case c1 => omega
            case c2 => omega
            intro v' w3 hown3 hb3 hsp
            clear hsp hq1 hq2
            go_wp2
            go_roundw
            case rel => exact ⟨j + 1, by omega, by rw [← hph.out]; exact congrArg _ hqqh.out, by rw [hbt.out]; exact hown3, hb3⟩
            case measure => simp [intOf]; omega
          · obtain rfl : j = 6 := by omega
            have hBe : Hid (bk ++ (bitE 6 c).take 6 = stream SX 6 (l.take (k + 1))) := hT2h.out.symm
            have hLe : Hid (bk.length + 6 = (stream SX 6 (l.take (k + 1))).length) := by
              show _ = _
              rw [hT2h.out, List.length_append, bitE_len]
            rw [hBe.out, hLe.out] at hown
            have hownj := Lib.hid hown
            clear hown
            have hp8 : ((pwE6 6 : Nat) : Int) = 0 := rfl
            go_wp2
            go_roundw
            case rel => exact ⟨k + 1, by omega, by go_num, hownj.out, hbel⟩
            case measure => simp [intOf]; omega
      · have HI := Lib.hid (fun w => index_no ⟨#[65, 66, 67, 68, 69, 70, 71, 72, 73, 74, 75, 76, 77, 78, 79, 80, 81, 82, 83, 84, 85, 86, 87, 88, 89, 90, 97, 98, 99, 100, 101, 102, 103, 104, 105, 106, 107, 108, 109, 110, 111, 112, 113, 114, 115, 116, 117, 118, 119, 120, 121, 122, 48, 49, 50, 51, 52, 53, 54, 55, 56, 57, 43, 47]⟩ s[k] w (by decide) hf)
        have hdg : dgE SX 6 s[k] = [] := by unfold dgE; rw [if_neg hf]
        rw [hdg, List.append_nil] at hT2
        have hT2h := Lib.hid hT2
        clear hT2 hdg hf
        go_wp2_with fail
        refine (HI.out _).mono ?_
        rintro e w2 ⟨rfl, rfl⟩
        go_wp2_with fail
        go_roundw
        case rel => exact ⟨k + 1, by omega, by go_num, by rw [hT2h.out]; exact hownh.out, hbelh.out⟩
        case measure => simp [intOf]; omega
    · obtain rfl : k = s.size := by omega
      rw [HE.out] at hown
      obtain ⟨a, cap, rfl, hq1, hq2, hib⟩ := ib_of_row hown
      have HIB := Lib.hid hib
      have hbelh := Lib.hid hbel
      have hsz1 := hbel.size
      have HS : Hid (∀ k, bytesR (stream SX 6 l) (k + 1) = bytesR (stream SX 6 l) k ++ [UInt8.ofNat (numB (stream SX 6 l) (8 * k) 8)]) := fun k => bytesR_succ _ k
      have HL : Hid (∀ k, (bytesR (stream SX 6 l) k).length = k) := fun k => bytesR_len _ k
      clear hown hib hbel hq1 hq2 HT HLK
      generalize hst : stream SX 6 l = st at *
      have hsth := Lib.hid hst
      clear hst
      generalize hnn : st.length = n at *
      have hnh := Lib.hid hnn
      clear hnn
      obtain ⟨D, hD1, hD2, hD3⟩ : ∃ D, D = n / 8 ∧ 8 * D ≤ n ∧ n < 8 * D + 8 := ⟨n / 8, rfl, by omega, by omega⟩
      rw [← hD1] at HF
      clear hD1
      have hn6 : n ≤ 600000 := by omega
      go_wp2_with fail
      obtain ⟨wo, rfl⟩ : ∃ wo : World, wo = wr := ⟨_, rfl⟩
      go_loopw [11, 12] (fun v i wr => ∃ k : Nat, k ≤ D ∧ i = .int .i64 ((8 * k : Nat) : Int) ∧ wr.ownsRow wo.heap.size 5 1 v k (bytes (bytesR st k)) ∧ Below wo.heap.size wo wr) (fun _ i _ => n + 8 - (intOf i).toNat)
      case atStart => exact ⟨0, Nat.zero_le _, rfl, World.ownsRow_nil _ _ _ _, Below.refl _ _⟩
      case round =>
        obtain ⟨k, hk, rfl, hown, hbel⟩ := hrel
        by_cases hlt3 : k < D
        · have hst := Lib.hid (HS.out k)
          have hnlt : numB st (8 * k) 8 < 256 := numB_lt H01.out _ _
          have HN : Hid (∀ W, Below wo.heap.size wo W → Calls Tryd.prog 24 #[.slice a n cap, .int .i64 ((8 * k : Nat) : Int), .int .i64 8] W fun e w' => e = .returned (.int .i64 (numB st (8 * k) 8 : Nat)) ∧ W = w') := fun W hW =>
            number_any st H01.out a n cap (8 * k) 8 hnh.out W (HIB.out.below hW (Nat.le_refl _)) (by omega) (by omega) (by omega)
          have hownh := Lib.hid hown
          have hszw := hbel.size
          generalize numB st (8 * k) 8 = x at *
          have hxx : Hid ((x : Int) = (((UInt8.ofNat x).toNat : Nat) : Int)) := by
            show _ = _
            rw [toNat_ofNat x hnlt]
          have hk8 : ((8 * k : Nat) : Int) + 8 ≤ (n : Int) := by omega
          have h4k : 8 * k ≤ n := by omega
          generalize h4 : 8 * k = k4 at *
          have h4h := Lib.hid h4
          have hk100 : k ≤ 100000000 := by omega
          clear h4 hown
          go_wp2_with fail
          refine (HN.out _ hbel).mono ?_
          rintro e w2 ⟨rfl, rfl⟩
          go_wp2_with (at_builtin; refine append_byte rfl (.tmp 47) (.tmp 52) 40 rfl Tryd.underlying40 _ wo.heap.size _ k (bytesR st k) (UInt8.ofNat x) rfl rfl hownh.out wo hbel ?c1 ?c2 hxx.out ?_)
          case c1 => omega
          case c2 => omega
          intro v' w3 hown3 hb3 hsp
          clear hsp
          go_wp2
          go_roundw
          case rel => exact ⟨k + 1, by omega, by rw [show 8 * (k + 1) = k4 + 8 by have := h4h.out; omega]; go_num, by rw [hst.out]; exact hown3, hb3⟩
          case measure => simp [intOf]; omega
        · obtain rfl : k = D := by omega
          have hll := Lib.hid (HL.out k)
          obtain ⟨a2, cap2, rfl, hq1, hq2, hrb⟩ := rb_of_row hown
          have hcv := conv_rb hrb k hll.out cap2
          have hfin := Lib.hid (HF.out _ (hbelh.out.trans (hbel.mono hsz1)))
          have h4 : (n : Int) < ((8 * k : Nat) : Int) + 8 := by omega
          have hk8 : 8 * k ≤ 600000 := by omega
          generalize bytesR st k = r at *
          generalize 8 * k = k8 at *
          clear hown hrb hq1 hq2
          go_wp2
          exact hfin.out
end Go.Proofs.YtaapmndfefjdcaaDoor
