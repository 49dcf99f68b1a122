/-
  Helper: the walk of Unhex.
-/
import Derived.Test.YtaapmndfefjdcaaDoorArTab
import Derived.Test.YtaapmndfefjdcaaDoorArRun
namespace Go.Proofs.YtaapmndfefjdcaaDoor
open Go.RowKit
set_option linter.unusedVariables false

/-- what the table says of a character -/
def val (al : List UInt8) (c : UInt8) : Nat := if fnd al c < al.length then fnd al c else 255
set_option maxRecDepth 100000 in
theorem tab_hex : ∀ i, i < 256 → ((tab HX).getD i 0).toNat = val HX (UInt8.ofNat i) := by decide +kernel
set_option maxRecDepth 100000 in
theorem tab_six : ∀ i, i < 256 → ((tab SX).getD i 0).toNat = val SX (UInt8.ofNat i) := by decide +kernel
theorem tab_hex' (c : UInt8) : ((tab HX).getD c.toNat 0).toNat = val HX c := by
  have h := tab_hex c.toNat (UInt8.toNat_lt c)
  rw [UInt8.ofNat_toNat] at h; exact h
theorem tab_six' (c : UInt8) : ((tab SX).getD c.toNat 0).toNat = val SX c := by
  have h := tab_six c.toNat (UInt8.toNat_lt c)
  rw [UInt8.ofNat_toNat] at h; exact h
theorem unhexA_app : ∀ a b : List UInt8, a.length % 2 = 0 → unhexA (a ++ b) = unhexA a ++ unhexA b
  | [], b, _ => rfl
  | [x], b, h => by simp at h
  | x :: y :: r, b, h => by
    have ih := unhexA_app r b (by simp only [List.length_cons] at h; omega)
    show _ :: unhexA (r ++ b) = _
    rw [ih]; rfl
theorem unhexA_take (l : List UInt8) (k : Nat) (h : 2 * k + 2 ≤ l.length) : unhexA (l.take (2 * (k + 1))) = unhexA (l.take (2 * k)) ++ [UInt8.ofNat (fnd HX (l.getD (2 * k) 0) * 16 + fnd HX (l.getD (2 * k + 1) 0))] := by
  have e : ∀ j, j < l.length → l.drop j = l.getD j 0 :: l.drop (j + 1) := fun j hj => by
    rw [List.drop_eq_getElem_cons hj, List.getD_eq_getElem?_getD, List.getElem?_eq_getElem hj]; rfl
  rw [show 2 * (k + 1) = 2 * k + 2 by omega, List.take_add, e (2 * k) (by omega), e (2 * k + 1) (by omega), unhexA_app _ _ (by rw [List.length_take, Nat.min_eq_left (by omega)]; omega)]
  rfl
def UnhP (l : List UInt8) (w : World) (e : Ending) (w' : World) : Prop := (HexOk l → PairP (unhexA l) 0 w e w') ∧ (¬ HexOk l → PairP [] 3 w e w')
theorem or_16 (x y : Nat) (hx : x < 16) (hy : y < 16) : bits .or .u8 (IntKind.u8.wrap ((x : Int) * 16)) (y : Int) = (((UInt8.ofNat (x * 16 + y)).toNat : Nat) : Int) := by
  rw [IntKind.wrap_u8', show (x : Int) * 16 % 256 = ((x * 16 : Nat) : Int) by omega, u8_or_nat _ _ (by omega) (by omega), nat_join 4 _ _ (by omega) (by omega), toNat_ofNat _ (by omega)]
theorem unhexA_len (l : List UInt8) (k : Nat) (h : 2 * k ≤ l.length) : (unhexA (l.take (2 * k))).length = k := by
  induction k with
  | zero => rfl
  | succ k ih => rw [unhexA_take l k (by omega), List.length_append, ih (by omega)]; rfl
set_option maxRecDepth 100000 in
set_option maxHeartbeats 8000000 in
theorem unhex_any (s : ByteArray) (w : World) (hs : s.size ≤ 100000) :
    Calls Tryd.prog 11 #[.string s] w (UnhP s.data.toList w) := by
  have hlen : s.data.toList.length = s.size := by simp
  have HB := Lib.hid (fun k (hk : k < s.size) => ba_getD s k hk)
  have HF1 : Hid (∀ k w', s.size = 2 * k → (∀ i, i < 2 * k → fnd HX (s.data.toList.getD i 0) < 16) → Below w.heap.size w w' → UnhP s.data.toList w (.returned (.tuple #[.string ⟨(unhexA (s.data.toList.take (2 * k))).toArray⟩, .int .i64 0])) w') := fun k w' h1 h2 hb => by
    have hok : HexOk s.data.toList := ⟨by omega, fun c hc => by
      obtain ⟨i, hi, rfl⟩ := List.getElem_of_mem hc
      have := h2 i (by omega)
      rw [List.getD_eq_getElem?_getD, List.getElem?_eq_getElem hi] at this
      exact this⟩
    rw [List.take_of_length_le (by omega)]
    exact ⟨fun _ => ⟨rfl, hb⟩, fun h => absurd hok h⟩
  have HF2 : Hid (∀ w', (s.size % 2 = 0 → ∃ i, i < s.size ∧ ¬ fnd HX (s.data.toList.getD i 0) < 16) → Below w.heap.size w w' → UnhP s.data.toList w (.returned (.tuple #[.string ⟨#[]⟩, .int .i64 3])) w') := fun w' h1 hb => by
    have hno : ¬ HexOk s.data.toList := fun hok => by
      obtain ⟨i, hi, hi2⟩ := h1 (by have := hok.1; omega)
      refine hi2 (hok.2 _ ?_)
      rw [List.getD_eq_getElem?_getD, List.getElem?_eq_getElem (by omega)]
      exact List.getElem_mem _
    exact ⟨fun h => absurd h hno, fun _ => ⟨rfl, hb⟩⟩
  have HT : Hid (∀ k, 2 * k + 2 ≤ s.size → unhexA (s.data.toList.take (2 * (k + 1))) = unhexA (s.data.toList.take (2 * k)) ++ [UInt8.ofNat (fnd HX (s.data.toList.getD (2 * k) 0) * 16 + fnd HX (s.data.toList.getD (2 * k + 1) 0))]) := fun k h => unhexA_take _ k (by omega)
  have HL : Hid (∀ k, 2 * k ≤ s.size → (unhexA (s.data.toList.take (2 * k))).length = k) := fun k h => unhexA_len _ k (by omega)
  have HD : Hid (∀ w, Calls Tryd.prog 22 #[.string ⟨#[48, 49, 50, 51, 52, 53, 54, 55, 56, 57, 97, 98, 99, 100, 101, 102]⟩] w (ArrP (tab HX) w)) := fun w => digits_any ⟨HX.toArray⟩ w (by decide)
  have HV := Lib.hid tab_hex'
  have HLt : Hid ((tab HX).length = 256) := tabk_len _ _
  generalize hPo : UnhP s.data.toList w = Po at *
  clear hPo hlen
  generalize s.data.toList = l at *
  by_cases hev : s.size % 2 = 0
  · have hevi : ((s.size : Int) % 2 != 0) = false := by rw [bne_eq_false_iff_eq]; omega
    obtain ⟨m, hm⟩ : ∃ m, s.size = 2 * m := ⟨s.size / 2, by omega⟩
    have hmh := Lib.hid hm
    have hm2 : (s.size : Int) / 2 = (m : Int) := by omega
    have hm1 : m ≤ 50000 := by omega
    clear hm
    have hz := zero_tab
    go_enter Tryd.func11, Tryd.ntmps11
    go_wp2_with fail
    refine (HD.out _).mono ?_
    rintro e w1 ⟨rfl, hb1⟩
    have hr0 : Hid (Row (w1.alloc (.cells zero256 38)) w1.heap.size 38 (List.replicate 256 0)) := heap_alloc_new _ _
    have hr1 : Hid (Row ((w1.alloc (.cells zero256 38)).setRow w1.heap.size (bytes (tab HX)).toArray) w1.heap.size 38 (tab HX)) := setRow_heap _ _ _ _ _ _ hr0.out
    have hsz1 : Hid ((Tryd.prog.info? 38).map (·.size) = some (bytes (tab HX)).toArray.size) := by
      show _ = _
      rw [size_tab]; simp [bytes_len, HLt.out]
    have hsz2 : Hid ((bytes (List.replicate 256 0)).toArray.size = (bytes (tab HX)).toArray.size) := by
      show _ = _
      simp [bytes_len, HLt.out]
    have hba := Lib.hid (bytes_all (tab HX))
    have hbf : Hid (Below w.heap.size w ((w1.alloc (.cells zero256 38)).setRow w1.heap.size (bytes (tab HX)).toArray)) := below_row (hb1.alloc hb1.size _) hb1.size _
    have hsr : Hid (((w1.alloc (.cells zero256 38)).setRow w1.heap.size (bytes (tab HX)).toArray).heap.size = w1.heap.size + 1) := by
      show _ = _
      rw [size_setRow]; simp
    have hszw1 := hb1.size
    generalize tab HX = tb at *
    clear hb1
    go_wp2_with (first | (refine wpList_store_row rfl 38 (.tmp 4) (.tmp 13) rfl w1.heap.size _ rfl rfl 38 _ hr0.out hsz1.out hsz2.out hba.out ?_) | (at_make; refine make_room _ rfl _ _ 40 rfl Tryd.underlying40 _ m rfl rfl ?c1 ?c2 ?_))
    case c1 => omega
    case c2 => omega
    intro w2 hown0 hb2
    try rw [hsr.out] at hown0
    try rw [hsr.out] at hb2
    have hr2 : Hid (Row w2 w1.heap.size 38 tb) := hr1.out.go hb2 (Nat.lt_succ_self _)
    have hbel2 : Hid (Below w.heap.size w w2) := hbf.out.trans (hb2.mono (by omega))
    have hszw1' : w.heap.size ≤ w1.heap.size + 1 := by omega
    have hsw2 : w1.heap.size + 1 ≤ w2.heap.size := by have := hb2.size; rw [hsr.out] at this; exact this
    have hown0h := Lib.hid hown0
    clear hown0 hb2
    go_wp2
    go_loopw [5, 21] (fun v i wr => ∃ k : Nat, k ≤ m ∧ i = .int .i64 k ∧ Hid (∀ i, i < 2 * k → fnd HX (l.getD i 0) < 16) ∧ wr.ownsRow (w1.heap.size + 1) 5 1 v k (bytes (unhexA (l.take (2 * k)))) ∧ Below (w1.heap.size + 1) w2 wr) (fun _ i _ => m - (intOf i).toNat)
    case atStart => exact ⟨0, Nat.zero_le _, rfl, fun i hi => absurd hi (by omega), hown0h.out, Below.refl _ _⟩
    case round =>
      obtain ⟨k, hk, rfl, hok, hown, hbel⟩ := hrel
      by_cases hlt : k < m
      · have hsm := hmh.out
        have hi0 : 2 * k < s.size := by omega
        have hi1 : 2 * k + 1 < s.size := by omega
        have hrow : Hid (Row wr w1.heap.size 38 tb) := hr2.out.go hbel (Nat.lt_succ_self _)
        have hc0 := hrow.out.cell (s[2 * k]).toNat (by rw [HLt.out]; exact UInt8.toNat_lt _)
        have hc1 := hrow.out.cell (s[2 * k + 1]).toNat (by rw [HLt.out]; exact UInt8.toNat_lt _)
        have hl0 : ((s[2 * k]).toNat : Int) < 256 := by have := UInt8.toNat_lt (s[2 * k]); omega
        have hl1 : ((s[2 * k + 1]).toNat : Int) < 256 := by have := UInt8.toNat_lt (s[2 * k + 1]); omega
        rw [HV.out] at hc0 hc1
        have hi0i : 2 * (k : Int) < (s.size : Int) := by omega
        have hi1i : 2 * (k : Int) + 1 < (s.size : Int) := by omega
        have hownh := Lib.hid hown
        have hszw := hbel.size
        have hkm : (k : Int) < (m : Int) := by omega
        have hb0 := Lib.hid (HB.out (2 * k) hi0)
        have hb1 := Lib.hid (HB.out (2 * k + 1) hi1)
        clear hown hsm
        have z1 : IntKind.i64.wrap (2 * (k : Int)) = 2 * (k : Int) := IntWalk.i64_in _ (by omega)
        have z2 : IntKind.i64.wrap (2 * (k : Int) + 1) = 2 * (k : Int) + 1 := IntWalk.i64_in _ (by omega)
        have z3 : (2 * (k : Int)).toNat = 2 * k := by omega
        have z4 : (2 * (k : Int) + 1).toNat = 2 * k + 1 := by omega
        have z5 : (0 : Int) ≤ 2 * (k : Int) := by omega
        have z6 : (0 : Int) ≤ 2 * (k : Int) + 1 := by omega
        by_cases f0 : fnd HX s[2 * k] < 16
        · have v0 : val HX s[2 * k] = fnd HX s[2 * k] := if_pos f0
          by_cases f1 : fnd HX s[2 * k + 1] < 16
          · have v1 : val HX s[2 * k + 1] = fnd HX s[2 * k + 1] := if_pos f1
            have hst := Lib.hid (HT.out k (by omega))
            rw [hb0.out, hb1.out] at hst
            have hok2 : Hid (∀ i, i < 2 * (k + 1) → fnd HX (l.getD i 0) < 16) := fun i hi => by
              by_cases e0 : i = 2 * k
              · rw [e0, hb0.out]; exact f0
              · by_cases e1 : i = 2 * k + 1
                · rw [e1, hb1.out]; exact f1
                · exact hok.out i (by omega)
            rw [v0] at hc0
            rw [v1] at hc1
            clear v0 v1 hb0 hb1 hok
            generalize fnd HX s[2 * k] = x at *
            generalize fnd HX s[2 * k + 1] = y at *
            have hor := Lib.hid (or_16 x y f0 f1)
            generalize UInt8.ofNat (x * 16 + y) = cc at *
            have g0 : ((x : Int) == 255) = false := by rw [beq_eq_false_iff_ne]; omega
            have g1 : ((y : Int) == 255) = false := by rw [beq_eq_false_iff_ne]; omega
            go_wp2_with fail
            go_quiet (fail)
            clear z1 z2
            have hownq : Hid ((wr.drewN nq).ownsRow (w1.heap.size + 1) 5 1 u5 k (bytes (unhexA (l.take (2 * k))))) := hownh.out
            have hbelq : Hid (Below (w1.heap.size + 1) w2 (wr.drewN nq)) := Below.drewN hbel nq
            have hszq : w1.heap.size + 1 ≤ (wr.drewN nq).heap.size := by have : (wr.drewN nq).heap.size = wr.heap.size := rfl; omega
            generalize wr.drewN nq = wq at *
            go_wp2_with (at_builtin; refine append_byte rfl (.tmp 43) (.tmp 48) 40 rfl Tryd.underlying40 _ (w1.heap.size + 1) _ k (unhexA (l.take (2 * k))) cc rfl rfl hownq.out w2 hbelq.out ?c1 ?c2 ?c3 ?_)
            case c1 => omega
            case c2 => omega
            case c3 =>
              have h3 := hor.out
              rw [IntKind.wrap_u8'] at h3
              first | exact h3 | (rw [show (x : Int) * 16 % 256 = (x : Int) * 16 by omega] at h3; exact h3) | exact hor.out
            intro v' w3 hown3 hb3 hsp
            clear hsp
            go_wp2
            go_roundw
            case rel => exact ⟨k + 1, by omega, by go_num, hok2, by rw [hst.out]; exact hown3, hb3⟩
            case measure => simp [intOf]; omega
          · have v1 : val HX s[2 * k + 1] = 255 := if_neg f1
            have hfin : Hid (∀ q, Po (.returned (.tuple #[.string ⟨#[]⟩, .int .i64 3])) (wr.drewN q)) := fun q => HF2.out _ (fun _ => ⟨2 * k + 1, hi1, by rw [hb1.out]; exact f1⟩) (hbel2.out.trans (Below.drewN (hbel.mono hszw1') q))
            rw [v0] at hc0
            rw [v1] at hc1
            clear v0 v1 hb0 hb1 hok f1
            generalize fnd HX s[2 * k] = x at *
            have g0 : ((x : Int) == 255) = false := by rw [beq_eq_false_iff_ne]; omega
            go_wp2_with fail
            go_quiet (fail)
            clear z1 z2
            go_wp2
            exact hfin.out nq
        · have v0 : val HX s[2 * k] = 255 := if_neg f0
          have hfin : Hid (∀ q, Po (.returned (.tuple #[.string ⟨#[]⟩, .int .i64 3])) (wr.drewN q)) := fun q => HF2.out _ (fun _ => ⟨2 * k, hi0, by rw [hb0.out]; exact f0⟩) (hbel2.out.trans (Below.drewN (hbel.mono hszw1') q))
          rw [v0] at hc0
          clear v0 hb0 hb1 hok f0
          generalize val HX s[2 * k + 1] = y at *
          go_wp2_with fail
          go_quiet (fail)
          clear z1 z2
          go_wp2
          exact hfin.out nq
      · obtain rfl : k = m := by omega
        have hll := Lib.hid (HL.out k (by have := hmh.out; omega))
        obtain ⟨a2, cap2, rfl, hq1, hq2, hrb⟩ := rb_of_row hown
        have hcv := conv_rb hrb k hll.out cap2
        have hfin := Lib.hid (HF1.out k wr hmh.out hok.out (hbel2.out.trans (hbel.mono hszw1')))
        generalize unhexA (l.take (2 * k)) = r at *
        clear hown hrb hq1 hq2
        go_wp2
        exact hfin.out
  · have hevi : ((s.size : Int) % 2 != 0) = true := by rw [bne_iff_ne]; omega
    have hfin := Lib.hid (HF2.out w (fun h => absurd h hev) (Below.refl _ _))
    clear hev
    go_enter Tryd.func11, Tryd.ntmps11
    go_wp2
    exact hfin.out
end Go.Proofs.YtaapmndfefjdcaaDoor
