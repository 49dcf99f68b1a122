/-
  Helper: the walks of the reference of layer 1: begins at every list, At, Decode, Valid, Extensible.
-/
import Derived.Test.YtpebgggdpgppdaaDoorRefBegins2
import Derived.Test.YtpebgggdpgppdaaDoorRefBegins3
import Derived.Test.YtpebgggdpgppdaaDoorRefBegins4
import Derived.Test.YtpebgggdpgppdaaDoorCpCheck
import Derived.Lib.ConvBytes
import Derived.IntWalk
namespace Go.Proofs.YtpebgggdpgppdaaDoor
open Go.RowKit
set_option linter.unusedVariables false

theorem begins_one (c : Nat) (hc : c < 128) : begins [c] = (c, 1) := by simp [begins, hc]
theorem begins_zero (xs : List Nat) (c : Nat) (hxc : xs.getD 0 0 = c) (hm : 1 ≤ xs.length) (hc : (c < 128 ∧ 1 < xs.length) ∨ (128 ≤ c ∧ c < 192) ∨ 248 ≤ c) : begins xs = (0, 0) := by
  have hxs : xs = c :: xs.drop 1 := by have := drop_getD xs 0 (by omega); rw [List.drop_zero, hxc] at this; exact this
  have hlen : (xs.drop 1).length = xs.length - 1 := by simp
  rw [hxs, begins, if_neg (by omega), lim1 c (by omega), if_pos (by show 0 < _; omega)]

theorem refBegins_any (b off cap : Nat) (xs : List Nat) (w : World) (hx : ∀ x ∈ xs, x < 256) (hm : 1 ≤ xs.length) (hm2 : xs.length ≤ 1000000) (hB : Bs w b off xs) :
    Calls Tryd.prog 16 #[.slice (some ⟨b, off, none⟩) xs.length cap] w fun e w' => e = .returned (.tuple #[.int .i64 ((begins xs).1 : Nat), .int .i64 ((begins xs).2 : Nat)]) ∧ w = w' := by
  have h0 := hB 0 (by omega)
  have hl := getD_lt xs hx 0
  rw [Nat.add_zero] at h0
  obtain ⟨c, hc⟩ : ∃ c, xs.getD 0 0 = c := ⟨_, rfl⟩
  rw [hc] at h0 hl
  by_cases a1 : c < 128
  · by_cases a2 : xs.length = 1
    · have e : xs = [c] := by
        match xs, a2, hc with
        | [y], _, hc => simp at hc; rw [hc]
      rw [e, begins_one c a1]
      exact begins_ascii b off cap c w a1 h0
    · rw [begins_zero xs c hc hm (.inl ⟨a1, by omega⟩)]
      exact begins_none b off cap c xs.length w hm hm2 h0 (.inl ⟨a1, by omega⟩)
  · by_cases a3 : c < 192
    · rw [begins_zero xs c hc hm (.inr (.inl ⟨by omega, a3⟩))]
      exact begins_none b off cap c xs.length w hm hm2 h0 (.inr (.inl ⟨by omega, a3⟩))
    · by_cases a4 : c < 224
      · exact begins_2 b off cap xs c w ⟨by omega, a4⟩ hc hx hm hm2 hB
      · by_cases a5 : c < 240
        · exact begins_3 b off cap xs c w ⟨by omega, a5⟩ hc hx hm hm2 hB
        · by_cases a6 : c < 248
          · exact begins_4 b off cap xs c w ⟨by omega, a6⟩ hc hx hm hm2 hB
          · rw [begins_zero xs c hc hm (.inr (.inr (by omega)))]
            exact begins_none b off cap c xs.length w hm hm2 h0 (.inr (.inr ⟨by omega, hl⟩))

/-- a string as a slice of bytes: what a walk needs of the world behind the conversion -/
theorem conv_facts (w : World) (s : ByteArray) : s.size ≤ grownCap w s.size 0 5 ∧ Below w.heap.size w (Lib.bytesWorld w 5 s) ∧ (Lib.bytesWorld w 5 s).heap.size = w.heap.size + 1 ∧
    ∀ j, j < s.size → (Lib.bytesWorld w 5 s).cell? ⟨w.heap.size, j, none⟩ = some (.int .u8 (((bytesFrom s 0).getD j 0 : Nat) : Int)) := by
  refine ⟨?_, ⟨?_, ?_, ?_, ?_, fun k hk => Lib.bytesWorld_at_old w _ s k hk⟩, Lib.bytesWorld_size w _ s, fun j hj => ?_⟩
  · exact grownCap_ge _ _ _ _
  · rfl
  · rfl
  · rfl
  · rw [Lib.bytesWorld_size]; omega
  · rw [Lib.bytesWorld_cell w _ s j hj]
    have : (bytesFrom s 0).getD j 0 = (s.data.toList.getD j 0).toNat := by
      unfold bytesFrom
      rw [List.drop_zero, List.getD_eq_getElem?_getD, List.getD_eq_getElem?_getD, List.getElem?_map, List.getElem?_eq_getElem (by simpa using hj)]; rfl
    rw [this]

set_option maxHeartbeats 1000000 in
set_option maxRecDepth 100000 in
theorem refAt_any (s : ByteArray) (p : Nat) (w : World) (hs : s.size ≤ 100000) (hp : p ≤ s.size) :
    Calls Tryd.prog 17 #[.string s, .int .i64 p] w fun e w' => e = .returned (.tuple #[.int .i64 ((sq s p).1 : Nat), .int .i64 ((sq s p).2 : Nat)]) ∧ Below w.heap.size w w' := by
  obtain ⟨hcap, hbw, hsz, hcell⟩ := conv_facts w s
  have hcv := Lib.run_convert_string_bytes (P := Tryd.prog) w 9 42 5 s Tryd.underlying9 Tryd.underlying42 Tryd.underlying5
  generalize grownCap w s.size 0 5 = cap at *
  generalize Lib.bytesWorld w 5 s = w1 at *
  have HC := Lib.hid hcell
  clear hcell hsz
  have hdrop : Hid (bytesFrom s p = (bytesFrom s 0).drop p) := by show _ = _; unfold bytesFrom; rw [List.drop_zero, List.map_drop]
  have hlen := bytesFrom_len s p
  have hlt := Lib.hid (bytes_lt s p)
  have hsq : Hid (sq s p = tryAt (bytesFrom s p) 4 1) := (tryAt_seq _).symm
  have HB : Hid (∀ k, k ≤ s.size - p → Bs w1 w.heap.size p ((bytesFrom s p).take k)) := fun k hk i hi => by
    rw [List.length_take, hlen] at hi
    rw [HC.out (p + i) (by omega), hdrop.out]
    rw [List.getD_eq_getElem?_getD, List.getD_eq_getElem?_getD, List.getElem?_take_of_lt (by omega), List.getElem?_drop]
  generalize sq s p = r at *
  generalize bytesFrom s p = l at *
  clear HC hdrop
  go_enter Tryd.func17, Tryd.ntmps17
  go_wp2_with fail
  clear hcv
  go_loop [7] (fun c => ∃ k : Nat, 1 ≤ k ∧ k ≤ 5 ∧ c = .int .i64 k ∧ Hid (r = tryAt l (5 - k) k)) (fun c => 5 - (intOf c).toNat)
  case atStart => exact ⟨1, Nat.le_refl _, by omega, rfl, hsq.out⟩
  case round =>
    obtain ⟨k, h1, h2, rfl, HR⟩ := hrel
    by_cases hk4 : k ≤ 4
    · by_cases hpk : p + k ≤ s.size
      · have hlk : (l.take k).length = k := by rw [List.length_take]; omega
        have hcon := refBegins_any w.heap.size p (cap - p) (l.take k) w1 (fun x hx => hlt.out x (List.mem_of_mem_take hx)) (by omega) (by omega) (HB.out k (by omega))
        rw [hlk] at hcon
        have HCON := Lib.hid hcon
        have hstep : Hid (r = if (begins (l.take k)).2 = k then begins (l.take k) else tryAt l (5 - (k + 1)) (k + 1)) := by
          rw [HR.out, show 5 - k = 5 - (k + 1) + 1 from by omega]
          exact try_step l _ k hk4 (by omega)
        clear hcon hlk HR HB
        generalize begins (l.take k) = g at *
        go_wp2_with fail
        refine HCON.out.mono ?_
        rintro e w2 ⟨rfl, rfl⟩
        by_cases hg : g.2 = k
        · have hb : ((g.2 : Int) == (k : Int)) = true := by rw [beq_iff_eq]; omega
          have hres : Hid (r = g) := by rw [hstep.out, if_pos hg]; exact rfl
          clear hg hstep
          go_wp2_with fail
          go_ret2
          rw [hres.out]
          exact ⟨rfl, hbw⟩
        · have hb : ((g.2 : Int) == (k : Int)) = false := by rw [beq_eq_false_iff_ne]; omega
          have hres : Hid (r = tryAt l (5 - (k + 1)) (k + 1)) := by rw [hstep.out, if_neg hg]; exact rfl
          clear hg hstep
          go_wp2_with fail
          go_round
          case rel => exact ⟨k + 1, by omega, by omega, by go_num, hres⟩
          case measure => simp [intOf]; omega
      · have hres : Hid (r = (0, 0)) := by rw [HR.out]; exact try_past l _ k (by omega)
        clear HR HB
        go_wp2_with fail
        go_ret2
        rw [hres.out]
        exact ⟨rfl, hbw⟩
    · obtain rfl : k = 5 := by omega
      have hres : Hid (r = (0, 0)) := HR.out
      clear HR HB
      go_wp2_with fail
      go_ret2
      rw [hres.out]
      exact ⟨rfl, hbw⟩
end Go.Proofs.YtpebgggdpgppdaaDoor
