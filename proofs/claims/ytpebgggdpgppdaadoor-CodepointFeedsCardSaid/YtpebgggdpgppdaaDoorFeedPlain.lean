/-
  Helper, plain: an input that goes on where a feeder stands.
-/
import Derived.Test.YtpebgggdpgppdaaDoorFeedDet
import Derived.Test.YtpebgggdpgppdaaDoorRefExt
import Derived.Test.YtpebgggdpgppdaaDoorScanJoin
namespace Go.Proofs.YtpebgggdpgppdaaDoor
open Go.RowKit
set_option linter.unusedVariables false

theorem resume (T t : ByteArray) : ∀ (n p : Nat), p ≤ T.size → T.size - p ≤ n → scalars (T ++ t) p = scalars T p ++ scalars (T ++ t) (stop T p) ∧ stop (T ++ t) p = stop (T ++ t) (stop T p) := by
  intro n
  induction n with
  | zero =>
    intro p hp hn
    have h := scalars_stop T p (by rw [sq_end T p (by omega)])
    rw [h.1, h.2]; exact ⟨rfl, rfl⟩
  | succ n ih =>
    intro p hp hn
    by_cases g : (sq T p).2 = 0
    · have h := scalars_stop T p g
      rw [h.1, h.2]; exact ⟨rfl, rfl⟩
    · have h1 := scalars_go T p hp g
      have l1 := sq_le T p hp
      have h2 := scalars_go (T ++ t) p (by rw [ByteArray.size_append]; omega) (by rw [sq_app T t p hp g]; exact g)
      rw [sq_app T t p hp g] at h2
      have hi := ih (p + (sq T p).2) l1.1 (by omega)
      rw [h2.1, h2.2, h1.1, h1.2, hi.1, hi.2]
      exact ⟨rfl, rfl⟩
theorem nat_inj' : ∀ (x y : List UInt8), x.map (·.toNat) = y.map (·.toNat) → x = y
  | [], [], _ => rfl
  | [], _ :: _, h => by simp at h
  | _ :: _, [], h => by simp at h
  | a :: x, b :: y, h => by
    rw [List.map_cons, List.map_cons, List.cons.injEq] at h
    rw [UInt8.toNat_inj.1 h.1, nat_inj' x y h.2]
/-- what the feeder holds behind an input -/
def tail (I : ByteArray) : List UInt8 := I.data.toList.drop (stop I 0)
theorem split_at (I : ByteArray) (part : ByteArray) : ∃ A : ByteArray, A.size = stop I 0 ∧ I ++ part = A ++ txt (tail I) part ∧ I.size = A.size + (tail I).length := by
  have hs := (stop_le I 0 (Nat.zero_le _)).2.1
  have hl : I.data.toList.length = I.size := by simp
  refine ⟨⟨(I.data.toList.take (stop I 0)).toArray⟩, ?_, ?_, ?_⟩
  · show (I.data.toList.take (stop I 0)).length = _
    rw [List.length_take]; omega
  · apply ByteArray.ext
    unfold txt tail
    rw [ByteArray.data_append, ByteArray.data_append, ByteArray.data_append]
    apply Array.toList_inj.1
    simp only [Array.toList_append]
    rw [← List.append_assoc, List.take_append_drop]
  · show I.size = (I.data.toList.take (stop I 0)).length + _
    unfold tail
    rw [List.length_take, List.length_drop]; omega
theorem go_on (I part : ByteArray) : scalars (I ++ part) 0 = scalars I 0 ++ scalars (txt (tail I) part) 0 ∧ stop (I ++ part) 0 = stop I 0 + stop (txt (tail I) part) 0 ∧
    tail (I ++ part) = nxt (tail I) part ∧ bytesFrom (I ++ part) (stop (I ++ part) 0) = bytesFrom (txt (tail I) part) (stop (txt (tail I) part) 0) ∧ (I ++ part).size = stop I 0 + (txt (tail I) part).size := by
  obtain ⟨A, hA, hI, hsz⟩ := split_at I part
  have h := resume I part _ 0 (Nat.zero_le _) (Nat.le_refl _)
  have h2 := shift_app A (txt (tail I) part) 0 (Nat.zero_le _)
  rw [Nat.add_zero, ← hI, hA] at h2
  rw [h2.1, h2.2] at h
  have e4 : bytesFrom (I ++ part) (stop (I ++ part) 0) = bytesFrom (txt (tail I) part) (stop (txt (tail I) part) 0) := by
    rw [h.2, ← hA, hI]; exact from_app2 A _ _
  refine ⟨h.1, h.2, ?_, e4, ?_⟩
  · unfold bytesFrom at e4
    exact nat_inj' _ _ e4
  · rw [hI, ByteArray.size_append, hA]
theorem ext_iff (I part : ByteArray) : extP (I ++ part) ↔ okF (tail I) part := by
  obtain ⟨h1, h2, h3, h4, h5⟩ := go_on I part
  unfold extP okF
  rw [h4, h2, h5]
  constructor
  · rintro (h | h)
    · exact .inl (by omega)
    · exact .inr h
  · rintro (h | h)
    · exact .inl (by omega)
    · exact .inr h
theorem tail_zero (I part : ByteArray) : stop (I ++ part) 0 = (I ++ part).size ↔ (nxt (tail I) part).length = 0 := by
  have e := (go_on I part).2.2.1
  rw [← e]
  unfold tail
  have hl : (I ++ part).data.toList.length = (I ++ part).size := by simp
  have := (stop_le (I ++ part) 0 (Nat.zero_le _)).2.1
  rw [List.length_drop]; omega
end Go.Proofs.YtpebgggdpgppdaaDoor
