/- The numbers of the cached sectors, sorted. -/
import Derived.Test.YtphifbhgocjhcaaFa
import Derived.Test.YtphifbhgocjhcaaShelf
namespace Go.Proofs.Ytphifbhgocjhcaa
set_option linter.unusedSimpArgs false
set_option linter.unusedVariables false
open Go.RowKit Go.Maps Go.Sort Go.Shelf

/-- The slice (A, n, c) reads, in w, as the numbers l, and lies from block base on. -/
def Ni (w : World) (base : Nat) (A : Option Addr) (n c : Nat) (l : List Nat) : Prop :=
  l.length = n ∧ n ≤ c ∧ (0 < n → ∃ ad, A = some ad ∧ base ≤ ad.block ∧ ad.block < w.heap.size ∧ ∀ (j u : Nat), l[j]? = some u → w.cell? (ad.add j) = some (.int .i64 (u : Int)))
theorem Ni.nil (w : World) (base c : Nat) (A : Option Addr) : Ni w base A 0 c [] := ⟨rfl, Nat.zero_le _, fun h => absurd h (by omega)⟩
theorem Ni.kp {may : Nat → Prop} {w w' : World} {base : Nat} {A : Option Addr} {n c : Nat} {l : List Nat} (h : Ni w base A n c l) (hk : Kp may w w') (hm : ∀ k, may k → k < base) : Ni w' base A n c l :=
  ⟨h.1, h.2.1, fun hn => by
    obtain ⟨ad, e, hb, ht, hc⟩ := h.2.2 hn
    exact ⟨ad, e, hb, Nat.lt_of_lt_of_le ht hk.size, fun j u hu => (hk.cell (p := ad.add j) (by rw [add_block]; exact ht) (fun h => by have := hm _ h; rw [add_block] at this; omega)).trans (hc j u hu)⟩⟩
theorem Ni.lower {w : World} {base base' : Nat} {A : Option Addr} {n c : Nat} {l : List Nat} (h : Ni w base A n c l) (hb : base' ≤ base) : Ni w base' A n c l :=
  ⟨h.1, h.2.1, fun hn => by
    obtain ⟨ad, e, hb, ht, hc⟩ := h.2.2 hn
    exact ⟨ad, e, by omega, ht, hc⟩⟩
theorem Ni.at_ {w : World} {base : Nat} {A : Option Addr} {n c : Nat} {l : List Nat} (h : Ni w base A n c l) {k : Nat} (hk : k < n) : ∃ ad u, A = some ad ∧ l[k]? = some u ∧ w.cell? (ad.add k) = some (.int .i64 (u : Int)) := by
  obtain ⟨ad, e, hb, ht, hc⟩ := h.2.2 (by omega)
  have hl : k < l.length := by have := h.1; omega
  exact ⟨ad, l[k], e, List.getElem?_eq_getElem hl, hc k _ (List.getElem?_eq_getElem hl)⟩

/-- slices.Sort's two contracts at this dump. -/
theorem sortsA (k : Nat) : AnyZI.SortsIn Try.prog Try.sortedA_ren Fence.wide k :=
  ⟨fun blk off cap ss W hH hblk hsz => callsIn_wide.2 (AnyM.slices_Sort_int Try.sortA blk off cap ss W hH hblk hsz),
   fun p cap W => callsIn_wide.2 (AnyM.slices_Sort_int_none Try.sortA p cap W)⟩

theorem ni_of_row {w : World} {base : Nat} {v : Value} {l : List Nat} (h : w.ownsRow base 3 1 v l.length (l.map fun j : Nat => encZ (j : Int))) : ∃ A c, v = .slice A l.length c ∧ Ni w base A l.length c l := by
  rcases h.2 with ⟨rfl, hn⟩ | ⟨g, cap, cur, rfl, hb, hg, hc, _, _, _⟩
  · rw [hn]
    refine ⟨none, 0, rfl, ?_⟩
    rw [List.eq_nil_of_length_eq_zero hn]
    exact Ni.nil _ _ _ _
  · refine ⟨some ⟨g, 0, none⟩, cap, rfl, rfl, hc, fun hn => ⟨_, rfl, hb, (Array.getElem?_eq_some_iff.1 hg).1, fun j u hu => ?_⟩⟩
    exact World.ownsRow.cells h (g := g) rfl j (encZ (u : Int)) (by simp [hu])

section
variable {w : World} {p s m : Nat} {B : List UInt8} {C : Ca}
set_option maxHeartbeats 1000000 in
theorem cached_any (h : Dk w p s m B C) :
    Calls Try.prog 13 #[ptr p] w fun e w' => ∃ A c, e = .returned (.slice A (idx 0 C).length c) ∧ Ni w' w.heap.size A (idx 0 C).length c (idx 0 C) ∧ Below w.heap.size w w' := by
  obtain ⟨k, hown⟩ := h.hm
  have h1 := h.h1
  have hmax : Maps.size (dat sec C) ≤ maxLen := by rw [size_dat]; have := idx_len C 0; simp only [maxLen]; omega
  have hbytes : Maps.size (dat sec C) * 8 ≤ 140737488355328 := by rw [size_dat]; have := idx_len C 0; omega
  refine (callsIn_wide (n := 6)).1 ?_
  have hbl := hown.lt
  have hseq : SeqGives Fence.wide 2 Try.prog 43 #[.pointer (some ⟨w.heap.size, 0, none⟩)] encZ (fun ss => ss.Perm (intKeys (dat sec C))) (Maps.size (dat sec C)) (w.alloc (.cells #[.map (some m)] 59)) :=
    AnyZI.keys_gives (ρ := Try.keysA_ren) { Try.keysA with } Fence.wide _ trivial rfl (by omega) w.heap.size m k (dat sec C) _ (by simp) (by simp) (by
      obtain ⟨es, clock, hb, Ft, hs, hD⟩ := hown
      exact ⟨es, clock, (Below.heap_alloc _ _ m hbl).trans hb, Ft, hs, hD⟩)
  have cK : ∀ mb W, CallsIn Fence.wide 5 Try.prog 34 #[.map mb] W fun e w' => e = .returned (.func (.func 43) #[] #[.pointer (some ⟨W.heap.size, 0, none⟩)]) ∧ w' = W.alloc (.cells #[.map mb] 59) := fun mb W => AnyZI.keys_in Try.keysA Fence.wide 5 trivial rfl mb W
  have cS := AnyZI.sorted_in Try.sortedA Fence.wide 5 trivial trivial trivial trivial rfl (by omega) (sortsA _) (enters_of Try.func42 (by kernel_rfl) rfl) 43 #[.pointer (some ⟨w.heap.size, 0, none⟩)] trivial (enters_of Try.func43 (by kernel_rfl) rfl) _ _ hmax hbytes _ hseq
  change CallsIn _ _ Try.prog 33 _ _ _ at cS
  have cM : CallsIn Fence.wide 5 Try.prog 31 #[ptr p] w fun e w' => e = .returned (.bool true) ∧ w' = w := callsIn_wide.2 (made_any h)
  have hfK : Fence.wide.fn 34 := trivial
  have hfS : Fence.wide.fn 33 := trivial
  have hfM : Fence.wide.fn 31 := trivial
  obtain ⟨cap, hc, hc2, c0, c1⟩ := h.c0
  have HH := Lib.hid h
  clear h
  refine callsIn_of_wp Try.func13 rfl trivial ?_ rfl
  simp only [Try.ntmps13, List.size_toArray, List.length_cons, List.length_nil, Nat.reduceAdd, Nat.reduceSub, Array.replicate_succ, Array.replicate_zero, List.push_toArray, List.append_toArray, List.nil_append, List.cons_append]
  gi_wp2_with (first
    | (gi_at_call 31; refine cM.mono ?_; rintro e w' ⟨rfl, rfl⟩)
    | (gi_at_call 34; refine (cK _ _).mono ?_; rintro e w' ⟨rfl, rfl⟩)
    | (gi_at_call 33; refine cS.mono ?_; rintro e w' ⟨v, ss, rfl, hS, hrow, hnil, hb⟩))
  go_ret
  have hsort : ss.mergeSort (fun x y => decide (x ≤ y)) = (idx 0 C).map fun j : Nat => (j : Int) := by
    rw [mergeSort_of_perm_i hS, keys_dat, sort_rising _ (idx_rising C 0)]
  have hlen : ss.length = (idx 0 C).length := by rw [hS.length_eq, keys_dat, List.length_map]
  rw [hsort, hlen, List.map_map] at hrow
  obtain ⟨A, c, rfl, hN⟩ := ni_of_row hrow
  exact ⟨A, c, rfl, hN.lower (by simp), ((Below.refl _ _).alloc (Nat.le_refl _) _).trans (hb.mono (by simp))⟩

theorem cached_nil (w : World) : Calls Try.prog 13 #[.pointer none] w fun e w' => e = .returned (.slice none 0 0) ∧ w' = w := by
  go_enter Try.func13, Try.ntmps13
  go_wp2_with (go_at_call 31; refine (made_nil _).mono ?_; rintro e w' ⟨rfl, rfl⟩)
  go_ret
  exact ⟨rfl, rfl⟩
end
end Go.Proofs.Ytphifbhgocjhcaa
