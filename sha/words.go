package sha

import (
	"slices"
	"sync"
)

// What the start of SHA-512/256 is made from.
const (
	shortText = "SHA-512/256"
	shortMask = 0xa5a5a5a5a5a5a5a5
)

// wordSet is the words that no sum changes: K, and where SHA-512 and SHA-512/256 start.
type wordSet struct {
	k     [rounds]uint64
	start [8]uint64
	short [8]uint64
}

var words = sync.OnceValue(makeWords)

// K answers the cube words of the first 80 primes.
func K() [80]uint64 { return words().k }

// Start answers the start of SHA-512.
func Start() [8]uint64 { return words().start }

// StartShort answers the start of SHA-512/256.
func StartShort() [8]uint64 { return words().short }

func makeWords() wordSet {
	var w wordSet
	primes := firstPrimes(rounds)
	for i, p := range primes {
		w.k[i] = Cube(p)
	}
	for i, p := range primes[:len(w.start)] {
		w.start[i] = Root(p)
	}
	w.short = shortStart(&w.k, w.start)
	return w
}

func shortStart(k *[rounds]uint64, start [8]uint64) [8]uint64 {
	for i := range start {
		start[i] ^= shortMask
	}
	s := sum(k, start, [][]byte{[]byte(shortText)})
	var out [8]uint64
	for i := range out {
		out[i] = word([8]byte(s[8*i:]))
	}
	return out
}

func firstPrimes(n int) []uint64 {
	var out []uint64
	for c := uint64(2); len(out) < n; c++ {
		parted := slices.ContainsFunc(out, func(p uint64) bool { return c%p == 0 })
		if !parted {
			out = append(out, c)
		}
	}
	return out
}
