package ratchet

import (
	"bytes"
	"math"
	"slices"

	"pawl/chain"
	"pawl/wire"
)

const anyLength = math.MaxInt // of a key: the format has no bound for it

// Secrets returns the secret keys of s: Own, Root and those of both chains, as far as it has them, and the keys that were skipped.
func Secrets(s State) [][]byte {
	var secrets [][]byte
	for _, key := range [][]byte{s.Own, s.Root, s.Send.Key, s.Take.Key} {
		if len(key) > 0 {
			secrets = append(secrets, slices.Clone(key))
		}
	}
	for _, x := range s.Skips.All() {
		secrets = append(secrets, x.Key)
	}
	return secrets
}

// Same reports whether a and b are equal in all fields.
func Same(a, b State) bool {
	sameChain := func(x, y chain.Chain) bool { return x.N == y.N && bytes.Equal(x.Key, y.Key) }
	sameSkip := func(x, y chain.Skip) bool {
		return bytes.Equal(x.Of, y.Of) && x.N == y.N && bytes.Equal(x.Key, y.Key)
	}
	return bytes.Equal(a.Own, b.Own) &&
		bytes.Equal(a.Their, b.Their) &&
		bytes.Equal(a.Root, b.Root) &&
		sameChain(a.Send, b.Send) &&
		sameChain(a.Take, b.Take) &&
		a.Prev == b.Prev &&
		slices.EqualFunc(a.Skips.All(), b.Skips.All(), sameSkip)
}

// Lay writes s.
func Lay(w *wire.Writer, s State) {
	w.Bytes(s.Own).Bytes(s.Their).Bytes(s.Root)
	for _, c := range []chain.Chain{s.Send, s.Take} {
		w.Bytes(c.Key).Num(uint64(c.N), numSize)
	}
	w.Num(uint64(s.Prev), numSize)
	s.Skips.Lay(w)
}

// Read returns the state that Lay has written so, or false if there is none.
func Read(r *wire.Reader) (State, bool) {
	s := State{Own: r.Bytes(anyLength), Their: r.Bytes(anyLength), Root: r.Bytes(anyLength)}
	for _, c := range []*chain.Chain{&s.Send, &s.Take} {
		c.Key = r.Bytes(anyLength)
		c.N = uint32(r.Num(numSize))
	}
	s.Prev = uint32(r.Num(numSize))
	skips, ok := chain.Read(r)
	if !ok {
		return State{}, false
	}
	s.Skips = skips
	return s, true
}
