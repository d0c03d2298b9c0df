package prim

import (
	"slices"

	"pawl/api"
	"pawl/term"
)

// terms is the suite of the mode Terms: what it returns stands for terms of the table.
type terms struct {
	table *term.Table
}

func (s terms) fresh(n int) []byte { return s.put(term.Term{Kind: term.Atom, N: n}) }

func (s terms) public(secret []byte) []byte {
	return s.put(term.Term{Kind: term.Public, Of: s.read(secret)})
}

func (s terms) signKey(secret []byte) []byte { return s.public(secret) }

func (s terms) agree(secret, public []byte) []byte {
	both := s.read(secret, public)
	return term.Bytes(s.table.Agree(both[0], both[1]))
}

func (s terms) derive(key []byte, with [][]byte, label string, n int) [][]byte {
	of := s.read(slices.Concat([][]byte{key}, with)...)
	keys := make([][]byte, n)
	for i := range keys {
		keys[i] = s.put(term.Term{Kind: term.Derive, Of: of, Text: label, N: i})
	}
	return keys
}

func (s terms) seal(key, with, text []byte) []byte {
	return s.put(term.Term{Kind: term.Sealed, Of: s.read(key), Text: term.Mark(with) + term.Mark(text)})
}

func (s terms) open(key, with, sealed []byte) ([]byte, bool) {
	box, of, ok := s.get(term.Sealed, sealed)
	by, known := s.find(key)
	if len(sealed) != Size || !ok || !known || of != by {
		return nil, false
	}
	parts, e := term.Parts(box.Text)
	if e != api.OK || len(parts) != 2 || parts[0] != string(with) {
		return nil, false
	}
	return []byte(parts[1]), true
}

func (s terms) sign(secret, msg []byte) []byte {
	sig := make([]byte, SigSize)
	copy(sig, s.put(term.Term{Kind: term.Signed, Of: s.read(secret), Text: string(msg)}))
	return sig
}

func (s terms) check(public, msg, sig []byte) bool {
	signed, by, ok := s.get(term.Signed, sig)
	_, of, known := s.get(term.Public, public)
	return len(sig) == SigSize && ok && known && by == of && signed.Text == string(msg)
}

func (s terms) name(marks string) []byte { return s.put(term.Term{Kind: term.Raw, Text: marks}) }

func (s terms) put(t term.Term) []byte { return term.Bytes(s.table.Put(t)) }

// read returns the indices of the terms for which the keys stand.
func (s terms) read(keys ...[]byte) []int {
	of := make([]int, len(keys))
	for i, k := range keys {
		of[i] = s.table.Read(k)
	}
	return of
}

// find returns what read would, or false where read would append a term: of a new one nothing is made yet.
func (s terms) find(key []byte) (int, bool) {
	if i, ok := s.table.Place(key); ok {
		return i, true
	}
	return s.table.Find(term.Term{Kind: term.Raw, Text: string(key)})
}

// get returns the term of that kind for which p stands, and the one index it is made of, or false if there is no such term.
func (s terms) get(kind byte, p []byte) (term.Term, int, bool) {
	i, ok := s.table.Place(p)
	if !ok {
		return term.Term{}, 0, false
	}
	t, _ := s.table.Get(i)
	if t.Kind != kind || len(t.Of) != 1 {
		return term.Term{}, 0, false
	}
	return t, t.Of[0], true
}
