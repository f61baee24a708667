package trace_test

import (
	"slices"
	"testing"

	"herald/api"
)

// allows is how a log begins in which the end to which the sender's frames go allows
// so many streams, acknowledged.
func allows(n int64) []api.Entry {
	return []api.Entry{s(list()), g(list(param(3, n))), s(acks()), g(acks())}
}

// TestRequestsAtOnce: at and just above what is allowed.
func TestRequestsAtOnce(t *testing.T) {
	for n := range int64(4) {
		l := allows(n)
		for i := range n {
			l = append(l, s(head(2*i+1, (ends*int(i)%2)|whole)))
		}
		next := 2*n + 1
		wantBoth(t, true, 0, l...)
		wantBoth(t, true, refused, append(l, s(head(next, whole)))...)
		wantBoth(t, true, refused, append(l, s(head(next, ends|whole)))...)
		if n == 0 {
			continue
		}
		// One that ends makes room, however it ends.
		wantBoth(t, true, 0, append(l, g(head(1, ends|whole)), s(bytes(1, ends, 0)), s(head(next, whole)))...)
		wantBoth(t, true, 0, append(l, s(resets(1)), s(head(next, whole)))...)
		wantBoth(t, true, 0, append(l, g(resets(1)), s(head(next, whole)))...)
		wantBoth(t, true, refused, append(l, s(resets(1)), s(head(next, whole)), s(head(next+2, whole)))...)
		// HEADERS of one that counts already are no new one.
		wantBoth(t, true, 0, append(l, g(head(1, whole)), g(head(1, whole)))...)
		// Half closed ones count.
		wantBoth(t, true, refused, append(l, g(head(1, ends|whole)), s(head(next, whole)))...)
		// Of what is skipped nothing counts.
		wantBoth(t, true, 0, append(l[:len(l)-1], s(head(next+100, whole)))...)
	}
}

// TestPushesAtOnce: promised ones don't count till their HEADERS, and those that end
// with them never do.
func TestPushesAtOnce(t *testing.T) {
	for n := range int64(4) {
		l := append(allows(n), g(head(1, ends|whole)))
		for i := range n + 3 {
			l = append(l, s(promises(1, 2*i+2)))
		}
		for i := range n {
			l = append(l, s(head(2*i+2, whole)))
		}
		next := 2*n + 2
		wantBoth(t, false, 0, l...)
		wantBoth(t, false, refused, append(l, s(head(next, whole)))...)
		wantBoth(t, false, 0, append(l, s(head(next, ends|whole)))...)
		// What the client has open is not of these.
		wantBoth(t, false, 0, append(l, g(head(3, whole)), g(head(5, whole)))...)
		wantBoth(t, false, 0, append(l, s(head(1, whole)))...)
		if n == 0 {
			continue
		}
		wantBoth(t, false, 0, append(l, s(bytes(2, ends, 0)), s(head(next, whole)))...)
		wantBoth(t, false, 0, append(l, s(resets(2)), s(head(next, whole)))...)
		wantBoth(t, false, 0, append(l, g(resets(2)), s(head(next, whole)))...)
		wantBoth(t, false, refused, append(l, g(resets(next)), s(head(next+2, whole)))...)
		wantBoth(t, false, 0, append(l, s(head(2, whole)))...)
	}
}

// TestStreamsInForce: what is allowed holds from its acknowledgement on, and takes
// nothing from those that are open.
func TestStreamsInForce(t *testing.T) {
	l := []api.Entry{s(list()), g(list(param(3, 1)))}
	l = append(l, s(head(1, whole)), s(head(3, whole)), s(head(5, whole)))
	wantBoth(t, true, 0, append(l, s(acks()), g(head(1, whole)), s(bytes(3, 0, 1)), s(head(5, ends|whole)))...)
	wantBoth(t, true, refused, append(l, s(acks()), s(head(7, whole)))...)
	wantBoth(t, true, refused, append(l, s(acks()), s(resets(1)), s(resets(3)), s(head(7, whole)))...)
	wantBoth(t, true, 0, append(l, s(acks()), s(resets(1)), s(resets(3)), s(resets(5)), s(head(7, whole)))...)
	// Allowed again.
	wantBoth(t, true, 0, append(l, s(acks()), g(list(param(3, 4))), s(acks()), s(head(7, whole)))...)
	wantBoth(t, true, refused, append(l, s(acks()), g(list(param(3, 4))), s(head(7, whole)))...)
	wantBoth(t, true, refused, append(l, s(acks()), g(list(param(3, 3))), s(acks()), s(head(7, whole)))...)
	// What an end allows is not what it may open itself.
	other := []api.Entry{s(list(param(3, 0))), g(list()), s(acks()), g(acks())}
	wantBoth(t, true, 0, append(other, s(head(1, whole)), s(head(3, whole)))...)
	wantBoth(t, true, refused, append(other, s(head(1, whole)), g(promises(1, 2)), g(head(2, whole)))...)
	// The greatest number that a list can tell.
	for _, n := range []int64{top, 1 << 31, 1<<32 - 1} {
		wantBoth(t, true, 0, append(allows(n), s(head(1, whole)), s(head(top, whole)))...)
	}
	// Of two in one list the last counts.
	two := []api.Entry{s(list()), g(list(param(3, 0), param(3, 1))), s(acks()), s(head(1, whole))}
	wantBoth(t, true, 0, two...)
	wantBoth(t, true, refused, append(two, s(head(3, whole)))...)
}

// TestManyStreams: hundreds at once, at what is allowed and above.
func TestManyStreams(t *testing.T) {
	for _, most := range []int64{199, 200, 201, top} {
		l := allows(most)
		for i := range int64(200) {
			l = append(l, s(head(2*i+1, whole)))
		}
		at, code := -1, int64(0)
		if most < 200 {
			at, code = len(l)-1, refused
		}
		wantCheck(t, "P24.1", true, at, code, l)
		wantCheck(t, "P24.1", false, at, code, turned(l))
	}
	// Many that were reset are in nobody's way.
	l := allows(2)
	for i := range int64(300) {
		l = append(l, s(head(2*i+1, whole)), went(i%2 == 0, resets(2*i+1)))
	}
	l = append(l, s(head(1001, whole)), s(head(1003, whole)))
	wantCheck(t, "P24.1", true, -1, 0, l)
	wantCheck(t, "P24.1", true, len(l), refused, append(l, s(head(1005, whole))))
}

// TestGoAwaySent: nothing may stand behind it, of either way.
func TestGoAwaySent(t *testing.T) {
	for _, client := range []bool{true, false} {
		wantLast(t, client, 0, append(met(), s(leaves()))...)
		for _, f := range append(rightFrames(), leaves(), api.Frame{Type: -1}) {
			for _, sent := range []bool{true, false} {
				wantLast(t, client, protocol, append(met(s(leaves())), went(sent, f))...)
			}
		}
		wantAt(t, client, 5, protocol, append(met(s(leaves())), s(list()), s(list()))...)
		for _, code := range []int64{0, 1, 1<<32 - 1} {
			wantBoth(t, client, 0, append(met(), s(api.Frame{Type: goAway, Last: top, Code: code, Data: "why"}))...)
		}
	}
}

// TestGoAwayGot: no stream is begun behind it, neither by HEADERS nor by a promise; all
// else goes on.
func TestGoAwayGot(t *testing.T) {
	asks := met(s(head(1, whole)), g(leaves()))
	wantLast(t, true, protocol, append(asks, s(head(3, whole)))...)
	wantLast(t, true, protocol, append(asks, s(head(3, ends|whole)))...)
	wantTaken(t, true, append(asks, s(bytes(1, 0, 3)), s(head(1, ends|whole)), g(promises(1, 2)), g(head(2, whole)), s(gives(2, 1)), s(resets(2)), g(head(1, ends|whole)), s(list()), s(pings("12345678")))...)
	wantTaken(t, true, append(asks, g(leaves()), g(leaves()), s(leaves()))...)
	answers := met(g(head(1, ends|whole)), s(promises(1, 2)), g(leaves()))
	wantLast(t, false, protocol, append(answers, s(promises(1, 4)))...)
	wantLast(t, false, protocol, append(answers, s(head(4, whole)))...)
	wantTaken(t, false, append(answers, s(head(2, whole)), s(bytes(2, ends, 5)), s(head(1, whole)), g(gives(0, 1)), g(head(3, whole)), s(head(3, ends|whole)))...)
	// At a client no HEADERS of what was got are begun by it.
	wantTaken(t, true, append(turned(answers[:len(answers)-1]), g(leaves()), g(head(2, whole)))...)
	for _, client := range []bool{true, false} {
		l := append(met(), g(leaves()))
		wantTaken(t, client, slices.Concat(l, []api.Entry{s(orders(9)), s(gives(0, 4)), g(list()), s(acks()), s(api.Frame{Type: 12, Stream: 5})})...)
	}
}
