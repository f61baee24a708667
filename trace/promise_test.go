package trace_test

import (
	"testing"

	"herald/api"
)

// TestPushOff: a promise may come till it is acknowledged that none may.
func TestPushOff(t *testing.T) {
	off, on := list(param(2, 0)), list(param(2, 1))
	asked := s(head(1, ends|whole))
	l := []api.Entry{s(off), g(list()), asked}
	wantBoth(t, true, 0, append(l, g(promises(1, 2)))...)
	wantBoth(t, true, protocol, append(l, g(acks()), g(promises(1, 2)))...)
	wantBoth(t, true, 0, append(l, g(promises(1, 2)), g(acks()), g(head(2, ends|whole)))...)
	wantBoth(t, true, protocol, append(l, g(promises(1, 2)), g(acks()), g(promises(1, 4)))...)
	// The client's own acknowledgement says nothing of it.
	wantBoth(t, true, 0, append(l, s(acks()), g(promises(1, 2)))...)
	// On again.
	wantBoth(t, true, protocol, append(l, g(acks()), s(on), g(promises(1, 2)))...)
	wantBoth(t, true, 0, append(l, g(acks()), s(on), g(acks()), g(promises(1, 2)))...)
	// Each list by its own acknowledgement.
	two := []api.Entry{s(list()), s(off), g(list()), asked, g(acks())}
	wantBoth(t, true, 0, append(two, g(promises(1, 2)))...)
	wantBoth(t, true, protocol, append(two, g(acks()), g(promises(1, 2)))...)
	wantBoth(t, true, 0, append([]api.Entry{s(list(param(2, 0), param(2, 1))), g(list()), asked, g(acks())}, g(promises(1, 2)))...)
	wantBoth(t, true, protocol, append([]api.Entry{s(list(param(2, 1), param(2, 0))), g(list()), asked, g(acks())}, g(promises(1, 2)))...)
	// What a server says of pushing is of no account to what it sends.
	wantBoth(t, true, 0, s(list()), g(off), s(acks()), asked, g(promises(1, 2)))
	wantBoth(t, true, protocol, s(list()), g(off), s(acks()), asked, s(promises(1, 2)))
}

// TestWhereAPromiseStands: on an odd stream, open or half closed by the other end.
func TestWhereAPromiseStands(t *testing.T) {
	for _, x := range situations() {
		l := met(x.log...)
		f := promises(x.id, 6)
		sends, gets := int64(x.serverSends[4]-'0'), int64(x.clientGets[4]-'0')
		wantLast(t, false, sends, append(turned(l), s(f))...)
		wantLast(t, true, gets, append(l, g(f))...)
		isOpen := x.atServer == open || x.atServer == halfRemote
		if (sends == 0) != (isOpen && x.id%2 == 1) {
			t.Errorf("P24.4: %s: a server's promise on %d: %d", x.name, x.id, sends)
		}
	}
	for _, on := range []int64{1, 2, 3, 4, 5, 7, 100, top - 1, top} {
		l := met(s(head(5, ends|whole)), g(promises(5, 2)))
		code := int64(protocol)
		if on == 5 {
			code = 0
		}
		wantBoth(t, true, code, append(l, g(promises(on, 4)))...)
	}
	// Behind the answer's end none may stand; on one that was shut one may come.
	over := met(s(head(1, ends|whole)), g(head(1, ends|whole)))
	wantBoth(t, true, protocol, append(over, g(promises(1, 2)))...)
	wantLast(t, true, 0, append(over, s(resets(1)), g(promises(1, 2)))...)
	wantLast(t, false, closing, append(turned(over), s(resets(1)), s(promises(1, 2)))...)
	wantLast(t, true, closing, append(over, s(resets(1)), g(resets(1)), g(promises(1, 2)))...)
	// A client promises nothing, a server gets no promise.
	for _, l := range [][]api.Entry{met(s(head(1, whole))), met(s(head(1, whole)), g(head(1, ends|whole))), met(s(head(1, whole)), g(promises(1, 2)), g(head(2, whole)))} {
		for _, id := range []int64{1, 2, 3, 4, 5, 8} {
			for _, on := range []int64{1, 2, 3} {
				wantBoth(t, true, protocol, append(l, s(promises(on, id)))...)
			}
		}
	}
}

// TestPromisedNumbers: even ones that rise.
func TestPromisedNumbers(t *testing.T) {
	l := met(s(head(1, whole)), s(head(3, ends|whole)), g(promises(1, 6)))
	for _, id := range []int64{8, 10, 100, top - 1} {
		wantBoth(t, true, 0, append(l, g(promises(1, id)))...)
		wantBoth(t, true, 0, append(l, g(promises(3, id)))...)
	}
	for _, id := range []int64{0, 1, 2, 3, 4, 5, 6, 7, 9, 11, top} {
		wantBoth(t, true, protocol, append(l, g(promises(1, id)))...)
		wantBoth(t, true, protocol, append(l, g(promises(3, id)))...)
	}
	wantBoth(t, true, 0, append(l, g(promises(3, 8)), g(promises(1, 10)), g(promises(3, 12)))...)
	wantBoth(t, true, protocol, append(l, g(promises(3, 8)), g(promises(1, 8)))...)
	wantBoth(t, true, protocol, append(l, g(promises(1, top-1)), g(promises(1, 8)))...)
	// One that is over, reset or shut is not promised again.
	for _, e := range []api.Entry{g(head(6, ends|whole)), g(resets(6)), s(resets(6))} {
		wantLast(t, true, protocol, append(l, e, g(promises(1, 6)))...)
	}
	// A promise that is cut off is a birth all the same: its block comes later.
	cut := append(l, g(api.Frame{Type: promise, Stream: 1, Last: 8}))
	wantBoth(t, true, 0, append(cut, s(gives(8, 1)), g(more(1, whole)), g(head(8, whole)))...)
	wantBoth(t, true, 0, append(cut, s(resets(8)), g(more(1, whole)))...)
}

// TestPromisedPadding: neither padding nor bytes of a block are looked at.
func TestPromisedPadding(t *testing.T) {
	f := of(promises(1, 2), 30)
	f.Flags |= padded
	f.Pad = 200
	wantBoth(t, true, 0, append(met(s(head(1, whole))), g(f))...)
	wantBoth(t, true, 0, append(met(s(of(head(1, whole), 99))), g(f), g(of(head(2, whole), 99)))...)
}
