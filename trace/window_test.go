package trace_test

import (
	"slices"
	"testing"

	"herald/api"
)

// sends is a body of so many bytes, in frames of at most 16384.
func sends(id int64, n int) []api.Entry {
	var l []api.Entry
	for ; n > 16384; n -= 16384 {
		l = append(l, s(bytes(id, 0, 16384)))
	}
	return append(l, s(bytes(id, 0, n)))
}

// TestConnectionsWindow: its last byte, one more, and what is given.
func TestConnectionsWindow(t *testing.T) {
	// The streams' windows are greater, so that it alone counts.
	l := []api.Entry{s(list()), g(list(param(4, top))), s(acks()), s(head(1, whole)), s(head(3, whole)), g(head(1, whole))}
	full := slices.Concat(l, sends(1, 65535))
	wantBoth(t, true, 0, full...)
	wantBoth(t, true, 0, append(full, s(bytes(1, 0, 0)), s(bytes(3, ends, 0)), s(bytes(1, ends, 0)))...)
	wantBoth(t, true, flow, append(full, s(bytes(1, 0, 1)))...)
	wantBoth(t, true, flow, append(full, s(bytes(3, 0, 1)))...)
	wantBoth(t, true, flow, slices.Concat(l, sends(1, 65535-16384), []api.Entry{s(bytes(3, 0, 16383)), s(bytes(1, ends, 2))})...)
	// The other way has its own.
	wantBoth(t, true, 0, append(full, g(bytes(1, 0, 16384)))...)
	// Given by the other end, to the connection alone.
	wantBoth(t, true, 0, append(full, g(gives(0, 3)), s(bytes(3, 0, 2)), s(bytes(1, 0, 1)))...)
	wantBoth(t, true, flow, append(full, g(gives(0, 3)), s(bytes(3, 0, 2)), s(bytes(1, 0, 2)))...)
	wantBoth(t, true, flow, append(full, g(gives(1, 3)), s(bytes(1, 0, 1)))...)
	wantBoth(t, true, flow, append(full, s(gives(0, 3)), s(bytes(1, 0, 1)))...)
	// Settings don't move it.
	more := append(slices.Clone(full), g(list(param(4, 100000))), s(acks()))
	wantBoth(t, true, flow, append(more, s(bytes(1, 0, 1)))...)
	// What crossed a reset counts too.
	late := append(turned(full), s(resets(1)))
	wantLast(t, false, flow, append(late, g(bytes(1, 0, 1)))...)
	wantLast(t, false, 0, append(late, g(bytes(1, 0, 0)))...)
	wantLast(t, false, 0, append(late, s(gives(0, 10)), g(bytes(1, 0, 6)), g(bytes(1, ends, 4)))...)
	wantLast(t, false, flow, append(late, s(gives(0, 10)), g(bytes(1, 0, 6)), g(bytes(1, ends, 5)))...)
}

// TestStreamsWindow: its last byte, one more, and what is given; each has its own.
func TestStreamsWindow(t *testing.T) {
	for _, first := range []int64{0, 1, 100, 16000} {
		n := int(first)
		l := []api.Entry{s(list()), g(list(param(4, first))), s(acks()), s(head(1, whole)), s(head(3, whole)), g(head(1, whole))}
		full := append(l, s(bytes(1, 0, n)))
		wantBoth(t, true, 0, full...)
		wantBoth(t, true, flow, append(l, s(bytes(1, 0, n+1)))...)
		wantBoth(t, true, flow, append(full, s(bytes(1, 0, 1)))...)
		wantBoth(t, true, flow, append(full, s(bytes(1, ends, 1)))...)
		wantBoth(t, true, 0, append(full, s(bytes(1, 0, 0)), s(bytes(1, ends, 0)))...)
		wantBoth(t, true, 0, append(full, s(bytes(3, ends, n)))...)
		wantBoth(t, true, flow, append(full, s(bytes(3, 0, n+1)))...)
		wantBoth(t, true, 0, append(full, g(bytes(1, 0, 16000)))...) // the other way's is another
		wantBoth(t, true, 0, append(full, g(gives(1, 2)), s(bytes(1, 0, 1)), s(bytes(1, 0, 1)))...)
		wantBoth(t, true, flow, append(full, g(gives(1, 2)), s(bytes(1, 0, 1)), s(bytes(1, 0, 2)))...)
		wantBoth(t, true, flow, append(full, g(gives(3, 2)), g(gives(0, 2)), s(bytes(1, 0, 1)))...)
		wantBoth(t, true, flow, append(full, s(gives(1, 2)), s(bytes(1, 0, 1)))...)
	}
}

// TestPadding: what padding takes, and that its flag alone takes one.
func TestPadding(t *testing.T) {
	for _, pad := range []int{0, 1, 255} {
		for _, n := range []int{0, 1, 700} {
			f := bytes(1, padded, n)
			f.Pad = pad
			all := int64(n + 1 + pad)
			l := []api.Entry{s(list()), g(list(param(4, all))), s(acks()), s(head(1, whole))}
			wantBoth(t, true, 0, append(l, s(f))...)
			wantBoth(t, true, flow, append(l, s(f), s(bytes(1, 0, 1)))...)
			short := []api.Entry{s(list()), g(list(param(4, all-1))), s(acks()), s(head(1, whole))}
			wantBoth(t, true, flow, append(short, s(f))...)
			wantBoth(t, true, 0, append(short, g(gives(1, 1)), s(f))...)
			// And of the connection's.
			wide := slices.Concat([]api.Entry{s(list()), g(list(param(4, top))), s(acks()), s(head(1, whole))}, sends(1, 65535-int(all)))
			wantBoth(t, true, 0, append(wide, s(f))...)
			wantBoth(t, true, flow, append(wide, s(bytes(1, 0, 1)), s(f))...)
			wantBoth(t, true, flow, append(wide, s(f), s(bytes(1, 0, 1)))...)
		}
	}
	// HEADERS take nothing, padded or not.
	h := of(head(1, whole|padded), 5000)
	h.Pad = 255
	wantBoth(t, true, 0, s(list()), g(list(param(4, 0))), s(acks()), s(h), s(h))
}

// TestWhichWindowAStreamBeginsWith: what is in force at its birth, by HEADERS or by a
// promise.
func TestWhichWindowAStreamBeginsWith(t *testing.T) {
	low := g(list(param(4, 5)))
	wantBoth(t, true, 0, s(list()), low, s(head(1, whole)), s(bytes(1, 0, 6)), s(acks()))
	wantBoth(t, true, flow, s(list()), low, s(acks()), s(head(1, whole)), s(bytes(1, 0, 6)))
	wantBoth(t, true, flow, s(list()), low, s(head(1, whole)), s(acks()), s(bytes(1, 0, 6)))
	// A promised one at its promise; what is changed between that and its HEADERS moves
	// it.
	asked := []api.Entry{g(list()), s(list()), g(head(1, ends|whole))}
	pushed := append(asked, g(list(param(4, 5))), s(acks()), s(promises(1, 2)), s(acks()))
	wantBoth(t, false, flow, append(pushed, s(head(2, whole)), s(bytes(2, 0, 6)))...)
	wantBoth(t, false, 0, append(pushed, s(head(2, whole)), s(bytes(2, 0, 5)))...)
	wantBoth(t, false, 0, append(pushed, g(gives(2, 1)), s(head(2, whole)), s(bytes(2, ends, 6)))...)
	wantBoth(t, false, flow, append(pushed, g(list(param(4, 4))), s(acks()), s(head(2, whole)), s(bytes(2, 0, 5)))...)
	wantBoth(t, false, 0, append(pushed, g(list(param(4, 8))), s(acks()), s(head(2, whole)), s(bytes(2, 0, 8)))...)
	// What a client says is what may come to it.
	mine := []api.Entry{s(list(param(4, 5))), g(list()), s(head(1, whole)), g(acks()), g(head(1, whole))}
	wantBoth(t, true, flow, append(mine, g(bytes(1, 0, 6)))...)
	wantBoth(t, true, 0, append(mine, g(bytes(1, 0, 5)), s(bytes(1, 0, 6)))...)
}

// TestMovedWindows: lowered below 0 and raised again, by settings and by updates.
func TestMovedWindows(t *testing.T) {
	l := met(s(head(1, whole)), s(bytes(1, 0, 100)))
	below := append(l, g(list(param(4, 10))), s(acks())) // 10 - 100
	wantBoth(t, true, 0, append(below, s(bytes(1, 0, 0)))...)
	wantBoth(t, true, flow, append(below, s(bytes(1, 0, 1)))...)
	wantBoth(t, true, flow, append(below, g(gives(1, 90)), s(bytes(1, 0, 1)))...)
	wantBoth(t, true, 0, append(below, g(gives(1, 91)), s(bytes(1, 0, 1)))...)
	wantBoth(t, true, flow, append(below, g(gives(1, 91)), s(bytes(1, 0, 2)))...)
	wantBoth(t, true, flow, append(below, g(list(param(4, 100))), s(acks()), s(bytes(1, 0, 1)))...)
	wantBoth(t, true, 0, append(below, g(list(param(4, 101))), s(acks()), s(bytes(1, 0, 1)))...)
	wantBoth(t, true, flow, append(below, g(list(param(4, 101))), s(bytes(1, 0, 1)))...)
	wantBoth(t, true, 0, append(below, g(list(param(4, 0))), s(acks()), g(list(param(4, 200))), s(acks()), s(bytes(1, 0, 100)))...)
	wantBoth(t, true, flow, append(below, g(list(param(4, 0))), s(acks()), g(list(param(4, 200))), s(acks()), s(bytes(1, 0, 101)))...)
	// Of one list the last counts, and the difference to what was.
	wantBoth(t, true, 0, append(l, g(list(param(4, 0), param(4, top), param(4, 101))), s(acks()), s(bytes(1, 0, 1)))...)
	wantBoth(t, true, flow, append(l, g(list(param(4, 0), param(4, top), param(4, 101))), s(acks()), s(bytes(1, 0, 2)))...)
	// A list without it moves nothing.
	wantBoth(t, true, 0, append(below, g(list(param(3, 9), param(9, 9))), s(acks()), g(gives(1, 100)), s(bytes(1, 0, 10)))...)
	wantBoth(t, true, flow, append(below, g(list(param(3, 9), param(9, 9))), s(acks()), g(gives(1, 100)), s(bytes(1, 0, 11)))...)
	// All that live are moved: promised ones, half closed ones too.
	both := met(g(head(1, ends|whole)), s(head(1, whole)), s(promises(1, 2)), g(head(3, whole)), g(list(param(4, 7))), s(acks()))
	for _, id := range []int64{1, 2, 3} {
		wantBoth(t, false, 0, append(both, s(head(id, whole)), s(bytes(id, 0, 7)))...)
		wantBoth(t, false, flow, append(both, s(head(id, whole)), s(bytes(id, 0, 8)))...)
		// The way to this end has its own.
		wantBoth(t, false, 0, append(both, g(bytes(3, 0, 5000)))...)
	}
}

// TestAboveTheGreatest: a window that would come above api.MaxWindow.
func TestAboveTheGreatest(t *testing.T) {
	for _, client := range []bool{true, false} {
		wantBoth(t, client, 0, append(met(), s(gives(0, top-65535)))...)
		wantBoth(t, client, flow, append(met(), s(gives(0, top-65534)))...)
		wantBoth(t, client, flow, append(met(), s(gives(0, top)))...)
		wantBoth(t, client, flow, append(met(), s(gives(0, top-65535)), s(gives(0, 1)))...)
		wantBoth(t, client, 0, append(met(), s(gives(0, top-65535)), g(gives(0, top-65535)))...)
	}
	l := met(s(head(1, whole)), s(head(3, whole)))
	wantBoth(t, true, 0, append(l, s(gives(1, top-65535)), g(gives(1, top-65535)), s(gives(3, top-65535)))...)
	wantBoth(t, true, flow, append(l, s(gives(1, top-65534)))...)
	wantBoth(t, true, flow, append(l, g(gives(1, top-65534)))...)
	wantBoth(t, true, flow, append(l, g(gives(1, top-65535)), g(gives(1, 1)))...)
	// What was taken may be given back.
	wantBoth(t, true, 0, append(l, g(gives(1, top-65535)), s(bytes(1, 0, 9)), g(gives(1, 9)))...)
	wantBoth(t, true, flow, append(l, g(gives(1, top-65535)), s(bytes(1, 0, 9)), g(gives(1, 10)))...)
	wantBoth(t, true, 0, append(l, g(gives(0, top-65535)), s(bytes(1, 0, 9)), g(gives(0, 9)))...)
	wantBoth(t, true, flow, append(l, g(gives(0, top-65535)), s(bytes(1, 0, 9)), g(gives(0, 10)))...)
	// Raised by settings: told where they are acknowledged.
	given := append(l, g(gives(3, 2)))
	wantBoth(t, true, 0, append(given, g(list(param(4, top-2))), s(acks()))...)
	wantBoth(t, true, 0, append(given, g(list(param(4, top-1))))...)
	wantBoth(t, true, flow, append(given, g(list(param(4, top-1))), s(acks()))...)
	wantBoth(t, true, flow, append(given, g(list(param(4, top))), s(acks()))...)
	wantBoth(t, true, 0, append(l, g(list(param(4, top))), s(acks()))...)
	wantBoth(t, true, flow, append(l, g(list(param(4, top))), s(acks()), g(gives(3, 1)))...)
	// What is moved on its way and what is not: an update ahead of the acknowledgement.
	wantBoth(t, true, flow, append(l, g(list(param(4, top-1))), g(gives(1, 2)), s(acks()))...)
	wantBoth(t, true, 0, append(l, g(list(param(4, 0))), g(gives(1, top-65535)), s(acks()))...)
	wantBoth(t, true, 0, append(l, g(list(param(4, 0))), s(acks()), g(gives(1, top)))...)
	// One that is closed is not moved.
	for _, e := range []api.Entry{s(resets(3)), g(resets(3))} {
		wantBoth(t, true, 0, append(given, e, g(list(param(4, top))), s(acks()))...)
	}
	over := append(given, s(bytes(3, ends, 0)), g(head(3, ends|whole)))
	wantBoth(t, true, 0, append(over, g(list(param(4, top))), s(acks()))...)
	half := append(given, s(bytes(3, ends, 0)))
	wantBoth(t, true, flow, append(half, g(list(param(4, top))), s(acks()))...)
	// A promised one is.
	pushed := met(s(head(1, whole)), g(promises(1, 2)), s(gives(2, 1)))
	wantBoth(t, true, flow, append(pushed, s(list(param(4, top))), g(acks()))...)
	wantBoth(t, true, 0, append(pushed, s(list(param(4, top-1))), g(acks()))...)
	wantBoth(t, true, flow, append(pushed, s(list(param(4, top-1))), g(acks()), s(gives(2, 1)))...)
}

// TestLeastWindow: all is taken of the greatest window, which is then lowered to 0: it
// is as far below that as one can be.
func TestLeastWindow(t *testing.T) {
	piece := of(api.Frame{Type: data, Stream: 1}, 65536)
	l := []api.Entry{s(list()), g(list(param(4, top), param(5, 65536))), s(acks()), s(head(1, whole)), g(gives(0, top-65535))}
	for range 32767 {
		l = append(l, s(piece))
	}
	l = append(l, s(of(api.Frame{Type: data, Stream: 1}, 65535)))
	l = append(l, g(gives(0, top)), g(list(param(4, 0))), s(acks()), g(gives(1, top)), g(gives(1, 1)), s(bytes(1, 0, 1)), g(gives(1, top)))
	wantCheck(t, "P24.1", true, len(l), flow, append(l, g(gives(1, 1))))
}

// TestUpdates: of nothing, of the connection, of streams that are idle, closed, shut.
func TestUpdates(t *testing.T) {
	for _, client := range []bool{true, false} {
		wantBoth(t, client, protocol, append(met(), s(gives(0, 0)))...)
		wantBoth(t, client, 0, append(met(), s(gives(0, 1)), g(gives(0, 1)))...)
		for _, id := range []int64{1, 2, 5, top} {
			wantBoth(t, client, protocol, append(met(), s(gives(id, 1)))...)
			wantBoth(t, client, protocol, append(met(), s(gives(id, 0)))...)
		}
	}
	over := met(s(head(1, ends|whole)), g(head(1, ends|whole)))
	wantBoth(t, true, 0, append(over, s(gives(1, top)), s(gives(1, top)), g(gives(1, top)), g(gives(1, top)))...)
	wantBoth(t, true, protocol, append(over, g(gives(1, 0)))...)
	shut := append(over, s(resets(1)))
	wantBoth(t, true, closing, append(shut, s(gives(1, 1)))...)
	wantLast(t, true, 0, append(shut, g(gives(1, top)), g(gives(1, top)))...)
	// A reserved one: the end to which it was promised may give, the other may not.
	pushed := met(s(head(1, whole)), g(promises(1, 2)))
	wantBoth(t, true, 0, append(pushed, s(gives(2, 5)))...)
	wantBoth(t, true, protocol, append(pushed, g(gives(2, 5)))...)
	// One that the other end has ended may be given still.
	half := met(s(head(1, whole)), g(head(1, ends|whole)))
	wantBoth(t, true, 0, append(half, s(gives(1, 5)), g(gives(1, 5)))...)
	wantBoth(t, true, flow, append(half, s(gives(1, top)))...)
}
