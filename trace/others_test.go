package trace_test

import (
	"testing"

	"herald/api"
)

// TestPings: each is answered once, with its own bytes, in the order in which they
// came.
func TestPings(t *testing.T) {
	a, b := "12345678", "abcdefgh"
	for _, client := range []bool{true, false} {
		wantBoth(t, client, 0, append(met(), s(pings(a)))...)
		wantBoth(t, client, 0, append(met(), s(pings(a)), g(pongs(a)))...)
		wantBoth(t, client, protocol, append(met(), s(pongs(a)))...)
		wantBoth(t, client, protocol, append(met(), s(pings(a)), s(pongs(a)))...)
		wantBoth(t, client, protocol, append(met(), s(pings(a)), g(pongs(b)))...)
		wantBoth(t, client, protocol, append(met(), s(pings(a)), g(pongs(a)), g(pongs(a)))...)
		wantBoth(t, client, 0, append(met(), s(pings(a)), s(pings(b)), g(pongs(a)), g(pongs(b)))...)
		wantBoth(t, client, protocol, append(met(), s(pings(a)), s(pings(b)), g(pongs(b)))...)
		wantBoth(t, client, protocol, append(met(), s(pings(a)), s(pings(b)), g(pongs(a)), g(pongs(a)))...)
		wantBoth(t, client, 0, append(met(), s(pings(a)), s(pings(a)), g(pongs(a)), g(pongs(a)))...)
		wantBoth(t, client, 0, append(met(), s(pings(a)), g(pings(b)), s(pongs(b)), g(pongs(a)))...)
		wantBoth(t, client, protocol, append(met(), s(pings(a)), g(pings(b)), s(pongs(a)))...)
		wantBoth(t, client, protocol, append(met(), s(pings(a)), g(pings(b)), g(pongs(b)))...)
		// One behind an answer waits as the first did.
		wantBoth(t, client, 0, append(met(), s(pings(a)), g(pongs(a)), s(pings(b)), g(pongs(b)))...)
		wantBoth(t, client, protocol, append(met(), s(pings(a)), g(pongs(a)), s(pings(b)), g(pongs(a)))...)
		// A setting's Ack is no PING's.
		wantBoth(t, client, protocol, append(met(), s(list()), g(pongs("\x00\x00\x00\x00\x00\x00\x00\x00")))...)
		wantBoth(t, client, protocol, append(met(), s(pings(a)), g(acks()))...)
		// Any bytes may stand in it.
		odd := "\x00\xff\x80\x00\x00\x00\x00\x01"
		wantBoth(t, client, 0, append(met(), s(pings(odd)), g(pongs(odd)))...)
		wantBoth(t, client, protocol, append(met(), s(pings(odd)), g(pongs("\x00\xff\x80\x00\x00\x00\x00\x00")))...)
	}
	// However many wait.
	var l []api.Entry
	for i := range 300 {
		l = append(l, s(pings("1234567"+string(rune('a'+i%26)))))
	}
	l = met(l...)
	for i := range 300 {
		l = append(l, g(pongs("1234567"+string(rune('a'+i%26)))))
	}
	wantCheck(t, "P24.1", true, -1, 0, l)
	wantCheck(t, "P24.1", true, len(l), protocol, append(l, g(pongs("1234567a"))))
	wantCheck(t, "P24.1", false, 304, protocol, append(l[:304:304], g(pongs("1234567b"))))
}

// TestOtherTypes: types that there are not may stand anywhere but inside a block.
func TestOtherTypes(t *testing.T) {
	for _, kind := range []int{10, 11, 12, 16, 99, 255} {
		for _, f := range []api.Frame{{Type: kind}, {Type: kind, Flags: 255, Stream: top, Data: "x"}, {Type: kind, Flags: 1, Stream: 1}, {Type: kind, Flags: 8, Stream: 2}} {
			for _, client := range []bool{true, false} {
				wantBoth(t, client, 0, append(met(), s(f), g(f))...)
				wantBoth(t, client, protocol, s(f))
			}
			wantBoth(t, true, protocol, append(met(s(head(1, 0))), s(f))...)
			wantBoth(t, true, 0, append(met(s(head(1, 0))), g(f), s(more(1, whole)), s(f))...)
			// It begins no stream, takes nothing and ends nothing.
			wantBoth(t, true, protocol, append(met(s(f)), s(resets(1)))...)
			wantBoth(t, true, 0, append(met(s(head(1, whole))), s(f), s(bytes(1, 0, 5)))...)
		}
	}
}

// TestPriority: of any stream, whatever its state; it begins none.
func TestPriority(t *testing.T) {
	for _, client := range []bool{true, false} {
		for _, id := range []int64{1, 2, 9, top} {
			for _, f := range []api.Frame{orders(id), {Type: priority, Stream: id, Dep: id, Excl: true, Weight: 256}} {
				wantBoth(t, client, 0, append(met(), s(f), g(f))...)
				wantBoth(t, client, protocol, append(met(), s(f), s(resets(id)))...)
				wantBoth(t, client, protocol, append(met(), s(f), g(gives(id, 1)))...)
			}
		}
	}
	wantBoth(t, true, 0, append(met(s(orders(9))), s(head(1, whole)), g(promises(1, 2)))...)
	// With it HEADERS are no other.
	f := head(1, whole|32)
	f.Dep, f.Weight = 7, 9
	wantBoth(t, true, 0, append(met(), s(f), s(f), s(bytes(1, ends, 1)))...)
	over := met(s(f), s(bytes(1, ends, 1)), s(f))
	wantLast(t, true, protocol, over...)
	wantLast(t, false, closing, turned(over)...)
}

// TestUnendedLogs: a log may end in the middle of a block, with lists and PINGs that
// wait, and streams that live.
func TestUnendedLogs(t *testing.T) {
	for _, client := range []bool{true, false} {
		wantTaken(t, client, s(list()))
		wantTaken(t, client, g(list()))
		wantTaken(t, client, append(met(), s(list(param(4, 9))), g(list()), s(pings("12345678")))...)
	}
	l := met(s(head(1, 0)), g(list()), s(more(1, 0)), g(pings("12345678")))
	wantBoth(t, true, 0, l...)
	wantBoth(t, true, 0, append(l, s(more(1, whole)), g(api.Frame{Type: promise, Stream: 1, Last: 2}))...)
}
