package trace_test

import (
	"fmt"
	"testing"

	"herald/api"
)

// TestParams: each wrong one, of a client and of a server, and those at the edges.
func TestParams(t *testing.T) {
	for _, x := range []struct {
		p              api.Param
		client, server int64
	}{
		{param(1, 0), 0, 0}, {param(1, 1<<32-1), 0, 0},
		{param(2, 0), 0, 0}, {param(2, 1), 0, 1}, {param(2, 2), 1, 1}, {param(2, 1<<32-1), 1, 1},
		{param(3, 0), 0, 0}, {param(3, 1<<32-1), 0, 0},
		{param(4, 0), 0, 0}, {param(4, top), 0, 0}, {param(4, top+1), 3, 3}, {param(4, 1<<32-1), 3, 3},
		{param(5, 0), 1, 1}, {param(5, 16383), 1, 1}, {param(5, 16384), 0, 0}, {param(5, 16777215), 0, 0}, {param(5, 16777216), 1, 1},
		{param(6, 0), 0, 0}, {param(6, 1<<32-1), 0, 0},
		{param(0, 1<<32-1), 0, 0}, {param(7, 5), 0, 0}, {param(65535, 1<<32-1), 0, 0},
	} {
		for _, l := range [][]api.Entry{nil, met()} {
			for _, f := range []api.Frame{list(x.p), list(param(1, 5), x.p), list(x.p, param(4, 1<<31)), list(x.p, param(5, 0))} {
				wantClient, wantServer := x.client, x.server
				if f.Params[0] == x.p && len(f.Params) > 1 { // another wrong one behind it
					behind := map[int]int64{4: 3, 5: 1}[f.Params[1].ID]
					if wantClient == 0 {
						wantClient = behind
					}
					if wantServer == 0 {
						wantServer = behind
					}
				}
				wantBoth(t, true, wantClient, append(l, s(f))...)
				wantBoth(t, false, wantServer, append(l, s(f))...)
			}
		}
	}
}

// TestManyLists: 63, 64 and 65 that wait, of each direction.
func TestManyLists(t *testing.T) {
	for _, client := range []bool{true, false} {
		var l []api.Entry
		for range 63 {
			l = append(l, s(list()))
		}
		wantBoth(t, client, 0, l...)
		l = append(l, s(list(param(4, 7))))
		wantBoth(t, client, 0, l...)
		wantBoth(t, client, calm, append(l, s(list()))...)
		wantBoth(t, client, protocol, append(l, s(list(param(5, 1))))...)
		// The other direction has its own 64.
		both := append(l, turned(l)...)
		wantBoth(t, client, 0, both...)
		wantBoth(t, client, calm, append(both, g(list()))...)
		wantBoth(t, client, calm, append(both, s(list()))...)
		// One that is acknowledged makes room for one.
		room := append(both, g(acks()))
		wantBoth(t, client, 0, append(room, s(list()))...)
		wantBoth(t, client, calm, append(room, s(list()), s(list()))...)
		wantBoth(t, client, calm, append(room, g(list()))...)
		// All may be acknowledged, and no more.
		for range 63 {
			room = append(room, g(acks()))
		}
		wantBoth(t, client, 0, room...)
		wantBoth(t, client, protocol, append(room, g(acks()))...)
		wantBoth(t, client, 0, append(room, s(acks()))...)
	}
}

// TestAcks: none without a list of the other direction.
func TestAcks(t *testing.T) {
	for _, client := range []bool{true, false} {
		wantBoth(t, client, protocol, append(met(), s(acks()))...)
		wantBoth(t, client, protocol, s(list()), s(acks()))
		wantBoth(t, client, protocol, s(list()), s(list()), s(acks()))
		wantBoth(t, client, 0, s(list()), g(list()), s(acks()))
		wantBoth(t, client, protocol, s(list()), g(list()), s(acks()), s(acks()))
		wantBoth(t, client, 0, s(list()), g(list()), g(list()), s(acks()), s(acks()))
		wantBoth(t, client, 0, s(list()), g(list()), s(acks()), g(list()), s(acks()))
		wantBoth(t, client, 0, s(list()), g(list()), g(acks()), s(acks()))
		wantBoth(t, client, protocol, s(list()), g(list()), g(acks()), s(acks()), g(acks()))
	}
}

// TestListsInOrder: each acknowledgement is that of the oldest.
func TestListsInOrder(t *testing.T) {
	l := []api.Entry{s(list()), g(list(param(4, 10))), g(list()), g(list(param(4, 20), param(3, 1))), g(list(param(4, 30))), s(head(1, whole))}
	for n, room := range []int{65535, 10, 10, 20, 30} {
		try := append([]api.Entry{}, l...)
		for range n {
			try = append(try, s(acks()))
		}
		what := fmt.Sprint("with ", n, " acknowledged")
		t.Run(what, func(t *testing.T) {
			if room < 16384 {
				wantBoth(t, true, flow, append(try, s(bytes(1, 0, room+1)))...)
				wantBoth(t, true, 0, append(try, s(bytes(1, 0, room)))...)
			}
			code := int64(0)
			if n >= 3 {
				code = refused
			}
			wantBoth(t, true, code, append(try, s(head(3, whole)))...)
		})
	}
}

// TestSettingsThatChangeNothing: tables and lists of fields are not looked at.
func TestSettingsThatChangeNothing(t *testing.T) {
	l := []api.Entry{s(list(param(1, 0), param(6, 0), param(99, 1))), g(list(param(1, 1<<32-1), param(6, 1))), s(acks()), g(acks())}
	wantBoth(t, true, 0, append(l, s(of(head(1, whole), 9000)), g(of(promises(1, 2), 9000)), s(bytes(1, 0, 16384)), g(of(head(2, whole), 100)))...)
}
