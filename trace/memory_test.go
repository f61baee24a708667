package trace_test

import (
	"math/rand"
	"reflect"
	"runtime"
	"slices"
	"sync"
	"testing"
	"unsafe"

	"herald/api"
	"herald/lists"
	"herald/trace"
)

// someLogs are taken ones and refused ones, with lists of params in them.
func someLogs() map[bool][][]api.Entry {
	r := rand.New(rand.NewSource(247))
	all, tried := map[bool][][]api.Entry{}, map[string]int{}
	for i := range 60 {
		m := newMaker(i%2 == 0, r, 1, tried)
		all[m.client] = append(all[m.client], m.log(40))
	}
	for _, client := range []bool{true, false} {
		l := []api.Entry{s(list(param(4, 9), param(3, 2))), g(list(param(4, 9), param(3, 2))), s(acks()), g(acks()), s(list(param(4, 1), param(5, 2)))}
		all[client] = append(all[client], l, l[:4], nil)
	}
	all[true] = append(all[true], firstExample())
	return all
}

// copied is a log that shares no list with another.
func copied(l []api.Entry) []api.Entry {
	l = slices.Clone(l)
	for i := range l {
		l[i].F.Params = slices.Clone(l[i].F.Params)
	}
	return l
}

// unfolded is a log with all the room that the lists in it have.
func unfolded(l []api.Entry) []api.Entry {
	l = slices.Clone(l)
	for i := range l {
		f := &l[i].F
		f.Params = slices.Clone(f.Params[:cap(f.Params)])
	}
	return l
}

// TestNothingIsChanged: neither the log nor what stands behind it, nor the lists in it
// and what stands behind those.
func TestNothingIsChanged(t *testing.T) {
	for client, logs := range someLogs() {
		for _, l := range logs {
			at, j := modelCheck(l, client)
			room := slices.Concat(l, []api.Entry{s(leaves()), g(list(param(1, 2))), {}})
			for i := range room {
				f := &room[i].F
				f.Params = slices.Concat(f.Params, []api.Param{{ID: 77, Value: 7}, {ID: 78, Value: 8}})[:len(f.Params)]
			}
			before := unfolded(room)
			wantCheck(t, "P24.1", client, at, j.code, room[:len(l)])
			if !reflect.DeepEqual(unfolded(room), before) {
				t.Fatalf("P24.1: it is changed: %s", shown(l, client))
			}
		}
	}
}

// TestNothingIsKept: what is written over behind a Check is in no later one.
func TestNothingIsKept(t *testing.T) {
	want := firstExample()
	for client, logs := range someLogs() {
		for _, l := range logs {
			at, j := modelCheck(l, client)
			lent, texts := copied(l), [][]byte{}
			for i := range lent {
				f := &lent[i].F
				if f.Data != "" {
					b := []byte(f.Data)
					texts = append(texts, b)
					f.Data = unsafe.String(&b[0], len(b))
				}
			}
			wantCheck(t, "P24.1", client, at, j.code, lent)
			for i := range lent {
				lists.Scribble(lent[i].F.Params, api.Param{ID: 4, Value: 1})
			}
			for _, b := range texts {
				lists.Scribble(b, '#')
			}
			lists.Scribble(lent, g(leaves()))
			wantCheck(t, "P24.1", client, at, j.code, l)
			wantCheck(t, "P24.1", true, -1, 0, want)
		}
	}
}

// TestLogsApart: one log says nothing of another, in any order, and a log that is
// asked of twice has the same answer.
func TestLogsApart(t *testing.T) {
	type ask struct {
		l      []api.Entry
		client bool
		at     int
		code   int64
	}
	var all []ask
	for client, logs := range someLogs() {
		for _, l := range logs {
			at, j := modelCheck(l, client)
			all = append(all, ask{l, client, at, j.code})
		}
	}
	r := rand.New(rand.NewSource(248))
	for range 600 {
		x := oneOf(r, all...)
		wantCheck(t, "P24.1", x.client, x.at, x.code, x.l)
	}
	// Beside one another, of the same lists.
	var group sync.WaitGroup
	for range 8 {
		group.Go(func() {
			for _, x := range all {
				if at, code := trace.Check(x.l, x.client); at != x.at || code != x.code {
					t.Errorf("P24.1: beside others: Check = %d, %d, want %d, %d", at, code, x.at, x.code)
				}
			}
		})
	}
	group.Wait()
}

func heap() uint64 {
	runtime.GC()
	runtime.GC()
	var m runtime.MemStats
	runtime.ReadMemStats(&m)
	return m.HeapAlloc
}

// TestNoRoomIsLeft: many logs leave nothing behind.
func TestNoRoomIsLeft(t *testing.T) {
	ask := func() {
		l := met()
		for i := range int64(2000) {
			l = append(l, s(of(head(2*i+1, whole), 900)), s(pings("12345678")), s(resets(2*i+1)))
		}
		wantCheck(t, "P24.1", true, -1, 0, l)
	}
	ask()
	used := heap()
	for range 20 {
		ask()
	}
	if now := heap(); now > used+1<<20 {
		t.Errorf("P24.1: %d bytes are kept", now-used)
	}
}

// TestLongLogs: of very many entries, streams, PINGs and lists.
func TestLongLogs(t *testing.T) {
	l := met()
	for i := range int64(40000) { // all of them live
		l = append(l, s(head(2*i+1, whole)))
	}
	for i := range int64(40000) {
		l = append(l, s(bytes(2*i+1, ends, 1)), g(gives(0, 1)), g(promises(2*i+1, 2*i+2)), g(head(2*i+1, ends|whole)))
	}
	for range 10000 {
		l = append(l, s(list(param(4, 7))), g(acks()), g(pings("12345678")))
	}
	for range 10000 {
		l = append(l, s(pongs("12345678")))
	}
	wantCheck(t, "P24.1", true, -1, 0, l)
	wantCheck(t, "P24.1", false, -1, 0, turned(l))
	wantCheck(t, "P24.1", true, len(l), protocol, append(l, s(pongs("12345678"))))
	few := allows(100)
	for i := range int64(8000) { // those that were reset stay known
		few = append(few, s(head(2*i+1, whole)), s(resets(2*i+1)))
	}
	wantCheck(t, "P24.1", true, len(few), closing, append(few, s(gives(1, 1))))
}
