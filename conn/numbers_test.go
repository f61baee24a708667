package conn_test

import (
	"testing"

	"herald/api"
)

// bear lets a stream of ours be born in both.
func (b *both) bear(id int64) {
	b.t.Helper()
	b.note("born: %d", id)
	b.c.Bear(id)
	kind := promiseKind
	if b.m.client {
		kind = headersKind
	}
	b.m.sends(id, kind)
	b.look()
}

// TestLastNumbers: the last number of ours is used, and then none is left.
func TestLastNumbers(t *testing.T) {
	c := standing(t, true, param(6, 200))
	c.bear(top - 2)
	if id := c.mustOpen(true); id != top {
		t.Errorf("P21.1: %s: %d, want %d", c.history(), id, int64(top))
	}
	for _, fields := range [][]api.Field{request(), listOf(201)} {
		_, _, e := c.open(fields, true)
		c.want(e, api.ErrFull)
	}
	c.wantState(1, closed)
	c.wantRecv(bytes(headersFrame(top, answerBlock, true)), headEvent(top, answer(), true))
	s := sender(t, false, param(6, 200))
	s.bear(top - 3)
	if id := s.mustPromise(1); id != top-1 {
		t.Errorf("P21.1: %s: %d, want %d", s.history(), id, int64(top-1))
	}
	_, _, e := s.promise(1, request())
	s.want(e, api.ErrFull)
	_, _, e = s.promise(1, listOf(201)) // the list comes first here
	s.want(e, api.ErrList)
	_, _, e = s.promise(3, request())
	s.want(e, api.ErrState)
	s.mustHead(top-1, true)
}

// TestTheirLastNumbers: the greatest streams that can come.
func TestTheirLastNumbers(t *testing.T) {
	s := standing(t, false)
	s.wantRecv(bytes(headersFrame(top, requestBlock, false)), headEvent(top, request(), false))
	s.mustPromise(top)
	s.wantRecv(bytes(dataFrame(top, "ab", true)), dataEvent(top, "ab", true))
	s.wantRecv(bytes(headersFrame(top-2, requestBlock, false)), deadEvent(streamOver))
	s.wantControl(windowFrame(0, 2), goAwayFrame(top, streamOver))
	c := sender(t, true)
	c.wantRecv(bytes(promiseFrame(1, top-1, requestBlock)), promiseEvent(1, top-1, request()))
	c.wantRecv(bytes(headersFrame(top-1, answerBlock, true)), headEvent(top-1, answer(), true))
	c.wantRecv(bytes(headersFrame(2, answerBlock, true)), deadEvent(streamOver))
	c.wantControl(goAwayFrame(top-1, streamOver))
}
