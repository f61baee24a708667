package server

import "herald/conn"

// Conn is the engine, for tests that bring it where no call of a server's can.
func (s *Server) Conn() *conn.Conn { return s.conn }
