package client

import "herald/conn"

// Conn is the engine, for tests that bring it where no call of a client's can.
func (c *Client) Conn() *conn.Conn { return c.conn }
